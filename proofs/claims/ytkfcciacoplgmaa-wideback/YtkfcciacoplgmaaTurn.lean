/- Units turned about, plain. -/
import Derived.Test.YtkfcciacoplgmaaGet
namespace Go.Proofs.Ytkfcciacoplgmaa.Wd
open Go.Proofs.Ytkfcciacoplgmaa.Ucs Go.Proofs.Ytkfcciacoplgmaa.Mem
set_option linter.unusedVariables false

/-- Where the byte that comes to j stood. -/
def rev (n j : Nat) : Nat := j / n * n + (n - 1 - j % n)
/-- Bytes of which the first m have been turned about. -/
def tn (n : Nat) (L : List UInt8) (m : Nat) : List UInt8 := (List.range L.length).map fun j => if j < m then L.getD (rev n j) 0 else L.getD j 0
theorem tn_length (n : Nat) (L : List UInt8) (m : Nat) : (tn n L m).length = L.length := by simp [tn]
theorem tn_zero (n : Nat) (L : List UInt8) : tn n L 0 = L := by
  apply List.ext_getElem
  · simp [tn]
  · intro i h1 h2
    simp [tn, h2]
theorem tn_at (n : Nat) (L : List UInt8) (m i : Nat) (h : i < (tn n L m).length) : (tn n L m)[i] = if i < m then L.getD (rev n i) 0 else L.getD i 0 := by simp [tn]
theorem tn_set (n : Nat) (L : List UInt8) (m : Nat) (h : m < L.length) : (tn n L m).set m (L.getD (rev n m) 0) = tn n L (m + 1) := by
  apply List.ext_getElem
  · simp [tn]
  · intro i h1 h2
    rw [List.getElem_set, tn_at]
    by_cases e : m = i
    · subst e
      rw [if_pos rfl, tn_at, if_pos (by omega)]
    · rw [if_neg e, tn_at]
      by_cases c : i < m
      · rw [if_pos c, if_pos (by omega)]
      · rw [if_neg c, if_neg (by omega)]
theorem tn_get (n : Nat) (L : List UInt8) (m j : Nat) (hj : j < L.length) (hm : j < m) : (tn n L m).getD j 0 = L.getD (rev n j) 0 := by
  unfold tn
  rw [List.getD_eq_getElem?_getD, List.getElem?_map, List.getElem?_range hj]
  simp [hm]
theorem rev_at (n q k : Nat) (hk : k < n) : rev n (n * q + k) = n * q + n - 1 - k := by
  unfold rev
  have h1 : (n * q + k) / n = q := by rw [Nat.mul_add_div (by omega), Nat.div_eq_of_lt hk]; omega
  have h2 : (n * q + k) % n = k := by rw [Nat.mul_add_mod, Nat.mod_eq_of_lt hk]
  rw [h1, h2, Nat.mul_comm]
  omega
theorem plainR_turn (p : Bool) (n : Nat) (L T : List UInt8) (md : Int) (hl : T.length = L.length) (h1 : n ≤ L.length → num false n L = num true n T) (h2 : p = true → n + n ≤ L.length → num false n (L.drop n) = num true n (T.drop n)) : plainR p false n L md = plainR p true n T md := by
  unfold plainR
  rw [hl]
  by_cases c : L.length < n
  · rw [if_pos c, if_pos c]
  · rw [if_neg c, if_neg c, h1 (by omega)]
    by_cases c1 : p = true ∧ hiB (num true n T : Int) = true
    · rw [if_pos c1, if_pos c1]
      by_cases c2 : L.length < n + n
      · rw [if_pos c2, if_pos c2]
      · rw [if_neg c2, if_neg c2, h2 c1.1 (by omega)]
    · rw [if_neg c1, if_neg c1]
theorem num2 (L : List UInt8) : num false 2 L = (L.getD 0 0).toNat * 256 + (L.getD 1 0).toNat ∧ num true 2 L = (L.getD 1 0).toNat * 256 + (L.getD 0 0).toNat := by
  simp [num, acc, pl]
theorem num4 (L : List UInt8) : num false 4 L = (((L.getD 0 0).toNat * 256 + (L.getD 1 0).toNat) * 256 + (L.getD 2 0).toNat) * 256 + (L.getD 3 0).toNat ∧ num true 4 L = (((L.getD 3 0).toNat * 256 + (L.getD 2 0).toNat) * 256 + (L.getD 1 0).toNat) * 256 + (L.getD 0 0).toNat := by
  simp [num, acc, pl]
theorem getD_drop (L : List UInt8) (n j : Nat) : (L.drop n).getD j 0 = L.getD (n + j) 0 := by
  rw [List.getD_eq_getElem?_getD, List.getElem?_drop, ← List.getD_eq_getElem?_getD]
theorem turn2 (p : Bool) (L : List UInt8) (q : Nat) (hq : L.length < 2 * q + 2) (hq2 : 2 * q ≤ L.length) (md : Int) : plainR p false 2 L md = plainR p true 2 (tn 2 L (2 * q)) md := by
  refine plainR_turn p 2 L _ md (tn_length _ _ _) (fun h => ?_) (fun _ h => ?_)
  · rw [(num2 L).1, (num2 _).2, tn_get _ _ _ 0 (by omega) (by omega), tn_get _ _ _ 1 (by omega) (by omega)]
    simp [rev]
  · rw [(num2 _).1, (num2 _).2, getD_drop, getD_drop, getD_drop, getD_drop, tn_get _ _ _ (2 + 0) (by omega) (by omega), tn_get _ _ _ (2 + 1) (by omega) (by omega)]
    simp [rev]
theorem turn4 (L : List UInt8) (q : Nat) (hq : L.length < 4 * q + 4) (hq2 : 4 * q ≤ L.length) (md : Int) : plainR false false 4 L md = plainR false true 4 (tn 4 L (4 * q)) md := by
  refine plainR_turn false 4 L _ md (tn_length _ _ _) (fun h => ?_) (fun h => by cases h)
  rw [(num4 L).1, (num4 _).2, tn_get _ _ _ 0 (by omega) (by omega), tn_get _ _ _ 1 (by omega) (by omega), tn_get _ _ _ 2 (by omega) (by omega), tn_get _ _ _ 3 (by omega) (by omega)]
  simp [rev]
theorem getR_bare {k : Int} {n : Nat} {p low : Bool} (hf : fm k = some (n, p, false, low)) (L : List UInt8) : getR k 0 0 0 0 L = plainR p low n L 0 := by
  have h0 : fitB false 0 0 0 0 = true := by decide
  simp only [getR, hf, h0]
  simp
end Go.Proofs.Ytkfcciacoplgmaa.Wd

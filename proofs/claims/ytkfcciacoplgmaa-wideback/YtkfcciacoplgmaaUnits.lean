/- Units of two and of four bytes, plain. -/
import Derived.Test.YtkfcciacoplgmaaPlain
import Derived.Test.YtkfcciacoplgmaaMem
namespace Go.Proofs.Ytkfcciacoplgmaa.Wd
open Go.Proofs.Ytkfcciacoplgmaa.Ucs Go.Proofs.Ytkfcciacoplgmaa.Mem

/-- A kind's form: bytes of a unit, pairs, a mark, the lowest byte first. -/
def fm (k : Int) : Option (Nat × Bool × Bool × Bool) :=
  if k = 3 then some (2, true, false, false) else if k = 4 then some (2, true, false, true) else if k = 5 then some (2, true, true, false)
  else if k = 6 then some (4, false, false, false) else if k = 7 then some (4, false, false, true) else if k = 8 then some (4, false, true, false)
  else if k = 9 then some (2, false, false, false) else if k = 10 then some (2, false, false, true) else none
theorem fm_none {k : Int} (h : fm k = none) : k < 3 ∨ 10 < k := by
  by_cases c : k < 3 ∨ 10 < k
  · exact c
  · have hk : k = 3 ∨ k = 4 ∨ k = 5 ∨ k = 6 ∨ k = 7 ∨ k = 8 ∨ k = 9 ∨ k = 10 := by omega
    rcases hk with rfl | rfl | rfl | rfl | rfl | rfl | rfl | rfl <;> simp [fm] at h
theorem fm_some {k : Int} {f : Nat × Bool × Bool × Bool} (h : fm k = some f) :
    (k = 3 ∧ f = (2, true, false, false)) ∨ (k = 4 ∧ f = (2, true, false, true)) ∨ (k = 5 ∧ f = (2, true, true, false)) ∨ (k = 6 ∧ f = (4, false, false, false)) ∨ (k = 7 ∧ f = (4, false, false, true)) ∨ (k = 8 ∧ f = (4, false, true, false)) ∨ (k = 9 ∧ f = (2, false, false, false)) ∨ (k = 10 ∧ f = (2, false, false, true)) := by
  by_cases c : k < 3 ∨ 10 < k
  · exfalso
    have : fm k = none := by simp [fm, show ¬ k = 3 by omega, show ¬ k = 4 by omega, show ¬ k = 5 by omega, show ¬ k = 6 by omega, show ¬ k = 7 by omega, show ¬ k = 8 by omega, show ¬ k = 9 by omega, show ¬ k = 10 by omega]
    rw [this] at h; cases h
  · have hk : k = 3 ∨ k = 4 ∨ k = 5 ∨ k = 6 ∨ k = 7 ∨ k = 8 ∨ k = 9 ∨ k = 10 := by omega
    rcases hk with rfl | rfl | rfl | rfl | rfl | rfl | rfl | rfl <;> simp [fm] at h <;> subst h <;> simp
theorem fm_facts {k : Int} {n : Nat} {p m low : Bool} (h : fm k = some (n, p, m, low)) : 3 ≤ k ∧ k ≤ 10 ∧ (n = 2 ∨ n = 4) ∧ (p = true → n = 2) ∧ (m = true → low = false) := by
  rcases fm_some h with ⟨rfl, e⟩ | ⟨rfl, e⟩ | ⟨rfl, e⟩ | ⟨rfl, e⟩ | ⟨rfl, e⟩ | ⟨rfl, e⟩ | ⟨rfl, e⟩ | ⟨rfl, e⟩ <;> (simp only [Prod.mk.injEq] at e; obtain ⟨rfl, rfl, rfl, rfl⟩ := e; simp)
/-- Whether a state is one of a kind that has a mark, or has none. -/
def fitB (m : Bool) (md bi ac he : Int) : Bool := if m then decide (0 ≤ md ∧ md ≤ 2 ∧ bi = 0 ∧ ac = 0 ∧ he = 0) else decide (md = 0 ∧ bi = 0 ∧ ac = 0 ∧ he = 0)
/-- Where in a unit of n bytes the byte of a rank stands. -/
def pl (low : Bool) (n k : Nat) : Nat := if low then n - 1 - k else k
theorem pl_lt (low : Bool) {n k : Nat} (h : k < n) : pl low n k < n := by unfold pl; split <;> omega
/-- The number of the k highest bytes of a unit. -/
def acc (low : Bool) (n : Nat) (L : List UInt8) : Nat → Nat
  | 0 => 0
  | k + 1 => acc low n L k * 256 + (L.getD (pl low n k) 0).toNat
/-- A unit's number. -/
def num (low : Bool) (n : Nat) (L : List UInt8) : Nat := acc low n L n
theorem acc_lt (low : Bool) (n : Nat) (L : List UInt8) : ∀ k, acc low n L k < 256 ^ k
  | 0 => by simp [acc]
  | k + 1 => by
    have h := acc_lt low n L k
    have hb := (L.getD (pl low n k) 0).toNat_lt
    rw [acc, Nat.pow_succ]
    omega
theorem acc_le (low : Bool) (n : Nat) (L : List UInt8) {k : Nat} (h : k ≤ 3) : acc low n L k ≤ 16777215 := by
  have h1 := acc_lt low n L k
  have h2 : 256 ^ k ≤ 256 ^ 3 := Nat.pow_le_pow_right (by omega) h
  omega
theorem num_lt (low : Bool) (n : Nat) (L : List UInt8) : num low n L < 256 ^ n := acc_lt low n L n
theorem getD_at {L : List UInt8} {j : Nat} (h : j < L.length) : L.getD j 0 = L[j] := by simp [List.getD, List.getElem?_eq_getElem h]

/-- The byte of a number that has j lower ones. -/
def byt (u j : Nat) : UInt8 := UInt8.ofNat (u / 256 ^ j)
theorem byt_toNat (u j : Nat) : (byt u j).toNat = u / 256 ^ j % 256 := by unfold byt; rw [UInt8.toNat_ofNat']
/-- A unit's bytes, of which the j lowest are written. -/
def stB (low : Bool) (n u j : Nat) : List UInt8 := (List.range n).map fun i => if (if low then i else n - 1 - i) < j then byt u (if low then i else n - 1 - i) else 0
/-- A unit's bytes. -/
def unitB (low : Bool) (n u : Nat) : List UInt8 := (List.range n).map fun i => byt u (if low then i else n - 1 - i)
theorem stB_length (low : Bool) (n u j : Nat) : (stB low n u j).length = n := by simp [stB]
theorem unitB_length (low : Bool) (n u : Nat) : (unitB low n u).length = n := by simp [unitB]
theorem stB_all (low : Bool) (n u : Nat) : stB low n u n = unitB low n u := by
  unfold stB unitB
  apply List.map_congr_left
  intro i hi
  have hi' : i < n := List.mem_range.1 hi
  rw [if_pos (by split <;> omega)]
theorem stB_zero (low : Bool) (n u : Nat) : stB low n u 0 = List.replicate n 0 := by
  apply List.ext_getElem
  · simp [stB]
  · intro i h1 h2
    simp [stB]
theorem stB_set (low : Bool) (n u j : Nat) (hj : j < n) : (stB low n u j).set (pl low n (n - 1 - j)) (byt u j) = stB low n u (j + 1) := by
  apply List.ext_getElem
  · simp [stB]
  · intro i h1 h2
    have hi : i < n := by simpa [stB] using h2
    rw [List.getElem_set]
    unfold pl stB
    cases low
    · by_cases e : n - 1 - j = i
      · subst e
        simp
        rw [if_pos (by omega), show n - 1 - (n - 1 - j) = j by omega]
      · simp [e]
        by_cases c : n - 1 - i < j
        · rw [if_pos c, if_pos (by omega)]
        · rw [if_neg c, if_neg (by omega)]
    · by_cases e : n - 1 - (n - 1 - j) = i
      · have : j = i := by omega
        subst this
        simp [e]
      · simp [e]
        by_cases c : i < j
        · rw [if_pos c, if_pos (by omega)]
        · rw [if_neg c, if_neg (by omega)]
end Go.Proofs.Ytkfcciacoplgmaa.Wd

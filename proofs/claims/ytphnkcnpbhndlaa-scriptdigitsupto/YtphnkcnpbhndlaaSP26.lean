/- Bytes in digits, and back: plain. -/
import Derived.Test.YtphnkcnpbhndlaaMem
namespace Go.Proofs.Ytphnkcnpbhndlaa.C26
open Go.Proofs.Ytphnkcnpbhndlaa.Mem
set_option linter.unusedVariables false

def b8 (b : Nat) : UInt8 := UInt8.ofNat b
theorem b8_toNat {b : Nat} (h : b < 256) : (b8 b).toNat = b := by unfold b8; rw [UInt8.toNat_ofNat', Nat.mod_eq_of_lt h]
theorem b8_of (c : UInt8) : b8 c.toNat = c := by unfold b8; simp

/-- The digit of a number below 16, as a byte. -/
def dg (n : Nat) : Nat := if n < 10 then 48 + n else 55 + n
theorem dg_lt {n : Nat} (h : n < 16) : dg n < 256 := by unfold dg; split <;> omega
/-- The two digits of a byte. -/
def two (c : UInt8) : List UInt8 := [b8 (dg (c.toNat / 16)), b8 (dg (c.toNat % 16))]
def hexL : List UInt8 → List UInt8
  | [] => []
  | c :: L => two c ++ hexL L
def hexT (L : List UInt8) : List UInt8 := if L.length = 0 then [45] else hexL L
theorem hexL_length : ∀ L, (hexL L).length = 2 * L.length
  | [] => rfl
  | c :: L => by simp [hexL, two, hexL_length L]; omega
theorem hexL_append : ∀ L M, hexL (L ++ M) = hexL L ++ hexL M
  | [], M => rfl
  | c :: L, M => by simp [hexL, hexL_append L M]
theorem hexL_take {L : List UInt8} {i : Nat} (hi : i < L.length) : hexL (L.take i) ++ two L[i] = hexL (L.take (i + 1)) := by
  rw [List.take_add_one, List.getElem?_eq_getElem hi, hexL_append]
  simp [hexL]
theorem hexT_length_le (L : List UInt8) : (hexT L).length ≤ 2 * L.length + 1 := by
  unfold hexT
  split
  · simp
  · rw [hexL_length]; omega

/-- What a byte is as a digit; -1: none. -/
def vl (c : Nat) : Int := if 48 ≤ c ∧ c ≤ 57 then (c : Int) - 48 else if 65 ≤ c ∧ c ≤ 70 then (c : Int) - 55 else if 97 ≤ c ∧ c ≤ 102 then (c : Int) - 87 else -1
theorem vl_le (c : Nat) : vl c ≤ 15 := by unfold vl; split; omega; split; omega; split <;> omega
theorem vl_ge (c : Nat) : -1 ≤ vl c := by unfold vl; split; omega; split; omega; split <;> omega
theorem vl_dg {n : Nat} (h : n < 16) : vl (dg n) = (n : Int) := by
  have hall : ∀ i : Fin 16, vl (dg i.val) = (i.val : Int) := by decide
  exact hall ⟨n, h⟩
/-- The bytes that digits are. -/
def rd : List UInt8 → Option (List UInt8)
  | [] => some []
  | [_] => none
  | x :: y :: t => if vl x.toNat < 0 ∨ vl y.toNat < 0 then none else (rd t).map (b8 (16 * vl x.toNat + vl y.toNat).toNat :: ·)
def byT (s : List UInt8) : Option (List UInt8) := if s = [45] then some [] else if s = [] ∨ s.length % 2 ≠ 0 then none else rd s
theorem rd_two (c : UInt8) (t : List UInt8) : rd (two c ++ t) = (rd t).map (c :: ·) := by
  have hc := c.toNat_lt
  have h1 : c.toNat / 16 < 16 := by omega
  have h2 : c.toNat % 16 < 16 := by omega
  have e1 := b8_toNat (dg_lt h1)
  have e2 := b8_toNat (dg_lt h2)
  have v1 := vl_dg h1
  have v2 := vl_dg h2
  simp only [two, List.cons_append, List.nil_append, rd, e1, e2, v1, v2]
  rw [if_neg (by omega)]
  have e3 : (16 * ((c.toNat / 16 : Nat) : Int) + ((c.toNat % 16 : Nat) : Int)).toNat = c.toNat := by omega
  rw [e3, b8_of]
theorem rd_hex : ∀ L, rd (hexL L) = some L
  | [] => rfl
  | c :: L => by rw [hexL, rd_two, rd_hex L]; rfl
theorem hexL_ne (L : List UInt8) : hexL L ≠ [45] := by
  intro h
  have := congrArg List.length h
  rw [hexL_length] at this
  simp at this
  omega
theorem byT_hexT (L : List UInt8) : byT (hexT L) = some L := by
  unfold hexT
  split
  · rename_i h
    obtain rfl := List.length_eq_zero_iff.1 h
    rfl
  · rename_i h
    unfold byT
    rw [if_neg (hexL_ne L), if_neg, rd_hex]
    rw [hexL_length]
    intro h2
    rcases h2 with h2 | h2
    · have := congrArg List.length h2
      rw [hexL_length, List.length_nil] at this
      omega
    · omega
/-- One round of reading. -/
theorem rd_round {s R : List UInt8} {i : Nat} (hi : i + 1 < s.length) (h : rd s = (rd (s.drop i)).map (R ++ ·)) :
    (vl (s[i]'(by omega)).toNat < 0 ∨ vl (s[i + 1]'hi).toNat < 0 → rd s = none) ∧ (¬ (vl (s[i]'(by omega)).toNat < 0 ∨ vl (s[i + 1]'hi).toNat < 0) → rd s = (rd (s.drop (i + 2))).map ((R ++ [b8 (16 * vl (s[i]'(by omega)).toNat + vl (s[i + 1]'hi).toNat).toNat]) ++ ·)) := by
  have e1 : s.drop i = s[i]'(by omega) :: s[i + 1]'hi :: s.drop (i + 2) := by
    rw [List.drop_eq_getElem_cons (by omega), List.drop_eq_getElem_cons hi]
  rw [e1] at h
  simp only [rd] at h
  constructor
  · intro hn
    rw [h, if_pos hn]
    rfl
  · intro hn
    rw [h, if_neg hn, Option.map_map]
    congr 1
    funext x
    simp
theorem rd_end {s R : List UInt8} {i : Nat} (hi : s.length ≤ i) (h : rd s = (rd (s.drop i)).map (R ++ ·)) : rd s = some R := by
  rw [List.drop_of_length_le hi] at h
  simpa [rd] using h
end Go.Proofs.Ytphnkcnpbhndlaa.C26

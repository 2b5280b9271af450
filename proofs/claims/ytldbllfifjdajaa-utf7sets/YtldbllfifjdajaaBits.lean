/- Base 64 digits and bits, plain. -/
import Derived.Test.YtldbllfifjdajaaPlain
import Derived.Test.YtldbllfifjdajaaMem
import Derived.Lib.Bytealg
namespace Go.Proofs.Ytldbllfifjdajaa.Sv
open Go.Proofs.Ytldbllfifjdajaa.Ucs Go.Proofs.Ytldbllfifjdajaa.Mem
set_option linter.unusedVariables false

def digL : List UInt8 := [65, 66, 67, 68, 69, 70, 71, 72, 73, 74, 75, 76, 77, 78, 79, 80, 81, 82, 83, 84, 85, 86, 87, 88, 89, 90, 97, 98, 99, 100, 101, 102, 103, 104, 105, 106, 107, 108, 109, 110, 111, 112, 113, 114, 115, 116, 117, 118, 119, 120, 121, 122, 48, 49, 50, 51, 52, 53, 54, 55, 56, 57, 43, 47]
def markL : List UInt8 := [39, 40, 41, 44, 45, 46, 47, 58, 63, 32, 9, 10, 13]
def plainL : List UInt8 := digL.take 62 ++ markL
/-- The digit of a number from 0 to 63. -/
def dgB (n : Nat) : UInt8 := digL.getD n 0
def dgS (n : Nat) : ByteArray := ⟨#[dgB n]⟩
theorem dgS_size (n : Nat) : (dgS n).size = 1 := rfl
theorem dgS_str (n : Nat) : dgS n = str [dgB n] := rfl
theorem enc_dg (n : Nat) (h : n < 64) : Utf8.encode ((dgB n).toNat : Int) = dgS n := by
  have hall : ∀ i : Fin 64, Utf8.encode ((dgB i.val).toNat : Int) = dgS i.val := by decide +kernel
  exact hall ⟨n, h⟩
theorem dig_get : ∀ (n : Nat) (h : n < (str digL).size), ((str digL)[n]'h) = dgB n := by
  intro n h
  have h' : n < 64 := h
  have hall : ∀ i : Fin 64, (str digL)[i.val]'i.isLt = dgB i.val := by decide +kernel
  exact hall ⟨n, h'⟩
theorem dig_cut (n : Nat) (h : n < 64) : (str digL).extract n (n + 1) = dgS n := by
  have hall : ∀ i : Fin 64, (str digL).extract i.val (i.val + 1) = dgS i.val := by decide +kernel
  exact hall ⟨n, h⟩
theorem dgB_lt (n : Nat) (h : n < 64) : (dgB n).toNat < 128 := by
  have hall : ∀ i : Fin 64, (dgB i.val).toNat < 128 := by decide +kernel
  exact hall ⟨n, h⟩

/-- Of a number of r + 6 k bits the first 6 k, in digits. -/
def enc (N r : Nat) : Nat → List UInt8
  | 0 => []
  | k + 1 => dgB (N / 2 ^ (r + 6 * k) % 64) :: enc N r k
theorem enc_length (N r : Nat) : ∀ k, (enc N r k).length = k
  | 0 => rfl
  | k + 1 => by rw [enc, List.length_cons, enc_length N r k]
/-- The next digit, and what is left over behind it. -/
theorem step_digit (N j : Nat) : N % 2 ^ (j + 6) / 2 ^ j = N / 2 ^ j % 64 := by
  rw [Nat.pow_add, Nat.mod_mul_right_div_self]
theorem step_rest (N j : Nat) : N % 2 ^ (j + 6) % 2 ^ j = N % 2 ^ j := by
  rw [Nat.pow_add]; exact Nat.mod_mul_right_mod N (2 ^ j) _
/-- What a number of n bits puts out, and what is left over. -/
def outL (N n : Nat) : List UInt8 := enc N (n % 6) (n / 6)
def outA (N n : Nat) : Nat := N % 2 ^ (n % 6)
theorem outL_length (N n : Nat) : (outL N n).length = n / 6 := enc_length _ _ _
theorem outA_lt (N n : Nat) : outA N n < 2 ^ (n % 6) := Nat.mod_lt _ (Nat.two_pow_pos _)
theorem pow_le5 {r : Nat} (h : r ≤ 5) : 2 ^ r ≤ 32 := by
  have : 2 ^ r ≤ 2 ^ 5 := Nat.pow_le_pow_right (by omega) h
  omega
theorem six {b : Nat} (h : b ≤ 5) : b = 0 ∨ b = 1 ∨ b = 2 ∨ b = 3 ∨ b = 4 ∨ b = 5 := by omega
set_option maxRecDepth 100000 in
theorem two_steps (a b h l : Nat) (hb : b ≤ 5) (ha : a < 2 ^ b) (hh : h < 65536) (hl : l < 65536) :
    outL (a * 65536 + h) (b + 16) ++ outL (outA (a * 65536 + h) (b + 16) * 65536 + l) ((b + 16) % 6 + 16) = outL (a * 4294967296 + (h * 65536 + l)) (b + 32) ∧
    outA (outA (a * 65536 + h) (b + 16) * 65536 + l) ((b + 16) % 6 + 16) = outA (a * 4294967296 + (h * 65536 + l)) (b + 32) ∧ ((b + 16) % 6 + 16) % 6 = (b + 32) % 6 := by
  rcases six hb with rfl | rfl | rfl | rfl | rfl | rfl <;> simp [outL, outA, enc] at ha ⊢ <;> (repeat' with_reducible apply And.intro) <;> (first | omega | (refine congrArg dgB ?_; omega))
/-- The digit of what is left over at an end. -/
def lastL (b a : Nat) : List UInt8 := if b = 0 then [] else [dgB (a * 2 ^ (6 - b))]
theorem last_lt {b a : Nat} (hb : b ≤ 5) (ha : a < 2 ^ b) : a * 2 ^ (6 - b) < 64 := by
  rcases six hb with rfl | rfl | rfl | rfl | rfl | rfl <;> simp at ha ⊢ <;> omega

/-- Whether a scalar's number is one of some bytes. -/
def hasB (l : List UInt8) (u : Int) : Bool := decide (0 ≤ u) && decide (u < 128) && l.contains u.toNat.toUInt8
theorem index_mem (l : List UInt8) (c : UInt8) : decide (0 ≤ Go.Lib.indexByte l c) = l.contains c := by
  induction l with
  | nil => rfl
  | cons b l ih =>
    have hg := Go.Lib.indexByte_ge l c
    rw [List.contains_cons, ← ih]
    have e : Go.Lib.indexByte (b :: l) c = if b == c then 0 else if Go.Lib.indexByte l c == -1 then -1 else Go.Lib.indexByte l c + 1 := rfl
    rw [e]
    clear e
    by_cases hb : b = c
    · subst hb; simp
    · have h1 : (b == c) = false := by simpa using hb
      have h2 : (c == b) = false := by simpa using fun e => hb e.symm
      rw [h1, h2]
      by_cases hi : Go.Lib.indexByte l c = -1
      · simp [hi]
      · have h3 : (Go.Lib.indexByte l c == -1) = false := by simpa using hi
        simp only [h3, Bool.false_eq_true, if_false, Bool.false_or, decide_eq_decide]
        omega
theorem index_none {l : List UInt8} {c : UInt8} (h : ∀ b ∈ l, b.toNat < 128) (hc : 128 ≤ c.toNat) : Go.Lib.indexByte l c = -1 := by
  have h1 := index_mem l c
  have h2 := Go.Lib.indexByte_ge l c
  have h3 : l.contains c = false := by
    rw [Bool.eq_false_iff]
    intro e
    have := h c (by simpa using e)
    omega
  rw [h3, decide_eq_false_iff_not] at h1
  omega
theorem hasB_high {l : List UInt8} {u : Int} (h : 128 ≤ u) : hasB l u = false := by simp [hasB]; omega
theorem plain_ascii : ∀ b ∈ plainL, b.toNat < 128 := by decide +kernel
theorem dig_ascii : ∀ b ∈ digL, b.toNat < 128 := by decide +kernel
/-- The letters, figures and marks. -/
theorem plain_is (u : Int) (h0 : 0 ≤ u) (h1 : u < 128) : hasB plainL u = ((digL.contains u.toNat.toUInt8 && u.toNat.toUInt8 != 43 && u.toNat.toUInt8 != 47) || markL.contains u.toNat.toUInt8) := by
  have hall : ∀ i : Fin 128, hasB plainL ((i.val : Nat) : Int) = ((digL.contains i.val.toUInt8 && i.val.toUInt8 != 43 && i.val.toUInt8 != 47) || markL.contains i.val.toUInt8) := by decide +kernel
  obtain ⟨n, rfl⟩ := Int.eq_ofNat_of_zero_le h0
  have := hall ⟨n, by omega⟩
  simpa using this

/-- Whether a state is one of UTF-7; one of those in which is written. -/
def fitB (md bi ac he : Int) : Bool :=
  if md = 0 ∨ md = 2 then decide (bi = 0 ∧ ac = 0 ∧ he = 0)
  else if md = 1 then decide (0 ≤ bi ∧ bi < 16 ∧ ac / 2 ^ bi.toNat = 0) && (decide (he = 0) || hiB he) else false
def wrB (md bi ac he : Int) : Bool := fitB md bi ac he && decide (md ≠ 2 ∧ bi < 6 ∧ he = 0)
/-- The states in which is written. -/
theorem wrB_iff {md bi ac he : Int} (hac : 0 ≤ ac) (h : wrB md bi ac he = true) : (md = 0 ∧ bi = 0 ∧ ac = 0 ∧ he = 0) ∨ (md = 1 ∧ he = 0 ∧ ∃ b a : Nat, bi = (b : Int) ∧ ac = (a : Int) ∧ b ≤ 5 ∧ a < 2 ^ b) := by
  simp only [wrB, Bool.and_eq_true, decide_eq_true_eq] at h
  obtain ⟨hf, h2, h6, h0⟩ := h
  unfold fitB at hf
  split at hf
  · next c =>
    simp only [decide_eq_true_eq] at hf
    left; omega
  · split at hf
    · next c =>
      simp only [Bool.and_eq_true, decide_eq_true_eq] at hf
      obtain ⟨⟨b0, b1, b2⟩, _⟩ := hf
      right
      obtain ⟨b, rfl⟩ := Int.eq_ofNat_of_zero_le b0
      obtain ⟨a, rfl⟩ := Int.eq_ofNat_of_zero_le hac
      refine ⟨c, h0, b, a, rfl, rfl, by omega, ?_⟩
      rw [Int.toNat_natCast] at b2
      have e : ((2 : Int) ^ b) = ((2 ^ b : Nat) : Int) := by simp
      rw [e, ← Int.natCast_ediv] at b2
      have b3 : a / 2 ^ b = 0 := by omega
      exact Nat.div_eq_zero_iff.1 b3 |>.resolve_left (by have := Nat.two_pow_pos b; omega)
    · cases hf
end Go.Proofs.Ytldbllfifjdajaa.Sv

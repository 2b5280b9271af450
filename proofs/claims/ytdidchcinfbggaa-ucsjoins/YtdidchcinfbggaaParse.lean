/- What ucs.Parse answers: the scalar whose writing a text is, or none: walks. -/
import Derived.Test.YtdidchcinfbggaaHex
import Derived.Test.YtdidchcinfbggaaVal
import Derived.Lib.Strings
namespace Go.Proofs.Ytdidchcinfbggaa.Ucs
open Go.ChangeShapes Go.WideShapes Go.ChangeAt Go.RowKit

def pfx (s : ByteArray) : Bool := decide (2 ≤ s.size) && ((s.extract 0 2).toList == [85, 43])
def rest (s : ByteArray) : ByteArray := s.extract 2 s.size

theorem pfx_list {s : ByteArray} (h : pfx s = true) : 2 ≤ s.size ∧ s.data.toList = 85 :: 43 :: (rest s).data.toList := by
  simp only [pfx, Bool.and_eq_true, decide_eq_true_eq, beq_iff_eq] at h
  obtain ⟨h2, h⟩ := h
  refine ⟨h2, ?_⟩
  rw [Lib.extract_toList] at h
  have hl : s.data.toList.length = s.size := rfl
  unfold rest
  rw [Lib.extract_data, List.take_of_length_le (by rw [List.length_drop, hl]; omega)]
  have e := List.take_append_drop 2 s.data.toList
  simp only [List.drop_zero] at h
  rw [show 2 - 0 = 2 from rfl] at h
  rw [h] at e
  exact e.symm
theorem pfx_of {s : ByteArray} {l : List UInt8} (h : s.data.toList = 85 :: 43 :: l) : pfx s = true := by
  have hl : s.data.toList.length = s.size := rfl
  rw [h] at hl
  simp only [List.length_cons] at hl
  simp only [pfx, Bool.and_eq_true, decide_eq_true_eq, beq_iff_eq]
  refine ⟨by omega, ?_⟩
  rw [Lib.extract_toList, h]; rfl
theorem rest_size (s : ByteArray) : (rest s).size = s.size - 2 := by
  unfold rest; rw [ByteArray.size_extract]; omega
theorem rest_hex {u : Int} (hu : scB u = true) : (rest (hex u)).data.toList = lowL (cnt u) u := by
  have a := (pfx_list (pfx_of (hex_list hu))).2
  rw [hex_list hu] at a
  simp only [List.cons.injEq, true_and] at a
  exact a.symm

theorem no_pfx {s : ByteArray} (h : pfx s = false) : Reads s 0 false := by
  refine .inr ⟨rfl, rfl, fun u hu e => ?_⟩
  subst e
  rw [pfx_of (hex_list hu)] at h
  cases h
theorem no_long {s : ByteArray} (h : 6 < (rest s).size) : Reads s 0 false := by
  refine .inr ⟨rfl, rfl, fun u hu e => ?_⟩
  subst e
  have := cnt_le u
  rw [rest_size, hex_size hu] at h
  omega
theorem no_digit {s : ByteArray} (c : UInt8) (hc : c ∈ (rest s).data.toList) (h : dv c < 0) : Reads s 0 false := by
  refine .inr ⟨rfl, rfl, fun u hu e => ?_⟩
  subst e
  rw [rest_hex hu] at hc
  have := lowL_dv _ _ c hc
  omega
theorem no_hex {s : ByteArray} (h : hex (valFrom 0 (rest s).data.toList) ≠ s) : Reads s 0 false := by
  refine .inr ⟨rfl, rfl, fun u hu e => ?_⟩
  subst e
  rw [rest_hex hu, val_low hu] at h
  exact h rfl
theorem yes_hex {s : ByteArray} (hp : pfx s = true) (h : hex (valFrom 0 (rest s).data.toList) = s) : Reads s (valFrom 0 (rest s).data.toList) true := by
  refine .inl ⟨rfl, ?_, h⟩
  have h2 := (pfx_list hp).1
  cases hc : scB (valFrom 0 (rest s).data.toList)
  · unfold hex at h
    rw [if_neg (by simp [hc])] at h
    rw [← h] at h2
    exact absurd h2 (by decide)
  · rfl

theorem hasPrefix_any (s : ByteArray) (w : World) (hs : s.size ≤ maxLen) : Calls Try.prog 29 #[.string s, .string ⟨#[85, 43]⟩] w fun e w' => e = .returned (.bool (pfx s)) ∧ w' = w := by
  unfold maxLen at hs
  by_cases h : 2 ≤ s.size
  · go_enter Try.func29, Try.ntmps29
    go_wp2
    go_ret
    exact ⟨ret_bool (by simp [pfx, h]), rfl⟩
  · go_enter Try.func29, Try.ntmps29
    go_wp2
    go_ret
    exact ⟨ret_bool (by simp [pfx]; omega), rfl⟩
theorem cutYes (s : ByteArray) (w : World) (hs : s.size ≤ maxLen) (h : pfx s = true) : Calls Try.prog 25 #[.string s, .string ⟨#[85, 43]⟩] w fun e w' => e = .returned (.tuple #[.string (rest s), .bool true]) ∧ w' = w := by
  have h2 := (pfx_list h).1
  have hs' := hs
  unfold maxLen at hs'
  go_enter Try.func25, Try.ntmps25
  go_wp2_with (first | (go_at_call 29; refine (hasPrefix_any _ _ hs).mono ?_; rintro e w' ⟨rfl, rfl⟩) | go_in)
  go_ret2
  exact ⟨rfl, rfl⟩
theorem cutNo (s : ByteArray) (w : World) (hs : s.size ≤ maxLen) (h : pfx s = false) : Calls Try.prog 25 #[.string s, .string ⟨#[85, 43]⟩] w fun e w' => e = .returned (.tuple #[.string s, .bool false]) ∧ w' = w := by
  go_enter Try.func25, Try.ntmps25
  go_wp2_with (first | (go_at_call 29; refine (hasPrefix_any _ _ hs).mono ?_; rintro e w' ⟨rfl, rfl⟩) | go_in)
  go_ret2
  exact ⟨rfl, rfl⟩

def dB (r : Int) : Bool := (decide (48 ≤ r) && decide (r ≤ 57)) || (decide (65 ≤ r) && decide (r ≤ 70))
def dV (r : Int) : Int := if 48 ≤ r ∧ r ≤ 57 then r - 48 else if 65 ≤ r ∧ r ≤ 70 then r - 55 else 0
theorem digitValue_any (r : Int) (w : World) : Calls Try.prog 26 #[.int .i32 r] w fun e w' => e = .returned (.tuple #[.int .i32 (dV r), .bool (dB r)]) ∧ w' = w := by
  have key : (48 ≤ r ∧ r ≤ 57 ∧ dV r = r - 48 ∧ dB r = true) ∨ (65 ≤ r ∧ r ≤ 70 ∧ dV r = r - 55 ∧ dB r = true) ∨ ((r < 48 ∨ (57 < r ∧ r < 65) ∨ 70 < r) ∧ dV r = 0 ∧ dB r = false) := by
    unfold dV dB
    by_cases a : 48 ≤ r ∧ r ≤ 57
    · left; exact ⟨a.1, a.2, by rw [if_pos a], by simp [a]⟩
    by_cases b : 65 ≤ r ∧ r ≤ 70
    · right; left; exact ⟨b.1, b.2, by rw [if_neg a, if_pos b], by simp [b]⟩
    · right; right; exact ⟨by omega, by rw [if_neg a, if_neg b], by simp; omega⟩
  rcases key with ⟨a, b, e1, e2⟩ | ⟨a, b, e1, e2⟩ | ⟨a | ⟨a, b⟩ | a, e1, e2⟩
  all_goals
    rw [e1, e2]; clear e1 e2
    go_enter Try.func26, Try.ntmps26
    go_wp2
    go_ret2
    first | exact ⟨rfl, rfl⟩ | exact ⟨ret_two (by omega) rfl, rfl⟩
end Go.Proofs.Ytdidchcinfbggaa.Ucs

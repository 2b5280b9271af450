/- The step that puts out a scalar, the program's and the document's: all states and numbers. -/
import Derived.Test.YtldbllfifjdajaaRefSet
namespace Go.Proofs.Ytldbllfifjdajaa.Sv
open Go.ChangeShapes Go.WideShapes Go.ChangeAt Go.RowKit Go.Proofs.Ytldbllfifjdajaa.Mem Go.Proofs.Ytldbllfifjdajaa.Ucs
set_option linter.unusedVariables false

/-- The bits of a scalar behind those left over: their number, and how many they are. -/
def numU (a : Nat) (u : Int) : Nat := if u ≤ 65535 then a * 65536 + u.toNat else a * 4294967296 + ((splitH u).toNat * 65536 + (splitL u).toNat)
def bitU (b : Nat) (u : Int) : Nat := if u ≤ 65535 then b + 16 else b + 32
/-- What is put out: the error, the bytes, the state behind it. -/
structure Pt where
  e : Int
  L : List UInt8
  md : Int
  bi : Int
  ac : Int
def putR (p : List UInt8) (b a : Nat) (u : Int) : Pt := ⟨0, p ++ outL (numU a u) (bitU b u), 1, ((bitU b u % 6 : Nat) : Int), ((outA (numU a u) (bitU b u) : Nat) : Int)⟩
def setR (md bi ac he u : Int) : Pt :=
  if wrB md bi ac he = false then ⟨7, [], 0, 0, 0⟩
  else if scB u = false then ⟨11, [], 0, 0, 0⟩
  else if hasB plainL u = true then ⟨0, (if md = 0 then [] else leaveL bi.toNat ac.toNat u) ++ [u.toNat.toUInt8], 0, 0, 0⟩
  else if md = 1 then putR [] bi.toNat ac.toNat u
  else if u = 43 then ⟨0, [43, 45], 0, 0, 0⟩
  else putR [43] 0 0 u
theorem setR_eq_bad {md bi ac he u : Int} (h : wrB md bi ac he = false) : setR md bi ac he u = ⟨7, [], 0, 0, 0⟩ := by simp [setR, h]
theorem setR_eq_none {md bi ac he u : Int} (h : wrB md bi ac he = true) (k : scB u = false) : setR md bi ac he u = ⟨11, [], 0, 0, 0⟩ := by simp [setR, h, k]
theorem setR_eq_plain {md bi ac he u : Int} (h : wrB md bi ac he = true) (k : scB u = true) (p : hasB plainL u = true) : setR md bi ac he u = ⟨0, (if md = 0 then [] else leaveL bi.toNat ac.toNat u) ++ [u.toNat.toUInt8], 0, 0, 0⟩ := by simp [setR, h, k, p]
theorem setR_eq_in {bi ac he u : Int} (h : wrB 1 bi ac he = true) (k : scB u = true) (p : hasB plainL u = false) : setR 1 bi ac he u = putR [] bi.toNat ac.toNat u := by simp [setR, h, k, p]
theorem setR_eq_plus {bi ac he : Int} (h : wrB 0 bi ac he = true) : setR 0 bi ac he 43 = ⟨0, [43, 45], 0, 0, 0⟩ := by
  have p : hasB plainL 43 = false := by decide +kernel
  have k : scB 43 = true := by decide
  simp [setR, h, k, p]
theorem setR_eq_out {bi ac he u : Int} (h : wrB 0 bi ac he = true) (k : scB u = true) (p : hasB plainL u = false) (n : u ≠ 43) : setR 0 bi ac he u = putR [43] 0 0 u := by simp [setR, h, k, p, n]
theorem split_nat {u : Int} (h : scB u = true) (hu : 65535 < u) : splitB u = true ∧ ∃ a b : Nat, splitH u = (a : Int) ∧ splitL u = (b : Int) ∧ 55296 ≤ a ∧ a ≤ 56319 ∧ 56320 ≤ b ∧ b ≤ 57343 := by
  have hb := scB_iff.1 h
  obtain ⟨h1, h2, h3⟩ := split_yes (u := u) (by omega) (by omega)
  exact ⟨h1, (55296 + (u - 65536) / 1024).toNat, (56320 + (u - 65536) % 1024).toNat, by rw [h2]; omega, by rw [h3]; omega, by omega, by omega, by omega, by omega⟩
theorem pow_bits {b a : Nat} (hb : b ≤ 5) (ha : a < 2 ^ b) : a < 32 := by have := pow_le5 hb; omega
theorem lt_16 {b a x : Nat} (hb : b ≤ 5) (ha : a < 2 ^ b) (hx : x < 65536) : a * 65536 + x < 2 ^ (b + 16) := by
  rcases six hb with rfl | rfl | rfl | rfl | rfl | rfl <;> simp at ha ⊢ <;> omega
theorem lt_32 {b a x : Nat} (hb : b ≤ 5) (ha : a < 2 ^ b) (hx : x < 4294967296) : a * 4294967296 + x < 2 ^ (b + 32) := by
  rcases six hb with rfl | rfl | rfl | rfl | rfl | rfl <;> simp at ha ⊢ <;> omega
theorem putBits_any (b a : Nat) (hb : b ≤ 5) (ha : a < 2 ^ b) (u : Int) (hs : scB u = true) (w : World) :
    Calls Try.prog 15 #[stV 1 (b : Int) (a : Int) 0, .int .i32 u] w fun e w' => e = .returned (putV 0 (str (outL (numU a u) (bitU b u))) 1 ((bitU b u % 6 : Nat) : Int) ((outA (numU a u) (bitU b u) : Nat) : Int)) ∧ w.grownBy w' none := by
  have hb' := scB_iff.1 hs
  by_cases c : u ≤ 65535
  · obtain ⟨x, rfl⟩ := Int.eq_ofNat_of_zero_le hb'.1
    have e1 : numU a (x : Int) = a * 65536 + x := by simp [numU, c]
    have e2 : bitU b (x : Int) = b + 16 := by simp [bitU, c]
    rw [e1, e2]
    exact put_16 b a x hb (pow_bits hb ha) (by omega) _ (fun w => units_one x (by omega) w) (lt_16 hb ha (by omega)) w
  · obtain ⟨hB, h, l, hh, hl, h1, h2, l1, l2⟩ := split_nat hs (by omega)
    have e1 : numU a u = a * 4294967296 + (h * 65536 + l) := by simp [numU, c, hh, hl]
    have e2 : bitU b u = b + 32 := by simp [bitU, c]
    rw [e1, e2]
    exact put_32 b a (h * 65536 + l) hb (pow_bits hb ha) (by omega) u (fun w => units_two u (by omega) h l hh hl hB (by omega) (by omega) w) (lt_32 hb ha (by omega)) w
theorem outL_size (N : Nat) {n : Nat} (h : n ≤ 37) : (str (outL N n)).size ≤ 8 := by rw [str_size, outL_length]; omega
theorem bitU_le {b : Nat} (hb : b ≤ 5) (u : Int) : bitU b u ≤ 37 := by unfold bitU; split <;> omega
theorem has_bd {l : List UInt8} {u : Int} (h : hasB l u = true) : 0 ≤ u ∧ u < 128 := by
  simp only [hasB, Bool.and_eq_true, decide_eq_true_eq] at h
  exact h.1

theorem set_any (md bi ac he u : Int) (hac : 0 ≤ ac) (w : World) (R : Pt) (hR : setR md bi ac he u = R) (s : ByteArray) (hs : str R.L = s) :
    Calls Try.prog 6 #[stV md bi ac he, .int .i32 u] w fun e w' => e = .returned (putV R.e s R.md R.bi R.ac) ∧ w.grownBy w' none := by
  subst hs hR
  cases hw : wrB md bi ac he with
  | false => rw [setR_eq_bad hw]; exact set_bad md bi ac he hw u w
  | true =>
    cases hsc : scB u with
    | false => rw [setR_eq_none hw hsc]; exact set_none md bi ac he hw u hsc w
    | true =>
      cases hp : hasB plainL u with
      | true =>
        rw [setR_eq_plain hw hsc hp]
        obtain ⟨u0, u1⟩ := has_bd hp
        rcases wrB_iff hac hw with ⟨rfl, rfl, rfl, rfl⟩ | ⟨rfl, rfl, b, a, rfl, rfl, hb, ha⟩
        · rw [if_pos rfl, ← str_append]
          exact set_plain0 u hsc hp _ (enc_low u0 u1) _ rfl w
        · rw [if_neg (by decide), ← str_append]
          exact set_plain1 b a hb ha hw u hsc hp _ (enc_low u0 u1) rfl _ rfl (leave_size b a u) w
      | false =>
        rcases wrB_iff hac hw with ⟨rfl, rfl, rfl, rfl⟩ | ⟨rfl, rfl, b, a, rfl, rfl, hb, ha⟩
        · by_cases c : u = 43
          · subst c; rw [setR_eq_plus hw]; exact set_plus 43 rfl w
          · rw [setR_eq_out hw hsc hp c]
            show Calls Try.prog _ _ w fun e w' => e = .returned (putV 0 (str ([43] ++ outL (numU 0 u) (bitU 0 u))) 1 _ _) ∧ _
            rw [← str_append]
            exact set_out u hsc hp (by simpa using c) _ _ _ (fun w => putBits_any 0 0 (by omega) (by decide) u hsc w) (outL_size _ (bitU_le (by omega) u)) w
        · rw [setR_eq_in hw hsc hp]
          exact set_in b a hb ha hw u hsc hp _ _ _ (fun w => putBits_any b a hb ha u hsc w) w

theorem bitsR_one (md : Int) (b a : Nat) (hb : b ≤ 5) (ha : a < 2 ^ b) (u : Int) (hs : scB u = true) (c : u ≤ 65535) (w : World) :
    Calls Try.prog 20 #[stV md (b : Int) (a : Int) 0, .int .i32 u] w fun e w' => e = .returned (.tuple #[.string (str (outL (numU a u) (bitU b u))), stV 1 ((bitU b u % 6 : Nat) : Int) ((outA (numU a u) (bitU b u) : Nat) : Int) 0]) ∧ w.grownBy w' none := by
  have hb' := scB_iff.1 hs
  obtain ⟨x, rfl⟩ := Int.eq_ofNat_of_zero_le hb'.1
  have e1 : numU a (x : Int) = a * 65536 + x := by simp [numU, c]
  have e2 : bitU b (x : Int) = b + 16 := by simp [bitU, c]
  rw [e1, e2]
  exact bitsR_any md b a x hb (pow_bits hb ha) (by omega) _ rfl w _ rfl _ rfl _ rfl _ rfl
theorem small_split {u : Int} (c : u ≤ 65535) : splitH u = 0 ∧ splitL u = 0 ∧ splitB u = false := by
  obtain ⟨h1, h2, h3⟩ := split_no (u := u) (.inl (by omega))
  exact ⟨h2, h3, h1⟩
theorem two_out {u : Int} {b a h l : Nat} (hb : b ≤ 5) (ha : a < 2 ^ b) (c : 65535 < u) (hh : splitH u = (h : Int)) (hl : splitL u = (l : Int)) (h1 : h < 65536) (l1 : l < 65536) :
    outL (a * 65536 + h) (b + 16) ++ outL (outA (a * 65536 + h) (b + 16) * 65536 + l) ((b + 16) % 6 + 16) = outL (numU a u) (bitU b u) ∧ outA (outA (a * 65536 + h) (b + 16) * 65536 + l) ((b + 16) % 6 + 16) = outA (numU a u) (bitU b u) ∧ ((b + 16) % 6 + 16) % 6 = bitU b u % 6 := by
  have e1 : numU a u = a * 4294967296 + (h * 65536 + l) := by simp [numU, show ¬ u ≤ 65535 by omega, hh, hl]
  have e2 : bitU b u = b + 32 := by simp [bitU, show ¬ u ≤ 65535 by omega]
  rw [e1, e2]
  exact two_steps a b h l hb ha h1 l1
theorem putR_two (p : List UInt8) {u : Int} {b a h l : Nat} (hb : b ≤ 5) (ha : a < 2 ^ b) (c : 65535 < u) (hh : splitH u = (h : Int)) (hl : splitL u = (l : Int)) (h1 : h < 65536) (l1 : l < 65536) :
    putR p b a u = ⟨0, (p ++ outL (a * 65536 + h) (b + 16)) ++ outL (outA (a * 65536 + h) (b + 16) * 65536 + l) ((b + 16) % 6 + 16), 1, ((((b + 16) % 6 + 16) % 6 : Nat) : Int), ((outA (outA (a * 65536 + h) (b + 16) * 65536 + l) ((b + 16) % 6 + 16) : Nat) : Int)⟩ := by
  obtain ⟨t1, t2, t3⟩ := two_out hb ha c hh hl h1 l1
  rw [t2, t3, List.append_assoc, t1]; rfl
theorem idx_has {u : Int} (h0 : 0 ≤ u) (h1 : u < 128) : decide (0 ≤ Lib.indexByte digL u.toNat.toUInt8) = hasB digL u := by rw [index_mem]; simp [hasB, h0, h1]
theorem setRef_any (md bi ac he u : Int) (hac : 0 ≤ ac) (w : World) (R : Pt) (hR : setR md bi ac he u = R) (s : ByteArray) (hs : str R.L = s) :
    Calls Try.prog 7 #[stV md bi ac he, .int .i32 u] w fun e w' => e = .returned (putV R.e s R.md R.bi R.ac) ∧ w.grownBy w' none := by
  subst hs hR
  cases hw : wrB md bi ac he with
  | false => rw [setR_eq_bad hw]; exact setR_bad md bi ac he hac hw u w
  | true =>
    cases hsc : scB u with
    | false => rw [setR_eq_none hw hsc]; exact setR_none md bi ac he hac hw u hsc w
    | true =>
      cases hp : hasB plainL u with
      | true =>
        rw [setR_eq_plain hw hsc hp]
        obtain ⟨u0, u1⟩ := has_bd hp
        rcases wrB_iff hac hw with ⟨rfl, rfl, rfl, rfl⟩ | ⟨rfl, rfl, b, a, rfl, rfl, hb, ha⟩
        · rw [if_pos rfl, ← str_append]
          exact setR_plain0 u u0 u1 hsc hp _ (byte_nat u0 u1) _ rfl w
        · rw [if_neg (by decide), ← str_append, Int.toNat_natCast, Int.toNat_natCast]
          cases hd : decide (0 ≤ Lib.indexByte digL u.toNat.toUInt8) with
          | true =>
            rw [leave_yes (.inr ((idx_has u0 u1).symm.trans hd)), ← str_append]
            exact setR_plain1d b a hb ha hw u u0 u1 hsc hp _ (byte_nat u0 u1) _ rfl _ rfl last_size _ rfl hd w
          | false =>
            by_cases c : u = 45
            · rw [leave_yes (.inl c), ← str_append]
              exact setR_plain1m b a hb ha hw u u0 u1 hsc hp _ (byte_nat u0 u1) _ rfl _ rfl last_size _ rfl hd (by simpa using c) w
            · rw [leave_no c ((idx_has u0 u1).symm.trans hd)]
              exact setR_plain1b b a hb ha hw u u0 u1 hsc hp _ (byte_nat u0 u1) _ rfl _ rfl last_size _ rfl hd (by simpa using c) w
      | false =>
        have hb' := scB_iff.1 hsc
        rcases wrB_iff hac hw with ⟨rfl, rfl, rfl, rfl⟩ | ⟨rfl, rfl, b, a, rfl, rfl, hb, ha⟩
        · by_cases c : u = 43
          · subst c; rw [setR_eq_plus hw]; exact setR_plus 43 rfl w
          · rw [setR_eq_out hw hsc hp c]
            by_cases c2 : u ≤ 65535
            · obtain ⟨sh, sl, sb⟩ := small_split c2
              show Calls Try.prog _ _ w fun e w' => e = .returned (putV 0 (str ([43] ++ outL (numU 0 u) (bitU 0 u))) 1 _ _) ∧ _
              rw [← str_append]
              by_cases c3 : u < 128
              · exact setR_out1lo u hb'.1 c3 hsc hp (by simpa using c) sh sl sb _ _ _ (fun w => bitsR_one 0 0 0 (by omega) (by decide) u hsc c2 w) (outL_size _ (bitU_le (by omega) u)) w
              · exact setR_out1hi u (by simpa using c3) hsc (by simpa using c) sh sl sb _ _ _ (fun w => bitsR_one 0 0 0 (by omega) (by decide) u hsc c2 w) (outL_size _ (bitU_le (by omega) u)) w
            · obtain ⟨hB, h, l, hh, hl, h1, h2, l1, l2⟩ := split_nat hsc (by omega)
              rw [putR_two [43] (by omega) (by decide) (by omega) hh hl (by omega) (by omega)]
              show Calls Try.prog _ _ w fun e w' => e = .returned (putV 0 (str (([43] ++ outL (0 * 65536 + h) (0 + 16)) ++ outL (outA (0 * 65536 + h) (0 + 16) * 65536 + l) ((0 + 16) % 6 + 16))) 1 _ _) ∧ _
              rw [← str_append, ← str_append]
              have hA := outA_lt (0 * 65536 + h) (0 + 16)
              exact setR_out2 u (by simp; omega) hsc (by simpa using c) _ _ hh hl hB _ _ _ (fun w => bitsR_any 0 0 0 h (by omega) (by omega) (by omega) _ rfl w _ rfl _ rfl _ rfl _ rfl) (outL_size _ (by omega)) _ _ _ (fun w => bitsR_any 1 ((0 + 16) % 6) _ l (by omega) (pow_bits (by omega) hA) (by omega) _ rfl w _ rfl _ rfl _ rfl _ rfl) (outL_size _ (by omega)) w
        · rw [setR_eq_in hw hsc hp, Int.toNat_natCast, Int.toNat_natCast]
          by_cases c2 : u ≤ 65535
          · obtain ⟨sh, sl, sb⟩ := small_split c2
            show Calls Try.prog _ _ w fun e w' => e = .returned (putV 0 (str ([] ++ outL (numU a u) (bitU b u))) 1 _ _) ∧ _
            rw [← str_append]
            by_cases c3 : u < 128
            · exact setR_in1lo b a hb ha hw u hb'.1 c3 hsc hp sh sl sb _ _ _ (fun w => bitsR_one 1 b a hb ha u hsc c2 w) (outL_size _ (bitU_le hb u)) w
            · exact setR_in1hi b a hb ha hw u (by simpa using c3) hsc sh sl sb _ _ _ (fun w => bitsR_one 1 b a hb ha u hsc c2 w) (outL_size _ (bitU_le hb u)) w
          · obtain ⟨hB, h, l, hh, hl, h1, h2, l1, l2⟩ := split_nat hsc (by omega)
            rw [putR_two [] hb ha (by omega) hh hl (by omega) (by omega)]
            show Calls Try.prog _ _ w fun e w' => e = .returned (putV 0 (str (([] ++ outL (a * 65536 + h) (b + 16)) ++ outL (outA (a * 65536 + h) (b + 16) * 65536 + l) ((b + 16) % 6 + 16))) 1 _ _) ∧ _
            rw [← str_append, ← str_append]
            have hA := outA_lt (a * 65536 + h) (b + 16)
            exact setR_in2 b a hb ha hw u (by simp; omega) hsc _ _ hh hl hB _ _ _ (fun w => bitsR_any 1 b a h hb (pow_bits hb ha) (by omega) _ rfl w _ rfl _ rfl _ rfl _ rfl) (outL_size _ (by omega)) _ _ _ (fun w => bitsR_any 1 ((b + 16) % 6) _ l (by omega) (pow_bits (by omega) hA) (by omega) _ rfl w _ rfl _ rfl _ rfl _ rfl) (outL_size _ (by omega)) w
end Go.Proofs.Ytldbllfifjdajaa.Sv

/- The document's Has, Scalar and Place of layer 17: walks. -/
import Derived.Test.YtcbjkamjkaiofaaEP17
namespace Go.Proofs.Ytcbjkamjkaiofaa.C17
open Go.ChangeShapes Go.WideShapes Go.ChangeAt Go.RowKit Go.Proofs.Ytcbjkamjkaiofaa.Mem Go.Proofs.Ytcbjkamjkaiofaa.Sp
set_option linter.unusedVariables false
set_option linter.unusedSimpArgs false

theorem gt {a b c : World} {row : Option Nat} (h : a.grownBy b row) (k : b.grownBy c row) : a.grownBy c row := grownBy_trans h k
set_option maxRecDepth 100000 in
set_option maxHeartbeats 1000000 in
theorem hasRef (k : Int) (H : Bool) (hH : Hid (has k = H)) (w : World) : Calls Try.prog 11 #[.int .i64 k] w fun e w' => e = .returned (.bool H) ∧ w.grownBy w' none := by
  have hH2 := hH.out
  unfold has at hH2
  clear hH
  by_cases h1 : k = 81
  · subst h1
    simp at hH2
    subst hH2
    go_enter Try.func11, Try.ntmps11
    go_wp2
    go_ret
    exact ⟨rfl, grownBy_refl _ _⟩
  · have b1 : (k == 81) = false := by simpa using h1
    by_cases h2 : k = 84
    · subst h2
      simp at hH2
      subst hH2
      clear h1
      go_enter Try.func11, Try.ntmps11
      go_wp2
      go_ret
      exact ⟨rfl, grownBy_refl _ _⟩
    · have b2 : (k == 84) = false := by simpa using h2
      by_cases h3 : k = 86
      · subst h3
        simp at hH2
        subst hH2
        clear h1 h2
        go_enter Try.func11, Try.ntmps11
        go_wp2
        go_ret
        exact ⟨rfl, grownBy_refl _ _⟩
      · have b3 : (k == 86) = false := by simpa using h3
        simp [h1, h2, h3] at hH2
        subst hH2
        go_enter Try.func11, Try.ntmps11
        go_wp2
        go_ret
        exact ⟨rfl, grownBy_refl _ _⟩
set_option maxRecDepth 100000 in
set_option maxHeartbeats 1000000 in
theorem scRef (k : Int) (r c : Int) (hc : C14.I64 c) (w : World) (R : Option Nat) (hR : Hid (esc k r c = R)) : Calls Try.prog 15 #[.int .i64 k, .int .i64 r, .int .i64 c] w fun e w' => e = .returned (.tuple #[.int .i32 ((R.getD 0 : Nat) : Int), .bool R.isSome]) ∧ w.grownBy w' none := by
  have hR2 := hR.out
  unfold esc at hR2
  by_cases h1 : k = 81
  · rw [if_pos h1] at hR2
    have a1 := Hid.mk' (fun w => C14.refScalar_any r c hc w R (Hid.mk' hR2))
    subst h1
    clear hR
    go_enter Try.func15, Try.ntmps15
    go_wp2_with (go_at_call 25; refine (a1.out _).mono ?_; rintro e w1 ⟨rfl, hg1⟩)
    go_ret2
    exact ⟨rfl, hg1⟩
  · rw [if_neg h1] at hR2
    have b1 : (k == 81) = false := by simpa using h1
    by_cases h2 : k = 84
    · rw [if_pos h2] at hR2
      have a1 := Hid.mk' (fun w => C15.refScalar_any r c hc w R (Hid.mk' hR2))
      subst h2
      clear hR
      go_enter Try.func15, Try.ntmps15
      go_wp2_with (go_at_call 26; refine (a1.out _).mono ?_; rintro e w1 ⟨rfl, hg1⟩)
      go_ret2
      exact ⟨rfl, hg1⟩
    · rw [if_neg h2] at hR2
      have b2 : (k == 84) = false := by simpa using h2
      have a1 := Hid.mk' (fun w => C16.refScalar_any r c hc w R (Hid.mk' hR2))
      clear hR
      go_enter Try.func15, Try.ntmps15
      go_wp2_with (go_at_call 27; refine (a1.out _).mono ?_; rintro e w1 ⟨rfl, hg1⟩)
      go_ret2
      exact ⟨rfl, hg1⟩
set_option maxRecDepth 100000 in
set_option maxHeartbeats 1000000 in
theorem plRef (k : Int) (u : Int) (w : World) (A B : Nat) (ok : Bool) (hP : Hid (epl k u = (A, B, ok))) : Calls Try.prog 23 #[.int .i64 k, .int .i32 u] w fun e w' => e = .returned (.tuple #[.int .i64 (A : Int), .int .i64 (B : Int), .bool ok]) ∧ w.grownBy w' none := by
  have hR2 := hP.out
  unfold epl at hR2
  by_cases h1 : k = 81
  · rw [if_pos h1] at hR2
    have a1 := Hid.mk' (fun w => C14.refPlace_any u w A B ok (Hid.mk' hR2))
    subst h1
    clear hP
    go_enter Try.func23, Try.ntmps23
    go_wp2_with (go_at_call 35; refine (a1.out _).mono ?_; rintro e w1 ⟨rfl, hg1⟩)
    go_ret3
    exact ⟨rfl, hg1⟩
  · rw [if_neg h1] at hR2
    have b1 : (k == 81) = false := by simpa using h1
    by_cases h2 : k = 84
    · rw [if_pos h2] at hR2
      have a1 := Hid.mk' (fun w => C15.refPlace_any u w A B ok (Hid.mk' hR2))
      subst h2
      clear hP
      go_enter Try.func23, Try.ntmps23
      go_wp2_with (go_at_call 36; refine (a1.out _).mono ?_; rintro e w1 ⟨rfl, hg1⟩)
      go_ret3
      exact ⟨rfl, hg1⟩
    · rw [if_neg h2] at hR2
      have b2 : (k == 84) = false := by simpa using h2
      have a1 := Hid.mk' (fun w => C16.refPlace_any u w A B ok (Hid.mk' hR2))
      clear hP
      go_enter Try.func23, Try.ntmps23
      go_wp2_with (go_at_call 37; refine (a1.out _).mono ?_; rintro e w1 ⟨rfl, hg1⟩)
      go_ret3
      exact ⟨rfl, hg1⟩
theorem halfRef (c : Nat) (hc : c < 256) (n : Nat) (hn : Hid (C14.haR c = some n)) (w : World) : Calls Try.prog 20 #[.int .u8 (c : Int)] w fun e w' => e = .returned (.tuple #[.int .i32 (n : Int), .bool true]) ∧ w.grownBy w' none :=
  (C14.refHalf_any c hc w (some n) hn).mono (fun e w' h => ⟨h.1, by rw [h.2]; exact grownBy_refl _ _⟩)
theorem halfByteRef (u : Int) (b : Nat) (hb : Hid (C14.hbR u = some b)) (w : World) : Calls Try.prog 24 #[.int .i32 u] w fun e w' => e = .returned (.tuple #[.int .u8 (b : Int), .bool true]) ∧ w.grownBy w' none :=
  (C14.refHalfByte_any u w (some b) hb).mono (fun e w' h => ⟨h.1, by rw [h.2]; exact grownBy_refl _ _⟩)
end Go.Proofs.Ytcbjkamjkaiofaa.C17

/- The program's isShift, isAlone, ofPair, wayJP, way and units of layer 21: walks. -/
import Derived.Test.YtdobjijebalkkaaIP21
import Derived.Test.YtdobjijebalkkaaGp14
import Derived.Test.YtdobjijebalkkaaGp16
import Derived.Test.YtdobjijebalkkaaGh14
import Derived.Test.YtdobjijebalkkaaCs
import Derived.Test.YtdobjijebalkkaaRegion
import Derived.Laws.Runes
import Derived.Deep.RegionHeld3
import Derived.BigQuiet
namespace Go.Proofs.Ytdobjijebalkkaa.C21
open Go.ChangeShapes Go.WideShapes Go.ChangeAt Go.RowKit Go.Proofs.Ytdobjijebalkkaa.Mem Go.Proofs.Ytdobjijebalkkaa.Cb Go.Proofs.Ytdobjijebalkkaa.Sp
set_option linter.unusedVariables false
set_option linter.unusedSimpArgs false

set_option maxRecDepth 100000 in
set_option maxHeartbeats 1000000 in
theorem sh_14  (w : World) : Calls Try.prog 39 #[.int .i32 14] w fun e w' => e = .returned (.bool true) ∧ w.grownBy w' none := by
  have x14 : ∀ h : 0 < (⟨#[14]⟩ : ByteArray).size, ((⟨#[14]⟩ : ByteArray)[0]'h).toNat = 14 := fun _ => rfl
  have x15 : ∀ h : 0 < (⟨#[15]⟩ : ByteArray).size, ((⟨#[15]⟩ : ByteArray)[0]'h).toNat = 15 := fun _ => rfl
  go_enter Try.func39, Try.ntmps39
  go_wp2
  go_ret
  exact ⟨rfl, (grownBy_refl _ _)⟩
set_option maxRecDepth 100000 in
set_option maxHeartbeats 1000000 in
theorem sh_15  (w : World) : Calls Try.prog 39 #[.int .i32 15] w fun e w' => e = .returned (.bool true) ∧ w.grownBy w' none := by
  have x14 : ∀ h : 0 < (⟨#[14]⟩ : ByteArray).size, ((⟨#[14]⟩ : ByteArray)[0]'h).toNat = 14 := fun _ => rfl
  have x15 : ∀ h : 0 < (⟨#[15]⟩ : ByteArray).size, ((⟨#[15]⟩ : ByteArray)[0]'h).toNat = 15 := fun _ => rfl
  go_enter Try.func39, Try.ntmps39
  go_wp2
  go_ret
  exact ⟨rfl, (grownBy_refl _ _)⟩
set_option maxRecDepth 100000 in
set_option maxHeartbeats 1000000 in
theorem sh_no (u : Int) (h1 : u ≠ 14) (h2 : u ≠ 15) (w : World) : Calls Try.prog 39 #[.int .i32 u] w fun e w' => e = .returned (.bool false) ∧ w.grownBy w' none := by
  have x14 : ∀ h : 0 < (⟨#[14]⟩ : ByteArray).size, ((⟨#[14]⟩ : ByteArray)[0]'h).toNat = 14 := fun _ => rfl
  have x15 : ∀ h : 0 < (⟨#[15]⟩ : ByteArray).size, ((⟨#[15]⟩ : ByteArray)[0]'h).toNat = 15 := fun _ => rfl
  have b1 : (u == 14) = false := by simp; omega
  have b2 : (u == 15) = false := by simp; omega
  clear h1 h2
  go_enter Try.func39, Try.ntmps39
  go_wp2
  go_ret
  exact ⟨rfl, (grownBy_refl _ _)⟩
set_option maxRecDepth 100000 in
set_option maxHeartbeats 1000000 in
theorem al_yes (n : Nat) (hn : n < 128) (w : World) : Calls Try.prog 54 #[.int .i32 (n : Int)] w fun e w' => e = .returned (.bool true) ∧ w.grownBy w' none := by
  have p0 : decide (0 ≤ (n : Int)) = true := by simp
  have p1 : decide ((n : Int) < 128) = true := by simp; omega
  go_enter Try.func54, Try.ntmps54
  go_wp2
  go_ret
  exact ⟨rfl, (grownBy_refl _ _)⟩
set_option maxRecDepth 100000 in
set_option maxHeartbeats 1000000 in
theorem al_neg (u : Int) (h : u < 0) (w : World) : Calls Try.prog 54 #[.int .i32 u] w fun e w' => e = .returned (.bool false) ∧ w.grownBy w' none := by
  have p0 : decide (0 ≤ u) = false := by simp; omega
  go_enter Try.func54, Try.ntmps54
  go_wp2
  go_ret
  exact ⟨rfl, (grownBy_refl _ _)⟩
set_option maxRecDepth 100000 in
set_option maxHeartbeats 1000000 in
theorem al_big (u : Int) (h : 128 ≤ u) (w : World) : Calls Try.prog 54 #[.int .i32 u] w fun e w' => e = .returned (.bool false) ∧ w.grownBy w' none := by
  have p0 : decide (0 ≤ u) = true := by simp; omega
  have p1 : decide (u < 128) = false := by simp; omega
  go_enter Try.func54, Try.ntmps54
  go_wp2
  go_ret
  exact ⟨rfl, (grownBy_refl _ _)⟩
theorem al_no (u : Int) (h : ¬ (0 ≤ u ∧ u < 128)) (w : World) : Calls Try.prog 54 #[.int .i32 u] w fun e w' => e = .returned (.bool false) ∧ w.grownBy w' none := by
  by_cases h1 : u < 0
  · exact al_neg u h1 w
  · exact al_big u (by omega) w
set_option maxRecDepth 100000 in
set_option maxHeartbeats 1000000 in
theorem op_yes (c : Nat) (h1 : 33 ≤ c) (h2 : c ≤ 126) (w : World) : Calls Try.prog 50 #[.int .u8 (c : Int)] w fun e w' => e = .returned (.bool true) ∧ w.grownBy w' none := by
  have p1 : decide (32 < (c : Int)) = true := by simp; omega
  have p2 : decide ((c : Int) ≤ 126) = true := by simp; omega
  go_enter Try.func50, Try.ntmps50
  go_wp2
  go_ret
  exact ⟨rfl, (grownBy_refl _ _)⟩
set_option maxRecDepth 100000 in
set_option maxHeartbeats 1000000 in
theorem op_low (c : Nat) (h1 : c < 33) (w : World) : Calls Try.prog 50 #[.int .u8 (c : Int)] w fun e w' => e = .returned (.bool false) ∧ w.grownBy w' none := by
  have p1 : decide (32 < (c : Int)) = false := by simp; omega
  go_enter Try.func50, Try.ntmps50
  go_wp2
  go_ret
  exact ⟨rfl, (grownBy_refl _ _)⟩
set_option maxRecDepth 100000 in
set_option maxHeartbeats 1000000 in
theorem op_big (c : Nat) (h1 : 126 < c) (w : World) : Calls Try.prog 50 #[.int .u8 (c : Int)] w fun e w' => e = .returned (.bool false) ∧ w.grownBy w' none := by
  have p1 : decide (32 < (c : Int)) = true := by simp; omega
  have p2 : decide ((c : Int) ≤ 126) = false := by simp; omega
  go_enter Try.func50, Try.ntmps50
  go_wp2
  go_ret
  exact ⟨rfl, (grownBy_refl _ _)⟩
theorem op_no (c : Nat) (h : c < 33 ∨ 126 < c) (w : World) : Calls Try.prog 50 #[.int .u8 (c : Int)] w fun e w' => e = .returned (.bool false) ∧ w.grownBy w' none := by
  by_cases h1 : c < 33
  · exact op_low c h1 w
  · exact op_big c (by omega) w
set_option maxRecDepth 100000 in
set_option maxHeartbeats 1000000 in
theorem wj_0  (w : World) : Calls Try.prog 44 #[.int .i64 0] w fun e w' => e = .returned (.string ⟨#[27, 40, 66]⟩) ∧ w.grownBy w' none := by
  go_enter Try.func44, Try.ntmps44
  go_wp2
  go_ret
  exact ⟨rfl, (grownBy_refl _ _)⟩
set_option maxRecDepth 100000 in
set_option maxHeartbeats 1000000 in
theorem wj_1  (w : World) : Calls Try.prog 44 #[.int .i64 1] w fun e w' => e = .returned (.string ⟨#[27, 40, 74]⟩) ∧ w.grownBy w' none := by
  go_enter Try.func44, Try.ntmps44
  go_wp2
  go_ret
  exact ⟨rfl, (grownBy_refl _ _)⟩
set_option maxRecDepth 100000 in
set_option maxHeartbeats 1000000 in
theorem wj_2  (w : World) : Calls Try.prog 44 #[.int .i64 2] w fun e w' => e = .returned (.string ⟨#[27, 36, 66]⟩) ∧ w.grownBy w' none := by
  go_enter Try.func44, Try.ntmps44
  go_wp2
  go_ret
  exact ⟨rfl, (grownBy_refl _ _)⟩
set_option maxRecDepth 100000 in
set_option maxHeartbeats 1000000 in
theorem wy_83_1_0  (w : World) : Calls Try.prog 27 #[.int .i64 83, .int .i64 1, .int .i64 0] w fun e w' => e = .returned (.string ⟨#[27, 40, 66]⟩) ∧ w.grownBy w' none := by
  go_enter Try.func27, Try.ntmps27
  go_wp2_with (first
    | (go_at_call 44; refine (wj_0 _).mono ?_; rintro e w1 ⟨rfl, hg1⟩))
  go_ret
  exact ⟨rfl, hg1⟩
set_option maxRecDepth 100000 in
set_option maxHeartbeats 1000000 in
theorem wy_83_1_1  (w : World) : Calls Try.prog 27 #[.int .i64 83, .int .i64 1, .int .i64 1] w fun e w' => e = .returned (.string ⟨#[]⟩) ∧ w.grownBy w' none := by
  go_enter Try.func27, Try.ntmps27
  go_wp2
  go_ret
  exact ⟨rfl, (grownBy_refl _ _)⟩
set_option maxRecDepth 100000 in
set_option maxHeartbeats 1000000 in
theorem wy_83_1_2  (w : World) : Calls Try.prog 27 #[.int .i64 83, .int .i64 1, .int .i64 2] w fun e w' => e = .returned (.string ⟨#[27, 36, 66]⟩) ∧ w.grownBy w' none := by
  go_enter Try.func27, Try.ntmps27
  go_wp2_with (first
    | (go_at_call 44; refine (wj_2 _).mono ?_; rintro e w1 ⟨rfl, hg1⟩))
  go_ret
  exact ⟨rfl, hg1⟩
set_option maxRecDepth 100000 in
set_option maxHeartbeats 1000000 in
theorem wy_83_2_0  (w : World) : Calls Try.prog 27 #[.int .i64 83, .int .i64 2, .int .i64 0] w fun e w' => e = .returned (.string ⟨#[27, 40, 66]⟩) ∧ w.grownBy w' none := by
  go_enter Try.func27, Try.ntmps27
  go_wp2_with (first
    | (go_at_call 44; refine (wj_0 _).mono ?_; rintro e w1 ⟨rfl, hg1⟩))
  go_ret
  exact ⟨rfl, hg1⟩
set_option maxRecDepth 100000 in
set_option maxHeartbeats 1000000 in
theorem wy_83_2_1  (w : World) : Calls Try.prog 27 #[.int .i64 83, .int .i64 2, .int .i64 1] w fun e w' => e = .returned (.string ⟨#[27, 40, 74]⟩) ∧ w.grownBy w' none := by
  go_enter Try.func27, Try.ntmps27
  go_wp2_with (first
    | (go_at_call 44; refine (wj_1 _).mono ?_; rintro e w1 ⟨rfl, hg1⟩))
  go_ret
  exact ⟨rfl, hg1⟩
set_option maxRecDepth 100000 in
set_option maxHeartbeats 1000000 in
theorem wy_83_2_2  (w : World) : Calls Try.prog 27 #[.int .i64 83, .int .i64 2, .int .i64 2] w fun e w' => e = .returned (.string ⟨#[]⟩) ∧ w.grownBy w' none := by
  go_enter Try.func27, Try.ntmps27
  go_wp2
  go_ret
  exact ⟨rfl, (grownBy_refl _ _)⟩
set_option maxRecDepth 100000 in
set_option maxHeartbeats 1000000 in
theorem wy_83_0_0  (w : World) : Calls Try.prog 27 #[.int .i64 83, .int .i64 0, .int .i64 0] w fun e w' => e = .returned (.string ⟨#[]⟩) ∧ w.grownBy w' none := by
  go_enter Try.func27, Try.ntmps27
  go_wp2
  go_ret
  exact ⟨rfl, (grownBy_refl _ _)⟩
set_option maxRecDepth 100000 in
set_option maxHeartbeats 1000000 in
theorem wy_83_0_1  (w : World) : Calls Try.prog 27 #[.int .i64 83, .int .i64 0, .int .i64 1] w fun e w' => e = .returned (.string ⟨#[27, 40, 74]⟩) ∧ w.grownBy w' none := by
  go_enter Try.func27, Try.ntmps27
  go_wp2_with (first
    | (go_at_call 44; refine (wj_1 _).mono ?_; rintro e w1 ⟨rfl, hg1⟩))
  go_ret
  exact ⟨rfl, hg1⟩
set_option maxRecDepth 100000 in
set_option maxHeartbeats 1000000 in
theorem wy_83_0_2  (w : World) : Calls Try.prog 27 #[.int .i64 83, .int .i64 0, .int .i64 2] w fun e w' => e = .returned (.string ⟨#[27, 36, 66]⟩) ∧ w.grownBy w' none := by
  go_enter Try.func27, Try.ntmps27
  go_wp2_with (first
    | (go_at_call 44; refine (wj_2 _).mono ?_; rintro e w1 ⟨rfl, hg1⟩))
  go_ret
  exact ⟨rfl, hg1⟩
set_option maxRecDepth 100000 in
set_option maxHeartbeats 1000000 in
theorem wy_88_1_1  (w : World) : Calls Try.prog 27 #[.int .i64 88, .int .i64 1, .int .i64 1] w fun e w' => e = .returned (.string ⟨#[]⟩) ∧ w.grownBy w' none := by
  go_enter Try.func27, Try.ntmps27
  go_wp2
  go_ret
  exact ⟨rfl, (grownBy_refl _ _)⟩
set_option maxRecDepth 100000 in
set_option maxHeartbeats 1000000 in
theorem wy_88_1_2  (w : World) : Calls Try.prog 27 #[.int .i64 88, .int .i64 1, .int .i64 2] w fun e w' => e = .returned (.string ⟨#[14]⟩) ∧ w.grownBy w' none := by
  go_enter Try.func27, Try.ntmps27
  go_wp2
  go_ret
  exact ⟨rfl, (grownBy_refl _ _)⟩
set_option maxRecDepth 100000 in
set_option maxHeartbeats 1000000 in
theorem wy_88_2_1  (w : World) : Calls Try.prog 27 #[.int .i64 88, .int .i64 2, .int .i64 1] w fun e w' => e = .returned (.string ⟨#[15]⟩) ∧ w.grownBy w' none := by
  go_enter Try.func27, Try.ntmps27
  go_wp2
  go_ret
  exact ⟨rfl, (grownBy_refl _ _)⟩
set_option maxRecDepth 100000 in
set_option maxHeartbeats 1000000 in
theorem wy_88_2_2  (w : World) : Calls Try.prog 27 #[.int .i64 88, .int .i64 2, .int .i64 2] w fun e w' => e = .returned (.string ⟨#[]⟩) ∧ w.grownBy w' none := by
  go_enter Try.func27, Try.ntmps27
  go_wp2
  go_ret
  exact ⟨rfl, (grownBy_refl _ _)⟩
set_option maxRecDepth 100000 in
set_option maxHeartbeats 1000000 in
theorem wy_88_0_0  (w : World) : Calls Try.prog 27 #[.int .i64 88, .int .i64 0, .int .i64 0] w fun e w' => e = .returned (.string ⟨#[]⟩) ∧ w.grownBy w' none := by
  go_enter Try.func27, Try.ntmps27
  go_wp2
  go_ret
  exact ⟨rfl, (grownBy_refl _ _)⟩
set_option maxRecDepth 100000 in
set_option maxHeartbeats 1000000 in
theorem wy_88_0_1  (w : World) : Calls Try.prog 27 #[.int .i64 88, .int .i64 0, .int .i64 1] w fun e w' => e = .returned (.string ⟨#[27, 36, 41, 67]⟩) ∧ w.grownBy w' none := by
  go_enter Try.func27, Try.ntmps27
  go_wp2_with (first
    | (go_at_call 27; refine (wy_88_1_1 _).mono ?_; rintro e w1 ⟨rfl, hg1⟩))
  go_ret
  exact ⟨rfl, hg1⟩
set_option maxRecDepth 100000 in
set_option maxHeartbeats 1000000 in
theorem wy_88_0_2  (w : World) : Calls Try.prog 27 #[.int .i64 88, .int .i64 0, .int .i64 2] w fun e w' => e = .returned (.string ⟨#[27, 36, 41, 67, 14]⟩) ∧ w.grownBy w' none := by
  go_enter Try.func27, Try.ntmps27
  go_wp2_with (first
    | (go_at_call 27; refine (wy_88_1_2 _).mono ?_; rintro e w1 ⟨rfl, hg1⟩))
  go_ret
  exact ⟨rfl, hg1⟩
theorem enc_low (n : Nat) (hn : n < 128) : Utf8.encode (n : Int) = str [b8 n] := by
  have a6 : Utf8.valid (n : Int) = true := by simp only [Utf8.valid, Bool.or_eq_true, Bool.and_eq_true, decide_eq_true_eq]; omega
  unfold Utf8.encode
  simp only [a6, if_true, Int.toNat_natCast]
  rw [if_pos (by omega)]
  apply ByteArray.ext
  simp [str, b8]
set_option maxRecDepth 100000 in
set_option maxHeartbeats 1000000 in
theorem ur_noj (u : Int) (A D : Nat) (hP : Hid (C14.plT u = (A, D, false))) (w : World) : Calls Try.prog 56 #[.int .i32 u, .int .i64 2, .func (.func 57) #[] #[]] w fun e w' => e = .returned (.tuple #[.string ⟨#[]⟩, .int .i64 0]) ∧ w.grownBy w' none := by
  go_enter Try.func56, Try.ntmps56
  go_wp2_with (go_at_call 57; refine (C14.pPlace u _ A D false hP).mono ?_; rintro e w1 ⟨rfl, hg1⟩)
  go_ret2
  exact ⟨rfl, hg1⟩
set_option maxRecDepth 100000 in
set_option maxHeartbeats 1000000 in
theorem ur_yesj (u : Int) (A D : Nat) (hP : Hid (C14.plT u = (A, D, true))) (hA : A ≤ 94) (hD : D ≤ 94) (x y : Nat) (hx : A + 32 = x) (hy : D + 32 = y) (w : World) : Calls Try.prog 56 #[.int .i32 u, .int .i64 2, .func (.func 57) #[] #[]] w fun e w' => e = .returned (.tuple #[.string (str [b8 x, b8 y]), .int .i64 2]) ∧ w.grownBy w' none := by
  have q1 : 32 + (A : Int) = (x : Int) := by omega
  have q2 : 32 + (D : Int) = (y : Int) := by omega
  have q3 : (x : Int) < 256 := by omega
  have q4 : (y : Int) < 256 := by omega
  go_enter Try.func56, Try.ntmps56
  go_wp2_with (go_at_call 57; refine (C14.pPlace u _ A D true hP).mono ?_; rintro e w1 ⟨rfl, hg1⟩; have hcv := conv_two (show x < 256 by omega) (show y < 256 by omega) w1)
  go_ret2
  exact ⟨rfl, gt hg1 (World.grownBy_alloc _ _ _)⟩
set_option maxRecDepth 100000 in
set_option maxHeartbeats 1000000 in
theorem ur_nok (u : Int) (A D : Nat) (hP : Hid (C16.plT u = (A, D, false))) (w : World) : Calls Try.prog 56 #[.int .i32 u, .int .i64 2, .func (.func 58) #[] #[]] w fun e w' => e = .returned (.tuple #[.string ⟨#[]⟩, .int .i64 0]) ∧ w.grownBy w' none := by
  go_enter Try.func56, Try.ntmps56
  go_wp2_with (go_at_call 58; refine (C16.pPlace u _ A D false hP).mono ?_; rintro e w1 ⟨rfl, hg1⟩)
  go_ret2
  exact ⟨rfl, hg1⟩
set_option maxRecDepth 100000 in
set_option maxHeartbeats 1000000 in
theorem ur_yesk (u : Int) (A D : Nat) (hP : Hid (C16.plT u = (A, D, true))) (hA : A ≤ 94) (hD : D ≤ 94) (x y : Nat) (hx : A + 32 = x) (hy : D + 32 = y) (w : World) : Calls Try.prog 56 #[.int .i32 u, .int .i64 2, .func (.func 58) #[] #[]] w fun e w' => e = .returned (.tuple #[.string (str [b8 x, b8 y]), .int .i64 2]) ∧ w.grownBy w' none := by
  have q1 : 32 + (A : Int) = (x : Int) := by omega
  have q2 : 32 + (D : Int) = (y : Int) := by omega
  have q3 : (x : Int) < 256 := by omega
  have q4 : (y : Int) < 256 := by omega
  go_enter Try.func56, Try.ntmps56
  go_wp2_with (go_at_call 58; refine (C16.pPlace u _ A D true hP).mono ?_; rintro e w1 ⟨rfl, hg1⟩; have hcv := conv_two (show x < 256 by omega) (show y < 256 by omega) w1)
  go_ret2
  exact ⟨rfl, gt hg1 (World.grownBy_alloc _ _ _)⟩
set_option maxRecDepth 100000 in
set_option maxHeartbeats 1000000 in
theorem uj_low (n : Nat) (hn : n < 128) (w : World) : Calls Try.prog 45 #[.int .i32 (n : Int)] w fun e w' => e = .returned (.tuple #[.string (str [b8 n]), .int .i64 0]) ∧ w.grownBy w' none := by
  rw [← enc_low n hn]
  go_enter Try.func45, Try.ntmps45
  go_wp2_with (go_at_call 54; refine (al_yes n hn _).mono ?_; rintro e w1 ⟨rfl, hg1⟩)
  go_ret2
  exact ⟨rfl, hg1⟩
set_option maxRecDepth 100000 in
set_option maxHeartbeats 1000000 in
theorem uj_165  (w : World) : Calls Try.prog 45 #[.int .i32 165] w fun e w' => e = .returned (.tuple #[.string (str [b8 92]), .int .i64 1]) ∧ w.grownBy w' none := by
  have a1 : Hid (∀ w, Calls Try.prog 55 #[.int .i32 165] w fun e w' => e = .returned (.tuple #[.int .u8 92, .bool true]) ∧ w.grownBy w' none) := Hid.mk' (fun w => (C14.pHalfByte 165 w (some 92) (Hid.mk' (by decide +kernel))).mono (fun e w' h => ⟨h.1, by rw [h.2]; exact grownBy_refl _ _⟩))
  go_enter Try.func45, Try.ntmps45
  go_wp2_with (first
    | (go_at_call 54; refine (al_big 165 (by omega) _).mono ?_; rintro e w1 ⟨rfl, hg1⟩)
    | (go_at_call 55; refine (a1.out _).mono ?_; rintro e w2 ⟨rfl, hg2⟩; have hcv : (convert 25 9 (.slice (some ⟨w2.heap.size, 0, none⟩) 1 1)).run Try.prog (w2.alloc (.cells #[.int .u8 92] 5)) = .ok (.string (str [b8 92])) (w2.alloc (.cells #[.int .u8 92] 5)) := conv_one (show 92 < 256 by omega) w2))
  go_ret2
  exact ⟨rfl, gt (gt hg1 hg2) (World.grownBy_alloc _ _ _)⟩
set_option maxRecDepth 100000 in
set_option maxHeartbeats 1000000 in
theorem uj_8254  (w : World) : Calls Try.prog 45 #[.int .i32 8254] w fun e w' => e = .returned (.tuple #[.string (str [b8 126]), .int .i64 1]) ∧ w.grownBy w' none := by
  have a1 : Hid (∀ w, Calls Try.prog 55 #[.int .i32 8254] w fun e w' => e = .returned (.tuple #[.int .u8 126, .bool true]) ∧ w.grownBy w' none) := Hid.mk' (fun w => (C14.pHalfByte 8254 w (some 126) (Hid.mk' (by decide +kernel))).mono (fun e w' h => ⟨h.1, by rw [h.2]; exact grownBy_refl _ _⟩))
  go_enter Try.func45, Try.ntmps45
  go_wp2_with (first
    | (go_at_call 54; refine (al_big 8254 (by omega) _).mono ?_; rintro e w1 ⟨rfl, hg1⟩)
    | (go_at_call 55; refine (a1.out _).mono ?_; rintro e w2 ⟨rfl, hg2⟩; have hcv : (convert 25 9 (.slice (some ⟨w2.heap.size, 0, none⟩) 1 1)).run Try.prog (w2.alloc (.cells #[.int .u8 126] 5)) = .ok (.string (str [b8 126])) (w2.alloc (.cells #[.int .u8 126] 5)) := conv_one (show 126 < 256 by omega) w2))
  go_ret2
  exact ⟨rfl, gt (gt hg1 hg2) (World.grownBy_alloc _ _ _)⟩
set_option maxRecDepth 100000 in
set_option maxHeartbeats 1000000 in
theorem uj_no (u : Int) (h0 : ¬ (0 ≤ u ∧ u < 128)) (h1 : u ≠ 165) (h2 : u ≠ 8254) (A D : Nat) (hP : Hid (C14.plT u = (A, D, false))) (w : World) : Calls Try.prog 45 #[.int .i32 u] w fun e w' => e = .returned (.tuple #[.string ⟨#[]⟩, .int .i64 0]) ∧ w.grownBy w' none := by
  have b1 : (u == 165) = false := by simp; omega
  have b2 : (u == 8254) = false := by simp; omega
  have a1 := Hid.mk' (fun w => al_no u h0 w)
  have a2 := Hid.mk' (fun w => ur_noj u A D hP w)
  clear h0 h1 h2 hP
  go_enter Try.func45, Try.ntmps45
  go_wp2_with (first
    | (go_at_call 54; refine (a1.out _).mono ?_; rintro e w1 ⟨rfl, hg1⟩)
    | (go_at_call 56; refine (a2.out _).mono ?_; rintro e w2 ⟨rfl, hg2⟩))
  go_ret2
  exact ⟨rfl, gt hg1 hg2⟩
set_option maxRecDepth 100000 in
set_option maxHeartbeats 1000000 in
theorem uk_no (u : Int) (h0 : ¬ (0 ≤ u ∧ u < 128)) (A D : Nat) (hP : Hid (C16.plT u = (A, D, false))) (w : World) : Calls Try.prog 46 #[.int .i32 u] w fun e w' => e = .returned (.tuple #[.string ⟨#[]⟩, .int .i64 0]) ∧ w.grownBy w' none := by
  have a0 := Hid.mk' (fun w => sh_no u (by omega) (by omega) w)
  have a1 := Hid.mk' (fun w => al_no u h0 w)
  have a2 := Hid.mk' (fun w => ur_nok u A D hP w)
  clear h0 hP
  go_enter Try.func46, Try.ntmps46
  go_wp2_with (first
    | (go_at_call 39; refine (a0.out _).mono ?_; rintro e w0 ⟨rfl, hg0⟩)
    | (go_at_call 54; refine (a1.out _).mono ?_; rintro e w1 ⟨rfl, hg1⟩)
    | (go_at_call 56; refine (a2.out _).mono ?_; rintro e w2 ⟨rfl, hg2⟩))
  go_ret2
  exact ⟨rfl, gt (gt hg0 hg1) hg2⟩
set_option maxRecDepth 100000 in
set_option maxHeartbeats 1000000 in
theorem uj_yes (u : Int) (h0 : ¬ (0 ≤ u ∧ u < 128)) (h1 : u ≠ 165) (h2 : u ≠ 8254) (A D : Nat) (hP : Hid (C14.plT u = (A, D, true))) (hA : A ≤ 94) (hD : D ≤ 94) (x y : Nat) (hx : A + 32 = x) (hy : D + 32 = y) (w : World) : Calls Try.prog 45 #[.int .i32 u] w fun e w' => e = .returned (.tuple #[.string (str [b8 x, b8 y]), .int .i64 2]) ∧ w.grownBy w' none := by
  have b1 : (u == 165) = false := by simp; omega
  have b2 : (u == 8254) = false := by simp; omega
  have a1 := Hid.mk' (fun w => al_no u h0 w)
  have a2 := Hid.mk' (fun w => ur_yesj u A D hP hA hD x y hx hy w)
  clear h0 h1 h2 hP hA hD hx hy
  go_enter Try.func45, Try.ntmps45
  go_wp2_with (first
    | (go_at_call 54; refine (a1.out _).mono ?_; rintro e w1 ⟨rfl, hg1⟩)
    | (go_at_call 56; refine (a2.out _).mono ?_; rintro e w2 ⟨rfl, hg2⟩))
  go_ret2
  exact ⟨rfl, gt hg1 hg2⟩
set_option maxRecDepth 100000 in
set_option maxHeartbeats 1000000 in
theorem uk_yes (u : Int) (h0 : ¬ (0 ≤ u ∧ u < 128)) (A D : Nat) (hP : Hid (C16.plT u = (A, D, true))) (hA : A ≤ 94) (hD : D ≤ 94) (x y : Nat) (hx : A + 32 = x) (hy : D + 32 = y) (w : World) : Calls Try.prog 46 #[.int .i32 u] w fun e w' => e = .returned (.tuple #[.string (str [b8 x, b8 y]), .int .i64 2]) ∧ w.grownBy w' none := by
  have a0 := Hid.mk' (fun w => sh_no u (by omega) (by omega) w)
  have a1 := Hid.mk' (fun w => al_no u h0 w)
  have a2 := Hid.mk' (fun w => ur_yesk u A D hP hA hD x y hx hy w)
  clear h0 hP hA hD hx hy
  go_enter Try.func46, Try.ntmps46
  go_wp2_with (first
    | (go_at_call 39; refine (a0.out _).mono ?_; rintro e w0 ⟨rfl, hg0⟩)
    | (go_at_call 54; refine (a1.out _).mono ?_; rintro e w1 ⟨rfl, hg1⟩)
    | (go_at_call 56; refine (a2.out _).mono ?_; rintro e w2 ⟨rfl, hg2⟩))
  go_ret2
  exact ⟨rfl, gt (gt hg0 hg1) hg2⟩
set_option maxRecDepth 100000 in
set_option maxHeartbeats 1000000 in
theorem uk_14  (w : World) : Calls Try.prog 46 #[.int .i32 14] w fun e w' => e = .returned (.tuple #[.string ⟨#[]⟩, .int .i64 0]) ∧ w.grownBy w' none := by
  go_enter Try.func46, Try.ntmps46
  go_wp2_with (go_at_call 39; refine (sh_14 _).mono ?_; rintro e w1 ⟨rfl, hg1⟩)
  go_ret2
  exact ⟨rfl, hg1⟩
set_option maxRecDepth 100000 in
set_option maxHeartbeats 1000000 in
theorem uk_15  (w : World) : Calls Try.prog 46 #[.int .i32 15] w fun e w' => e = .returned (.tuple #[.string ⟨#[]⟩, .int .i64 0]) ∧ w.grownBy w' none := by
  go_enter Try.func46, Try.ntmps46
  go_wp2_with (go_at_call 39; refine (sh_15 _).mono ?_; rintro e w1 ⟨rfl, hg1⟩)
  go_ret2
  exact ⟨rfl, hg1⟩
set_option maxRecDepth 100000 in
set_option maxHeartbeats 1000000 in
theorem uk_low (n : Nat) (hn : n < 128) (h1 : n ≠ 14) (h2 : n ≠ 15) (w : World) : Calls Try.prog 46 #[.int .i32 (n : Int)] w fun e w' => e = .returned (.tuple #[.string (str [b8 n]), .int .i64 1]) ∧ w.grownBy w' none := by
  have a0 := Hid.mk' (fun w => sh_no (n : Int) (by omega) (by omega) w)
  rw [← enc_low n hn]
  clear h1 h2
  go_enter Try.func46, Try.ntmps46
  go_wp2_with (first
    | (go_at_call 39; refine (a0.out _).mono ?_; rintro e w1 ⟨rfl, hg1⟩)
    | (go_at_call 54; refine (al_yes n hn _).mono ?_; rintro e w2 ⟨rfl, hg2⟩))
  go_ret2
  exact ⟨rfl, gt hg1 hg2⟩
/-- What a number is written as, and the Mode that it is read in; none: it has no place. -/
def uP (k : Int) (u : Int) : Option (List UInt8 × Nat) :=
  if u = 27 then none
  else if k = 83 then
    (if 0 ≤ u ∧ u < 128 then some ([b8 u.toNat], 0) else if u = 165 then some ([b8 92], 1) else if u = 8254 then some ([b8 126], 1) else match C14.plT u with
      | (r, c, true) => some ([b8 (r + 32), b8 (c + 32)], 2)
      | (_, _, false) => none)
  else if u = 14 ∨ u = 15 then none
  else if 0 ≤ u ∧ u < 128 then some ([b8 u.toNat], 1)
  else match C16.plT u with
      | (r, c, true) => some ([b8 (r + 32), b8 (c + 32)], 2)
      | (_, _, false) => none
def uB (p : Option (List UInt8 × Nat)) : ByteArray := match p with | none => ⟨#[]⟩ | some q => str q.1
def uM (p : Option (List UInt8 × Nat)) : Int := match p with | none => 0 | some q => (q.2 : Int)
set_option maxRecDepth 100000 in
set_option maxHeartbeats 1000000 in
theorem uo_esc (k : Int) (w : World) : Calls Try.prog 28 #[.int .i64 k, .int .i32 27] w fun e w' => e = .returned (.tuple #[.string ⟨#[]⟩, .int .i64 0]) ∧ w.grownBy w' none := by
  go_enter Try.func28, Try.ntmps28
  go_wp2
  go_ret2
  exact ⟨rfl, grownBy_refl _ _⟩
set_option maxRecDepth 100000 in
set_option maxHeartbeats 1000000 in
theorem uo_j (u : Int) (h : u ≠ 27) (s : ByteArray) (m : Int) (a1 : Hid (∀ w, Calls Try.prog 45 #[.int .i32 u] w fun e w' => e = .returned (.tuple #[.string s, .int .i64 m]) ∧ w.grownBy w' none)) (w : World) : Calls Try.prog 28 #[.int .i64 83, .int .i32 u] w fun e w' => e = .returned (.tuple #[.string s, .int .i64 m]) ∧ w.grownBy w' none := by
  have b1 : (u == 27) = false := by simp; omega
  clear h
  go_enter Try.func28, Try.ntmps28
  go_wp2_with (go_at_call 45; refine (a1.out _).mono ?_; rintro e w1 ⟨rfl, hg1⟩)
  go_ret2
  exact ⟨rfl, hg1⟩
set_option maxRecDepth 100000 in
set_option maxHeartbeats 1000000 in
theorem uo_k (u : Int) (h : u ≠ 27) (s : ByteArray) (m : Int) (a1 : Hid (∀ w, Calls Try.prog 46 #[.int .i32 u] w fun e w' => e = .returned (.tuple #[.string s, .int .i64 m]) ∧ w.grownBy w' none)) (w : World) : Calls Try.prog 28 #[.int .i64 88, .int .i32 u] w fun e w' => e = .returned (.tuple #[.string s, .int .i64 m]) ∧ w.grownBy w' none := by
  have b1 : (u == 27) = false := by simp; omega
  clear h
  go_enter Try.func28, Try.ntmps28
  go_wp2_with (go_at_call 46; refine (a1.out _).mono ?_; rintro e w1 ⟨rfl, hg1⟩)
  go_ret2
  exact ⟨rfl, hg1⟩
theorem unit_j (u : Int) (h : u ≠ 27) (w : World) : Calls Try.prog 45 #[.int .i32 u] w fun e w' => e = .returned (.tuple #[.string (uB (uP 83 u)), .int .i64 (uM (uP 83 u))]) ∧ w.grownBy w' none := by
  unfold uP
  rw [if_neg h, if_pos rfl]
  by_cases h0 : 0 ≤ u ∧ u < 128
  · rw [if_pos h0]
    obtain ⟨n, rfl⟩ : ∃ n : Nat, u = (n : Int) := ⟨u.toNat, by omega⟩
    rw [Int.toNat_natCast]
    exact uj_low n (by omega) w
  · rw [if_neg h0]
    by_cases h1 : u = 165
    · subst h1
      rw [if_pos rfl]
      exact uj_165 w
    · rw [if_neg h1]
      by_cases h2 : u = 8254
      · subst h2
        rw [if_pos rfl]
        exact uj_8254 w
      · rw [if_neg h2]
        cases ep : C14.plT u with
        | mk A q =>
        obtain ⟨D, ok⟩ := q
        cases ok with
        | false => exact uj_no u h0 h1 h2 A D (Hid.mk' ep) w
        | true =>
          obtain ⟨r1, r2, c1, c2, u0, he⟩ := C14.place_back ep
          exact uj_yes u h0 h1 h2 A D (Hid.mk' ep) r2 c2 _ _ rfl rfl w
theorem unit_k (u : Int) (h : u ≠ 27) (w : World) : Calls Try.prog 46 #[.int .i32 u] w fun e w' => e = .returned (.tuple #[.string (uB (uP 88 u)), .int .i64 (uM (uP 88 u))]) ∧ w.grownBy w' none := by
  unfold uP
  rw [if_neg h, if_neg (by omega)]
  by_cases h1 : u = 14 ∨ u = 15
  · rw [if_pos h1]
    rcases h1 with rfl | rfl
    · exact uk_14 w
    · exact uk_15 w
  · rw [if_neg h1]
    by_cases h0 : 0 ≤ u ∧ u < 128
    · rw [if_pos h0]
      obtain ⟨n, rfl⟩ : ∃ n : Nat, u = (n : Int) := ⟨u.toNat, by omega⟩
      rw [Int.toNat_natCast]
      exact uk_low n (by omega) (by omega) (by omega) w
    · rw [if_neg h0]
      cases ep : C16.plT u with
      | mk A q =>
      obtain ⟨D, ok⟩ := q
      cases ok with
      | false => exact uk_no u h0 A D (Hid.mk' ep) w
      | true =>
        obtain ⟨r1, r2, c1, c2, u0, he⟩ := C16.place_back ep
        exact uk_yes u h0 A D (Hid.mk' ep) r2 c2 _ _ rfl rfl w
theorem unit_any (k : Int) (hk : k = 83 ∨ k = 88) (u : Int) (w : World) : Calls Try.prog 28 #[.int .i64 k, .int .i32 u] w fun e w' => e = .returned (.tuple #[.string (uB (uP k u)), .int .i64 (uM (uP k u))]) ∧ w.grownBy w' none := by
  by_cases h : u = 27
  · subst h
    have : uP k 27 = none := by unfold uP; rw [if_pos rfl]
    rw [this]
    exact uo_esc k w
  · rcases hk with rfl | rfl
    · exact uo_j u h _ _ (Hid.mk' (fun w => unit_j u h w)) w
    · exact uo_k u h _ _ (Hid.mk' (fun w => unit_k u h w)) w
end Go.Proofs.Ytdobjijebalkkaa.C21

/- SjisPacks, and the law's own 'works' of layer 18: walks. -/
import Derived.Test.YtkkdaoimnmghgaaEW18
namespace Go.Proofs.Ytkkdaoimnmghgaa.C18
open Go.ChangeShapes Go.WideShapes Go.ChangeAt Go.RowKit Go.Proofs.Ytkkdaoimnmghgaa.Mem Go.Proofs.Ytkkdaoimnmghgaa.Cb Go.Proofs.Ytkkdaoimnmghgaa.Sp
set_option linter.unusedVariables false
set_option linter.unusedSimpArgs false

theorem ge_a : gE [130, 160] = (0, 2, 1, 12354) := by decide +kernel
theorem se_a : sE 65393 = (0, [177]) := by decide +kernel
theorem pk_a : pkT 94 94 = (239, 252, true) := by decide +kernel
set_option maxRecDepth 100000 in
set_option maxHeartbeats 2000000 in
theorem works_any {P : World → Prop} (C : Con P) (w : World) (hw : P w) : Calls Try.prog 17 #[] w fun e w' => e = .returned (.bool true) ∧ w.grownBy w' none ∧ P w' := by
  have K := Hid.mk' (fun (a b : World) (h : P a) (g : a.grownBy b none) => C.keep h g)
  have hq := Hid.mk' hw
  have a0 : Hid (∀ w, P w → Calls Try.prog 13 #[.int .i64 94, .int .i64 94] w fun e w' => e = .returned (.tuple #[.int .u8 239, .int .u8 252, .bool true]) ∧ w.grownBy w' none) := Hid.mk' (fun w hw => C.pack 94 94 (by unfold I64; omega) (by unfold I64; omega) 239 252 true (Hid.mk' pk_a) w hw)
  have a1 : Hid (∀ w, P w → Calls Try.prog 9 #[.slice (some ⟨w.heap.size, 0, none⟩) 2 2] (w.alloc (.cells #[.int .u8 130, .int .u8 160] 5)) fun e w' => e = .returned (gV 0 2 1 12354) ∧ w.grownBy w' none) := Hid.mk' (fun w hw =>
    ((C.got [130, 160] _ _ _ _ ge_a).out 2 rfl (some ⟨w.heap.size, 0, none⟩) 2 _ (bytes_two (x := 130) (y := 160) (by omega) (by omega) w (0, 0)) (by omega) (by omega) (C.keep hw (World.grownBy_alloc w _ none))).mono (fun e w' h => ⟨h.1, gt (World.grownBy_alloc _ _ _) h.2⟩))
  have a2 : Hid (∀ w, P w → Calls Try.prog 11 #[.int .i32 65393] w fun e w' => e = .returned (pV 0 ⟨#[177]⟩) ∧ w.grownBy w' none) := C.put 65393 (by unfold I32; omega) _ _ se_a
  clear hw C
  go_enter Try.func17, Try.ntmps17
  go_wp2_with (first
    | (go_at_call 13; refine (a0.out _ hq.out).mono ?_; rintro e w1 ⟨rfl, hg1⟩; have hq1 := Hid.mk' (K.out _ _ hq.out hg1))
    | (go_at_call 9; refine (a1.out w1 hq1.out).mono ?_; rintro e w2 ⟨rfl, hg2⟩; have hq2 := Hid.mk' (K.out _ _ hq1.out hg2))
    | (go_at_call 11; refine (a2.out _ hq2.out).mono ?_; rintro e w3 ⟨rfl, hg3⟩; have hq3 := Hid.mk' (K.out _ _ hq2.out hg3)))
  go_ret
  exact ⟨rfl, gt (gt hg1 hg2) hg3, hq3.out⟩
set_option maxRecDepth 100000 in
set_option maxHeartbeats 2000000 in
theorem packs_walk {P : World → Prop} (C : Con P) (r c : Int) (hr : I64 r) (hc : I64 c) (a b : Nat) (ha : a < 256) (hb : b < 256) (w : World) (hw : P w) : Calls Try.prog 5 #[.int .i64 r, .int .i64 c, .int .u8 (a : Int), .int .u8 (b : Int)] w fun e w' => e = .returned (.bool true) ∧ w.grownBy w' none := by
  obtain ⟨⟨A, D, ok⟩, hP⟩ : ∃ p, pkT r c = p := ⟨_, rfl⟩
  obtain ⟨⟨A2, D2, ok2⟩, hU⟩ : ∃ p, upT a b = p := ⟨_, rfl⟩
  have a1 := Hid.mk' (fun w hw => C.pack r c hr hc A D ok (Hid.mk' hP) w hw)
  have a2 := Hid.mk' (fun w => packRef r c A D ok (Hid.mk' hP) w)
  have a3 := Hid.mk' (fun w hw => C.unpack a b ha hb A2 D2 ok2 (Hid.mk' hU) w hw)
  have a4 := Hid.mk' (fun w => unpackRef a b ha hb A2 D2 ok2 (Hid.mk' hU) w)
  have K := Hid.mk' (fun (a b : World) (h : P a) (g : a.grownBy b none) => C.keep h g)
  have hq := Hid.mk' hw
  have e1 : ((A : Int) == (A : Int)) = true := by simp
  have e2 : ((D : Int) == (D : Int)) = true := by simp
  have e3 : ((A2 : Int) == (A2 : Int)) = true := by simp
  have e4 : ((D2 : Int) == (D2 : Int)) = true := by simp
  clear hP hU hr hc hw C
  cases ok <;> cases ok2 <;>
  · go_enter Try.func5, Try.ntmps5
    go_wp2_with (first
      | (go_at_call 13; refine (a1.out _ hq.out).mono ?_; rintro e w1 ⟨rfl, hg1⟩; have hq1 := Hid.mk' (K.out _ _ hq.out hg1))
      | (go_at_call 14; refine (a2.out _).mono ?_; rintro e w2 ⟨rfl, hg2⟩; have hq2 := Hid.mk' (K.out _ _ hq1.out hg2))
      | (go_at_call 15; refine (a3.out _ hq2.out).mono ?_; rintro e w3 ⟨rfl, hg3⟩)
      | (go_at_call 16; refine (a4.out _).mono ?_; rintro e w4 ⟨rfl, hg4⟩))
    go_ret
    exact ⟨rfl, gt (gt (gt hg1 hg2) hg3) hg4⟩
end Go.Proofs.Ytkkdaoimnmghgaa.C18

/- The law's own 'works' of layer 17: a walk. -/
import Derived.Test.YtcbjkamjkaiofaaEW17
namespace Go.Proofs.Ytcbjkamjkaiofaa.C17
open Go.ChangeShapes Go.WideShapes Go.ChangeAt Go.RowKit Go.Proofs.Ytcbjkamjkaiofaa.Mem Go.Proofs.Ytcbjkamjkaiofaa.Cb Go.Proofs.Ytcbjkamjkaiofaa.Sp
set_option linter.unusedVariables false
set_option linter.unusedSimpArgs false

theorem ge_a : gE 81 [164, 162] = (0, 2, 1, 12354) := by decide +kernel
theorem ge_b : gE 84 [254, 254] = (10, 2, 0, 0) := by decide +kernel
theorem se_a : sE 86 44032 = (0, [176, 161]) := by decide +kernel
set_option maxRecDepth 100000 in
set_option maxHeartbeats 2000000 in
theorem works_any {P : World → Prop} (C : Con P) (w : World) (hw : P w) : Calls Try.prog 14 #[] w fun e w' => e = .returned (.bool true) ∧ w.grownBy w' none ∧ P w' := by
  have K := Hid.mk' (fun (a b : World) (h : P a) (g : a.grownBy b none) => C.keep h g)
  have hq := Hid.mk' hw
  have a1 : Hid (∀ w, P w → Calls Try.prog 8 #[.int .i64 81, .slice (some ⟨w.heap.size, 0, none⟩) 2 2] (w.alloc (.cells #[.int .u8 164, .int .u8 162] 5)) fun e w' => e = .returned (gV 0 2 1 12354) ∧ w.grownBy w' none) := Hid.mk' (fun w hw =>
    ((C.got 81 (by unfold I64; omega) [164, 162] _ _ _ _ ge_a).out 2 rfl (some ⟨w.heap.size, 0, none⟩) 2 _ (bytes_two (x := 164) (y := 162) (by omega) (by omega) w (0, 0)) (by omega) (by omega) (C.keep hw (World.grownBy_alloc w _ none))).mono (fun e w' h => ⟨h.1, gt (World.grownBy_alloc _ _ _) h.2⟩))
  have a3 : Hid (∀ w, P w → Calls Try.prog 8 #[.int .i64 84, .slice (some ⟨w.heap.size, 0, none⟩) 2 2] (w.alloc (.cells #[.int .u8 254, .int .u8 254] 5)) fun e w' => e = .returned (gV 10 2 0 0) ∧ w.grownBy w' none) := Hid.mk' (fun w hw =>
    ((C.got 84 (by unfold I64; omega) [254, 254] _ _ _ _ ge_b).out 2 rfl (some ⟨w.heap.size, 0, none⟩) 2 _ (bytes_two (x := 254) (y := 254) (by omega) (by omega) w (0, 0)) (by omega) (by omega) (C.keep hw (World.grownBy_alloc w _ none))).mono (fun e w' h => ⟨h.1, gt (World.grownBy_alloc _ _ _) h.2⟩))
  have a2 : Hid (∀ w, P w → Calls Try.prog 12 #[.int .i64 86, .int .i32 44032] w fun e w' => e = .returned (pV 0 ⟨#[176, 161]⟩) ∧ w.grownBy w' none) := C.put 86 (by unfold I64; omega) 44032 (by unfold I32; omega) _ _ se_a
  clear hw C
  go_enter Try.func14, Try.ntmps14
  go_wp2_with (first
    | (go_at_call_of 8 (Value.int IntKind.i64 81); refine (a1.out w hq.out).mono ?_; rintro e w1 ⟨rfl, hg1⟩; have hq1 := Hid.mk' (K.out _ _ hq.out hg1))
    | (go_at_call 12; refine (a2.out _ hq1.out).mono ?_; rintro e w2 ⟨rfl, hg2⟩; have hq2 := Hid.mk' (K.out _ _ hq1.out hg2))
    | (go_at_call_of 8 (Value.int IntKind.i64 84); refine (a3.out w2 hq2.out).mono ?_; rintro e w3 ⟨rfl, hg3⟩; have hq3 := Hid.mk' (K.out _ _ hq2.out hg3)))
  go_ret
  exact ⟨rfl, gt (gt hg1 hg2) hg3, hq3.out⟩
end Go.Proofs.Ytcbjkamjkaiofaa.C17

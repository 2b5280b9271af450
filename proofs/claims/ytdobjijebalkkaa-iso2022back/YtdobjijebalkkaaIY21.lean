/- The law's own 'works' of layer 21: a walk. -/
import Derived.Test.YtdobjijebalkkaaIW21
namespace Go.Proofs.Ytdobjijebalkkaa.C21
open Go.ChangeShapes Go.WideShapes Go.ChangeAt Go.RowKit Go.Proofs.Ytdobjijebalkkaa.Mem Go.Proofs.Ytdobjijebalkkaa.Cb Go.Proofs.Ytdobjijebalkkaa.Sp
set_option linter.unusedVariables false
set_option linter.unusedSimpArgs false

theorem ge_a : gE 83 0 [27, 41] = (10, 1, 0, 0, 0) := by decide +kernel
theorem se_a : sE 83 0 12354 = (0, [27, 36, 66, 36, 34], 2) := by decide +kernel
theorem se_b : sE 88 0 44032 = (0, [27, 36, 41, 67, 14, 48, 33], 2) := by decide +kernel
set_option maxRecDepth 100000 in
set_option maxHeartbeats 4000000 in
theorem works_any {P : World → Prop} (C : Con P) (w : World) (hw : P w) : Calls Try.prog 16 #[] w fun e w' => e = .returned (.bool true) ∧ w.grownBy w' none ∧ P w' := by
  have K := Hid.mk' (fun (a b : World) (h : P a) (g : a.grownBy b none) => C.keep h g)
  have hq := Hid.mk' hw
  have a1 : Hid (∀ w, P w → Calls Try.prog 14 #[.int .i64 83, stV 0 0 0 0, .int .i32 12354] w fun e w' => e = .returned (.agg (pM 0 ⟨#[27, 36, 66, 36, 34]⟩ 2)) ∧ w.grownBy w' none) := C.put 83 (by unfold I64; omega) 0 0 0 0 0 rfl 12354 (by unfold I32; omega) _ _ _ se_a
  have a2 : Hid (∀ w, P w → Calls Try.prog 14 #[.int .i64 88, stV 0 0 0 0, .int .i32 44032] w fun e w' => e = .returned (.agg (pM 0 ⟨#[27, 36, 41, 67, 14, 48, 33]⟩ 2)) ∧ w.grownBy w' none) := C.put 88 (by unfold I64; omega) 0 0 0 0 0 rfl 44032 (by unfold I32; omega) _ _ _ se_b
  have a3 : Hid (∀ w, P w → Calls Try.prog 8 #[.int .i64 83, stV 0 0 0 0, .slice (some ⟨w.heap.size, 0, none⟩) 2 2] (w.alloc (.cells #[.int .u8 27, .int .u8 41] 5)) fun e w' => e = .returned (.agg (gM 10 1 0 0 0)) ∧ w.grownBy w' none) := Hid.mk' (fun w hw =>
    ((C.got 83 (by unfold I64; omega) 0 0 0 0 0 rfl [27, 41] _ _ _ _ _ ge_a).out 2 rfl (some ⟨w.heap.size, 0, none⟩) 2 _ (bytes_two (x := 27) (y := 41) (by omega) (by omega) w (0, 0)) (by omega) (by omega) (C.keep hw (World.grownBy_alloc w _ none))).mono (fun e w' h => ⟨h.1, gt (World.grownBy_alloc _ _ _) h.2⟩))
  clear hw C
  go_enter Try.func16, Try.ntmps16
  go_upto_region 2 with (first
    | (go_at_call 14; refine (a1.out _ hq.out).mono ?_; rintro e w1 ⟨rfl, hg1⟩)
    | (refine wpList_allocC _ rfl 35 rfl (pZ 0 ⟨#[]⟩) (zeroP _) ?_; intro w2 p2 hg2)
    | (refine wpList_storeC _ rfl 35 _ _ rfl _ (pZ 0 ⟨#[]⟩) (pM 0 ⟨#[27, 36, 66, 36, 34]⟩ 2) infoP rfl (pC_one _ _ _ _ _ _) rfl rfl p2 ?_; intro w3 p3 hg3))
  have hG3 : Hid (w.grownBy w3 none) := Hid.mk' (grownBy_new (gt hg1 hg2) hg3 (fun k hk => by have h5 := Option.some.inj hk; have h6 := hg1.size; omega))
  have hq3 := Hid.mk' (K.out _ _ hq.out hG3.out)
  have p30 := Hid.mk' p3
  clear hg1 hg2 hg3 p2 p3
  generalize w1.heap.size = PA at *
  go_upto_region 3 with (first
    | (go_at_call 14; refine (a2.out _ hq3.out).mono ?_; rintro e w4 ⟨rfl, hg4⟩)
    | (refine wpList_allocC _ rfl 35 rfl (pZ 0 ⟨#[]⟩) (zeroP _) ?_; intro w5 p5 hg5)
    | (refine wpList_storeC _ rfl 35 _ _ rfl _ (pZ 0 ⟨#[]⟩) (pM 0 ⟨#[27, 36, 41, 67, 14, 48, 33]⟩ 2) infoP rfl (pC_one _ _ _ _ _ _) rfl rfl p5 ?_; intro w6 p6 hg6))
  have hg36 : Hid (w3.grownBy w6 none) := Hid.mk' (grownBy_new (gt hg4 hg5) hg6 (fun k hk => by have h5 := Option.some.inj hk; have h6 := hg4.size; omega))
  have hq6 := Hid.mk' (K.out _ _ hq3.out hg36.out)
  have pA := p30.out.kept0 hg36.out
  clear hg4 hg5 hg6 p5
  generalize w4.heap.size = PB at *
  have a7 := a3.out w6 hq6.out
  have x0 := pA.cell 0 rfl
  have y0 := p6.cell 0 rfl
  have x1 := pA.cell 1 rfl
  have y1 := p6.cell 1 rfl
  have x2 := pA.cell 2 rfl
  have y2 := p6.cell 2 rfl
  have x3 := pA.cell 3 rfl
  have y3 := p6.cell 3 rfl
  have x4 := pA.cell 4 rfl
  have y4 := p6.cell 4 rfl
  have x5 := pA.cell 5 rfl
  have y5 := p6.cell 5 rfl
  go_wp2_with (go_at_call 8; refine a7.mono ?_; rintro e w7 ⟨rfl, hg7⟩; have hq7 := Hid.mk' (K.out _ _ hq6.out hg7))
  go_ret
  exact ⟨rfl, gt (gt hG3.out hg36.out) hg7, hq7.out⟩
end Go.Proofs.Ytdobjijebalkkaa.C21

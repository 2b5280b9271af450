/- EucPairs: the walk. -/
import Derived.Test.YtcbjkamjkaiofaaEX17
namespace Go.Proofs.Ytcbjkamjkaiofaa.C17
open Go.ChangeShapes Go.WideShapes Go.ChangeAt Go.RowKit Go.Proofs.Ytcbjkamjkaiofaa.Mem Go.Proofs.Ytcbjkamjkaiofaa.Cb Go.Proofs.Ytcbjkamjkaiofaa.Sp
set_option linter.unusedVariables false
set_option linter.unusedSimpArgs false

theorem kind_at (r : Nat) (hr : r < 3) : ∃ k : Int, has k = true ∧ I64 k ∧ ∀ (w : World) (fr : Nat × Nat), (w.alloc (.cells #[.int .i64 81, .int .i64 84, .int .i64 86] 3 fr)).cell? ⟨w.heap.size, r, none⟩ = some (.int .i64 k) := by
  match r, hr with
  | 0, _ => exact ⟨81, by decide, by unfold I64; omega, fun w fr => cell_at (heap_alloc_new w _) 0 rfl⟩
  | 1, _ => exact ⟨84, by decide, by unfold I64; omega, fun w fr => cell_at (heap_alloc_new w _) 1 rfl⟩
  | 2, _ => exact ⟨86, by decide, by unfold I64; omega, fun w fr => cell_at (heap_alloc_new w _) 2 rfl⟩
theorem gE_pair {k : Int} (hk : has k = true) (r c : Nat) (hr : r < 94) (hc : c < 94) : gE k [b8 (r + 161), b8 (c + 161)] = match esc k (1 + (r : Int)) ((c : Int) + 1) with | none => (10, 2, 0, 0) | some u => (0, 2, 1, (u : Int)) := by
  unfold gE
  rw [hk, if_neg (by simp)]
  simp only [b8_toNat (show r + 161 < 256 by omega), b8_toNat (show c + 161 < 256 by omega)]
  rw [if_neg (by omega), if_neg (by omega)]
  unfold gE2
  rw [if_neg (by omega)]
  unfold two
  rw [if_neg (by omega), show ((r + 161 : Nat) : Int) - 160 = 1 + (r : Int) by omega, show ((c + 161 : Nat) : Int) - 160 = (c : Int) + 1 by omega]
  cases esc k (1 + (r : Int)) ((c : Int) + 1) <;> rfl
theorem zeroI3 : (Try.prog.info? 3).map (·.size) = some 1 := by kernel_rfl
set_option maxRecDepth 100000 in
set_option maxHeartbeats 4000000 in
theorem pairs_walk {P : World → Prop} (C : Con P) (a b : Int) (w : World) (hw : P w) : Calls Try.prog 6 #[.int .i64 a, .int .i64 b] w fun e w' => e = .returned (.bool true) ∧ w.grownBy w' none := by
  obtain ⟨r3, hr3, hr3l⟩ := mod_fit a 3 (by omega) (by omega)
  obtain ⟨r, hr, hr94⟩ := mod_fit b 94 (by omega) (by omega)
  replace hr3 : wrap64 ((IntKind.u64.wrap a).tmod 3) = (r3 : Int) := hr3
  replace hr : wrap64 ((IntKind.u64.wrap b).tmod 94) = (r : Int) := hr
  obtain ⟨k, hk, hkI, hcell⟩ := kind_at r3 hr3l
  have a0 := Hid.mk' (fun w hw => works_any C w hw)
  have K := Hid.mk' (fun (a b : World) (h : P a) (g : a.grownBy b none) => C.keep h g)
  have hq := Hid.mk' hw
  have hC := Hid.mk' C
  have hk0 := Hid.mk' hk
  have hkI0 := Hid.mk' hkI
  have hcell0 := Hid.mk' hcell
  have hr30 : (0 : Int) ≤ (r3 : Int) := by omega
  have hr31 : (r3 : Int) < 3 := by omega
  have hr0 : (r : Int) < 94 := by omega
  clear hw C hk hkI hcell
  go_enter Try.func6, Try.ntmps6
  go_upto_region 4 with (go_at_call 14; refine (a0.out _ hq.out).mono ?_; rintro e w1 ⟨rfl, hg1, hp1⟩; have hq1 := Hid.mk' hp1)
  have hc3 := hcell0.out w1 (0, 0)
  have hG0 : Hid (w.grownBy (w1.alloc (.cells #[.int .i64 81, .int .i64 84, .int .i64 86] 3)) none) := Hid.mk' (gt hg1 (World.grownBy_alloc _ _ _))
  have hq2 : Hid (P (w1.alloc (.cells #[.int .i64 81, .int .i64 84, .int .i64 86] 3))) := Hid.mk' (K.out _ _ hq1.out (World.grownBy_alloc _ _ _))
  clear hg1 hp1 hq1 hcell0 a0 hq
  go_upto_region 6 with (fail)
  clear hr hr3 hc3
  generalize w1.alloc (.cells #[.int .i64 81, .int .i64 84, .int .i64 86] 3) = w2 at *
  generalize w1.heap.size = LB at *
  go_wp2
  go_loopw [7] (fun t7 wx => ∃ (c : Nat), c ≤ 94 ∧ t7 = .int .i64 ((c : Int) + 1) ∧ Hid (w.grownBy wx none) ∧ Hid (P wx)) (fun t7 _ => 95 - (intOf t7).toNat)
  case atStart => exact ⟨0, by omega, rfl, hG0, hq2⟩
  case round =>
    obtain ⟨c, hc, rfl, hG, hp⟩ := hrel
    by_cases hlt : c < 94
    · have hlt' : (c : Int) + 1 ≤ 94 := by omega
      have hx1 : (1 + (r : Int)) + 160 = ((r + 161 : Nat) : Int) := by omega
      have hy1 : ((c : Int) + 1) + 160 = ((c + 161 : Nat) : Int) := by omega
      have hx2 : ((r + 161 : Nat) : Int) < 256 := by omega
      have hy2 : ((c + 161 : Nat) : Int) < 256 := by omega
      have hgp := Hid.mk' (gE_pair hk0.out r c hr94 hlt)
      obtain ⟨R, hR⟩ : ∃ R, Hid (esc k (1 + (r : Int)) ((c : Int) + 1) = R) := ⟨_, Hid.mk' rfl⟩
      have a2 := Hid.mk' (fun w => scRef k (1 + (r : Int)) ((c : Int) + 1) (by unfold C14.I64; omega) w R hR)
      cases R with
      | none =>
        have hg0 : gE k [b8 (r + 161), b8 (c + 161)] = (10, 2, 0, 0) := by rw [hgp.out, hR.out]
        have a1 : Hid (∀ w, P w → Calls Try.prog 8 #[.int .i64 k, .slice (some ⟨w.heap.size, 0, none⟩) 2 2] (w.alloc (.cells #[.int .u8 ((r + 161 : Nat) : Int), .int .u8 ((c + 161 : Nat) : Int)] 5)) fun e w' => e = .returned (gV 10 2 0 0) ∧ w.grownBy w' none) := Hid.mk' (fun w hw =>
          ((hC.out.got k hkI0.out _ _ _ _ _ hg0).out 2 rfl (some ⟨w.heap.size, 0, none⟩) 2 _ (bytes_two (by omega) (by omega) w (0, 0)) (by omega) (by omega) (hC.out.keep hw (World.grownBy_alloc w _ none))).mono (fun e w' h => ⟨h.1, gt (World.grownBy_alloc _ _ _) h.2⟩))
        simp only [Option.getD_none, Option.isSome_none, Int.natCast_zero, Int.cast_ofNat_Int] at a2
        clear hgp hR hg0
        generalize ((r + 161 : Nat) : Int) = X at *
        generalize ((c + 161 : Nat) : Int) = Y at *
        go_wp2_with (first
          | (go_at_call 8; refine (a1.out wr hp.out).mono ?_; rintro e w3 ⟨rfl, hg3⟩)
          | (refine wpList_allocC _ rfl 28 rfl (gZ 0 0 0 0) (zeroG _) ?_; intro w4 g4 hg4)
          | (refine wpList_storeC _ rfl 28 _ _ rfl _ (gZ 0 0 0 0) (gZ 10 2 0 0) infoG rfl (gC_one _ _ _ _ _ _ _ _ _) rfl rfl g4 ?_; intro w5 g5 hg5; have hG5 : Hid (wr.grownBy w5 none) := Hid.mk' (grownBy_new (gt hg3 hg4) hg5 (fun k hk => by have h5 := Option.some.inj hk; have h6 := hg3.size; omega)))
          | (go_at_call 15; refine (a2.out _).mono ?_; rintro e w6 ⟨rfl, hg6⟩; have g6 := g5.kept0 hg6; have hG6 : Hid (wr.grownBy w6 none) := Hid.mk' (gt hG5.out hg6); have y0 := g6.cell 0 (v := .int .i64 10) rfl; have y1 := g6.cell 1 (v := .int .i64 2) rfl; have y2 := g6.cell 2 (v := .int .i64 0) rfl; have y3 := g6.cell 3 (v := .int .i32 0) rfl; have y4 := g6.cell 4 (v := .int .i32 0) rfl; have y5 := g6.cell 5 (v := .int .i64 0) rfl; have y6 := g6.cell 6 (v := .int .i64 0) rfl; have y7 := g6.cell 7 (v := .int .u32 0) rfl; have y8 := g6.cell 8 (v := .int .i32 0) rfl))
        go_roundw
        case rel => exact ⟨c + 1, by omega, by go_num, Hid.mk' (gt hG.out hG6.out), Hid.mk' (K.out _ _ hp.out hG6.out)⟩
        all_goals (simp [intOf]; omega)
      | some n =>
        have hg0 : gE k [b8 (r + 161), b8 (c + 161)] = (0, 2, 1, (n : Int)) := by rw [hgp.out, hR.out]
        have a1 : Hid (∀ w, P w → Calls Try.prog 8 #[.int .i64 k, .slice (some ⟨w.heap.size, 0, none⟩) 2 2] (w.alloc (.cells #[.int .u8 ((r + 161 : Nat) : Int), .int .u8 ((c + 161 : Nat) : Int)] 5)) fun e w' => e = .returned (gV 0 2 1 (n : Int)) ∧ w.grownBy w' none) := Hid.mk' (fun w hw =>
          ((hC.out.got k hkI0.out _ _ _ _ _ hg0).out 2 rfl (some ⟨w.heap.size, 0, none⟩) 2 _ (bytes_two (by omega) (by omega) w (0, 0)) (by omega) (by omega) (hC.out.keep hw (World.grownBy_alloc w _ none))).mono (fun e w' h => ⟨h.1, gt (World.grownBy_alloc _ _ _) h.2⟩))
        simp only [Option.getD_some, Option.isSome_some] at a2
        have hnn : ((n : Int) == (n : Int)) = true := by simp
        clear hgp hR hg0
        generalize ((r + 161 : Nat) : Int) = X at *
        generalize ((c + 161 : Nat) : Int) = Y at *
        go_wp2_with (first
          | (go_at_call 8; refine (a1.out wr hp.out).mono ?_; rintro e w3 ⟨rfl, hg3⟩)
          | (refine wpList_allocC _ rfl 28 rfl (gZ 0 0 0 0) (zeroG _) ?_; intro w4 g4 hg4)
          | (refine wpList_storeC _ rfl 28 _ _ rfl _ (gZ 0 0 0 0) (gZ 0 2 1 (n : Int)) infoG rfl (gC_one _ _ _ _ _ _ _ _ _) rfl rfl g4 ?_; intro w5 g5 hg5; have hG5 : Hid (wr.grownBy w5 none) := Hid.mk' (grownBy_new (gt hg3 hg4) hg5 (fun k hk => by have h5 := Option.some.inj hk; have h6 := hg3.size; omega)))
          | (go_at_call 15; refine (a2.out _).mono ?_; rintro e w6 ⟨rfl, hg6⟩; have g6 := g5.kept0 hg6; have hG6 : Hid (wr.grownBy w6 none) := Hid.mk' (gt hG5.out hg6); have y0 := g6.cell 0 (v := .int .i64 0) rfl; have y1 := g6.cell 1 (v := .int .i64 2) rfl; have y2 := g6.cell 2 (v := .int .i64 1) rfl; have y3 := g6.cell 3 (v := .int .i32 (n : Int)) rfl; have y4 := g6.cell 4 (v := .int .i32 0) rfl; have y5 := g6.cell 5 (v := .int .i64 0) rfl; have y6 := g6.cell 6 (v := .int .i64 0) rfl; have y7 := g6.cell 7 (v := .int .u32 0) rfl; have y8 := g6.cell 8 (v := .int .i32 0) rfl))
        go_roundw
        case rel => exact ⟨c + 1, by omega, by go_num, Hid.mk' (gt hG.out hG6.out), Hid.mk' (K.out _ _ hp.out hG6.out)⟩
        all_goals (simp [intOf]; omega)
    · obtain rfl : c = 94 := by omega
      go_wp2_with fail
      go_ret
      exact ⟨rfl, hG.out⟩
end Go.Proofs.Ytcbjkamjkaiofaa.C17

/- The program's Get of layer 17: walks, a way each. -/
import Derived.Test.YtcbjkamjkaiofaaEM17
import Derived.Test.YtcbjkamjkaiofaaRegion
namespace Go.Proofs.Ytcbjkamjkaiofaa.C17
open Go.ChangeShapes Go.WideShapes Go.ChangeAt Go.RowKit Go.Proofs.Ytcbjkamjkaiofaa.Mem Go.Proofs.Ytcbjkamjkaiofaa.Cb Go.Proofs.Ytcbjkamjkaiofaa.Sp
set_option linter.unusedVariables false
set_option linter.unusedSimpArgs false

set_option maxRecDepth 100000 in
set_option maxHeartbeats 1000000 in
theorem pg_kind (k : Int) (hk : Hid (has k = false)) (ao : Option Addr) (len cap : Nat) (w : World) : Calls Try.prog 8 #[.int .i64 k, .slice ao len cap] w fun e w' => e = .returned (.agg (gZ 5 0 0 0)) ∧ w.grownBy w' none := by
  go_enter Try.func8, Try.ntmps8
  go_upto_region 1 with (first
    | (refine wpList_allocC _ rfl 28 rfl (gZ 0 0 0 0) (zeroG _) ?_; intro w1 rs1 hgr))
  have hG1 : Hid (w.grownBy w1 none) := Hid.mk' hgr
  have hB2 : Hid (w.heap.size ≤ w.heap.size) := Hid.mk' (Nat.le_refl _)
  obtain ⟨B, hBe⟩ : ∃ B, Hid (w.heap.size = B) := ⟨_, Hid.mk' rfl⟩
  replace hB2 : Hid (w.heap.size ≤ B) := Hid.mk' (by rw [← hBe.out]; exact hB2.out)
  rw [hBe.out] at rs1
  first | rw [hBe.out] | skip
  clear hgr
  go_upto_region 2 with (first
    | (go_at_call 16; refine (set_no k hk _).mono ?_; rintro e w2 ⟨rfl, hg⟩; have rs2 := rs1.kept0 hg; have hG2 : Hid (w.grownBy w2 none) := Hid.mk' (gt hG1.out hg); clear rs1 hg )
    | (refine wpList_allocC _ rfl 46 rfl (sZ) (zeroK _) ?_; intro w3 vss3 hg; have hss : Hid (w.heap.size ≤ w2.heap.size) := Hid.mk' hG2.out.size; have hnes : Hid (B < w2.heap.size) := Hid.mk' rs2.lt; obtain ⟨Vs, hVs⟩ : ∃ V, Hid (w2.heap.size = V) := ⟨_, Hid.mk' rfl⟩; have rs3 := rs2.kept0 hg; have hG3 : Hid (w.grownBy w3 none) := Hid.mk' (gt hG2.out hg); clear rs2 hg ; rw [hVs.out] at vss3 hss hnes; rw [hVs.out])
    | (refine wpList_storeC _ rfl 46 _ _ rfl Vs (sZ) (sZ) infoK rfl sZ_one rfl rfl vss3 ?_; intro w4 vss4 hg; have rs4 := rs3.kept hg (by have := hnes.out; intro e; have h5 := Option.some.inj e; omega); have hG4 : Hid (w.grownBy w4 none) := Hid.mk' (grownBy_new hG3.out hg (fun q hq => by have h5 := Option.some.inj hq; have h6 := hss.out; omega)); clear rs3 hg vss3 ))
  go_wp2_with (first
    | (refine wpList_storeC _ rfl 28 _ _ rfl B (gZ 0 0 0 0) (gZ 5 0 0 0) infoG rfl (gC_one _ _ _ _ _ _ _ _ _) rfl rfl rs4 ?_; intro wz rsz hgz))
  refine bodyPost_ret (v := .agg (gZ 5 0 0 0)) (results_cell_row Try.results8 _ wz B 28 _ (0, 0) _ rfl rsz Try.underlying28 rfl infoG) rfl ⟨rfl, ?_⟩
  exact grownBy_new hG4.out hgz (fun k hk => by have h5 := Option.some.inj hk; have h6 := hB2.out; omega)
set_option maxRecDepth 100000 in
set_option maxHeartbeats 1000000 in
theorem pg_more81 (ao : Option Addr) (cap : Nat) (w : World) : Calls Try.prog 8 #[.int .i64 81, .slice ao 0 cap] w fun e w' => e = .returned (.agg (gZ 1 0 0 0)) ∧ w.grownBy w' none := by
  go_enter Try.func8, Try.ntmps8
  go_upto_region 1 with (first
    | (refine wpList_allocC _ rfl 28 rfl (gZ 0 0 0 0) (zeroG _) ?_; intro w1 rs1 hgr))
  have hG1 : Hid (w.grownBy w1 none) := Hid.mk' hgr
  have hB2 : Hid (w.heap.size ≤ w.heap.size) := Hid.mk' (Nat.le_refl _)
  obtain ⟨B, hBe⟩ : ∃ B, Hid (w.heap.size = B) := ⟨_, Hid.mk' rfl⟩
  replace hB2 : Hid (w.heap.size ≤ B) := Hid.mk' (by rw [← hBe.out]; exact hB2.out)
  rw [hBe.out] at rs1
  first | rw [hBe.out] | skip
  clear hgr
  go_upto_region 2 with (first
    | (go_at_call 16; refine (set_81 _).mono ?_; rintro e w2 ⟨rfl, hg⟩; have rs2 := rs1.kept0 hg; have hG2 : Hid (w.grownBy w2 none) := Hid.mk' (gt hG1.out hg); clear rs1 hg )
    | (refine wpList_allocC _ rfl 46 rfl (sZ) (zeroK _) ?_; intro w3 vss3 hg; have hss : Hid (w.heap.size ≤ w2.heap.size) := Hid.mk' hG2.out.size; have hnes : Hid (B < w2.heap.size) := Hid.mk' rs2.lt; obtain ⟨Vs, hVs⟩ : ∃ V, Hid (w2.heap.size = V) := ⟨_, Hid.mk' rfl⟩; have rs3 := rs2.kept0 hg; have hG3 : Hid (w.grownBy w3 none) := Hid.mk' (gt hG2.out hg); clear rs2 hg ; rw [hVs.out] at vss3 hss hnes; rw [hVs.out])
    | (refine wpList_storeC _ rfl 46 _ _ rfl Vs (sZ) ((sK 28 29 true)) infoK rfl (sK_one _ _ _) rfl rfl vss3 ?_; intro w4 vss4 hg; have rs4 := rs3.kept hg (by have := hnes.out; intro e; have h5 := Option.some.inj e; omega); have hG4 : Hid (w.grownBy w4 none) := Hid.mk' (grownBy_new hG3.out hg (fun q hq => by have h5 := Option.some.inj hq; have h6 := hss.out; omega)); clear rs3 hg vss3 ))
  go_wp2_with (first
    | (refine wpList_storeC _ rfl 28 _ _ rfl B (gZ 0 0 0 0) (gZ 1 0 0 0) infoG rfl (gC_one _ _ _ _ _ _ _ _ _) rfl rfl rs4 ?_; intro wz rsz hgz))
  refine bodyPost_ret (v := .agg (gZ 1 0 0 0)) (results_cell_row Try.results8 _ wz B 28 _ (0, 0) _ rfl rsz Try.underlying28 rfl infoG) rfl ⟨rfl, ?_⟩
  exact grownBy_new hG4.out hgz (fun k hk => by have h5 := Option.some.inj hk; have h6 := hB2.out; omega)
set_option maxRecDepth 100000 in
set_option maxHeartbeats 1000000 in
theorem pg_low81 (w : World) (g o : Nat) (b : Nat) (hy0 : Hid (∀ wx, w.grownBy wx none → wx.cell? ⟨g, o, none⟩ = some (.int .u8 (b : Int)))) (len cap : Nat) (hl2 : len ≤ cap) (hl3 : cap ≤ 9223372036854775807) (hl1 : 0 < len) (hl4 : ((len : Int) == 0) = false) (h1 : b < 128) : Calls Try.prog 8 #[.int .i64 81, .slice (some ⟨g, o, none⟩) len cap] w fun e w' => e = .returned (.agg (gZ 0 1 1 (b : Int))) ∧ w.grownBy w' none := by
  have hl8 : (0 : Int) < (len : Int) := by omega
  have p1 : (b : Int) < 128 := by omega
  have p2 : IntKind.i32.wrap (b : Int) = (b : Int) := by rw [IntKind.wrap_i32]; omega
  go_enter Try.func8, Try.ntmps8
  go_upto_region 1 with (first
    | (refine wpList_allocC _ rfl 28 rfl (gZ 0 0 0 0) (zeroG _) ?_; intro w1 rs1 hgr))
  have hG1 : Hid (w.grownBy w1 none) := Hid.mk' hgr
  have hB2 : Hid (w.heap.size ≤ w.heap.size) := Hid.mk' (Nat.le_refl _)
  obtain ⟨B, hBe⟩ : ∃ B, Hid (w.heap.size = B) := ⟨_, Hid.mk' rfl⟩
  replace hB2 : Hid (w.heap.size ≤ B) := Hid.mk' (by rw [← hBe.out]; exact hB2.out)
  rw [hBe.out] at rs1
  first | rw [hBe.out] | skip
  clear hgr
  have y0 := hy0.out _ hG1.out
  go_upto_region 2 with (first
    | (go_at_call 16; refine (set_81 _).mono ?_; rintro e w2 ⟨rfl, hg⟩; have rs2 := rs1.kept0 hg; have hG2 : Hid (w.grownBy w2 none) := Hid.mk' (gt hG1.out hg); clear y0; have y0 := hy0.out _ hG2.out; clear rs1 hg )
    | (refine wpList_allocC _ rfl 46 rfl (sZ) (zeroK _) ?_; intro w3 vss3 hg; have hss : Hid (w.heap.size ≤ w2.heap.size) := Hid.mk' hG2.out.size; have hnes : Hid (B < w2.heap.size) := Hid.mk' rs2.lt; obtain ⟨Vs, hVs⟩ : ∃ V, Hid (w2.heap.size = V) := ⟨_, Hid.mk' rfl⟩; have rs3 := rs2.kept0 hg; have hG3 : Hid (w.grownBy w3 none) := Hid.mk' (gt hG2.out hg); clear rs2 hg ; rw [hVs.out] at vss3 hss hnes; rw [hVs.out])
    | (refine wpList_storeC _ rfl 46 _ _ rfl Vs (sZ) ((sK 28 29 true)) infoK rfl (sK_one _ _ _) rfl rfl vss3 ?_; intro w4 vss4 hg; have rs4 := rs3.kept hg (by have := hnes.out; intro e; have h5 := Option.some.inj e; omega); have hG4 : Hid (w.grownBy w4 none) := Hid.mk' (grownBy_new hG3.out hg (fun q hq => by have h5 := Option.some.inj hq; have h6 := hss.out; omega)); clear y0; have y0 := hy0.out _ hG4.out; clear rs3 hg vss3 ))
  go_wp2_with (first
    | (refine wpList_storeC _ rfl 28 _ _ rfl B (gZ 0 0 0 0) (gZ 0 1 1 (b : Int)) infoG rfl (gC_one _ _ _ _ _ _ _ _ _) rfl rfl rs4 ?_; intro wz rsz hgz))
  refine bodyPost_ret (v := .agg (gZ 0 1 1 (b : Int))) (results_cell_row Try.results8 _ wz B 28 _ (0, 0) _ rfl rsz Try.underlying28 rfl infoG) rfl ⟨rfl, ?_⟩
  exact grownBy_new hG4.out hgz (fun k hk => by have h5 := Option.some.inj hk; have h6 := hB2.out; omega)
set_option maxRecDepth 100000 in
set_option maxHeartbeats 1000000 in
theorem pg_halfz (w : World) (g o : Nat) (b : Nat) (hy0 : Hid (∀ wx, w.grownBy wx none → wx.cell? ⟨g, o, none⟩ = some (.int .u8 (b : Int)))) (h0 : 128 ≤ b) (p2 : ((b : Int) == 142) = true) (ge gn gk ga : Int) (hp : Hid (∀ w1, w.grownBy w1 none → Calls Try.prog 17 #[.slice (some ⟨g, o, none⟩) 0 0] w1 fun e w2 => e = .returned (.agg (gZ ge gn gk ga)) ∧ w1.grownBy w2 none)) : Calls Try.prog 8 #[.int .i64 81, .slice (some ⟨g, o, none⟩) 1 1] w fun e w' => e = .returned (.agg (gZ ge gn gk ga)) ∧ w.grownBy w' none := by
  have p1 : ¬ (b : Int) < 128 := by omega
  go_enter Try.func8, Try.ntmps8
  go_upto_region 1 with (first
    | (refine wpList_allocC _ rfl 28 rfl (gZ 0 0 0 0) (zeroG _) ?_; intro w1 rs1 hgr))
  have hG1 : Hid (w.grownBy w1 none) := Hid.mk' hgr
  have hB2 : Hid (w.heap.size ≤ w.heap.size) := Hid.mk' (Nat.le_refl _)
  obtain ⟨B, hBe⟩ : ∃ B, Hid (w.heap.size = B) := ⟨_, Hid.mk' rfl⟩
  replace hB2 : Hid (w.heap.size ≤ B) := Hid.mk' (by rw [← hBe.out]; exact hB2.out)
  rw [hBe.out] at rs1
  first | rw [hBe.out] | skip
  clear hgr
  have y0 := hy0.out _ hG1.out
  go_upto_region 2 with (first
    | (go_at_call 16; refine (set_81 _).mono ?_; rintro e w2 ⟨rfl, hg⟩; have rs2 := rs1.kept0 hg; have hG2 : Hid (w.grownBy w2 none) := Hid.mk' (gt hG1.out hg); clear y0; have y0 := hy0.out _ hG2.out; clear rs1 hg )
    | (refine wpList_allocC _ rfl 46 rfl (sZ) (zeroK _) ?_; intro w3 vss3 hg; have hss : Hid (w.heap.size ≤ w2.heap.size) := Hid.mk' hG2.out.size; have hnes : Hid (B < w2.heap.size) := Hid.mk' rs2.lt; obtain ⟨Vs, hVs⟩ : ∃ V, Hid (w2.heap.size = V) := ⟨_, Hid.mk' rfl⟩; have rs3 := rs2.kept0 hg; have hG3 : Hid (w.grownBy w3 none) := Hid.mk' (gt hG2.out hg); clear rs2 hg ; rw [hVs.out] at vss3 hss hnes; rw [hVs.out])
    | (refine wpList_storeC _ rfl 46 _ _ rfl Vs (sZ) ((sK 28 29 true)) infoK rfl (sK_one _ _ _) rfl rfl vss3 ?_; intro w4 vss4 hg; have rs4 := rs3.kept hg (by have := hnes.out; intro e; have h5 := Option.some.inj e; omega); have hG4 : Hid (w.grownBy w4 none) := Hid.mk' (grownBy_new hG3.out hg (fun q hq => by have h5 := Option.some.inj hq; have h6 := hss.out; omega)); clear y0; have y0 := hy0.out _ hG4.out; have cs2 := vss4.cell 2 rfl; clear rs3 hg vss3 ))
  go_upto_region 9 with fail
  go_wp2_with (first
    | (go_at_call 17; refine (hp.out _ hG4.out).mono ?_; rintro e w5 ⟨rfl, hg⟩; have rs5 := rs4.kept0 hg; have vss5 := vss4.kept0 hg; have hG5 : Hid (w.grownBy w5 none) := Hid.mk' (gt hG4.out hg); clear y0 cs2; have y0 := hy0.out _ hG5.out; have cs2 := vss5.cell 2 rfl; clear rs4 hg vss4)
    | (refine wpList_storeC _ rfl 28 _ _ rfl B (gZ 0 0 0 0) (gZ ge gn gk ga) infoG rfl (gC_one _ _ _ _ _ _ _ _ _) rfl rfl rs5 ?_; intro wz rsz hgz))
  refine bodyPost_ret (v := .agg (gZ ge gn gk ga)) (results_cell_row Try.results8 _ wz B 28 _ (0, 0) _ rfl rsz Try.underlying28 rfl infoG) rfl ⟨rfl, ?_⟩
  exact grownBy_new hG5.out hgz (fun k hk => by have h5 := Option.some.inj hk; have h6 := hB2.out; omega)
set_option maxRecDepth 100000 in
set_option maxHeartbeats 1000000 in
theorem pg_pairz81 (w : World) (g o : Nat) (b : Nat) (hy0 : Hid (∀ wx, w.grownBy wx none → wx.cell? ⟨g, o, none⟩ = some (.int .u8 (b : Int)))) (h1 : 161 ≤ b) (h2 : b ≤ 254) (ge gn gk ga : Int) (hp : Hid (∀ w1, w.grownBy w1 none → Calls Try.prog 19 #[.agg (sK 28 29 true), .int .u8 (b : Int), .slice (some ⟨g, o, none⟩) 0 0] w1 fun e w2 => e = .returned (.agg (gZ ge gn gk ga)) ∧ w1.grownBy w2 none)) : Calls Try.prog 8 #[.int .i64 81, .slice (some ⟨g, o, none⟩) 1 1] w fun e w' => e = .returned (.agg (gZ ge gn gk ga)) ∧ w.grownBy w' none := by
  have p1 : ¬ (b : Int) < 128 := by omega
  have p2 : ((b : Int) == 142) = false := by simp; omega
  go_enter Try.func8, Try.ntmps8
  go_upto_region 1 with (first
    | (refine wpList_allocC _ rfl 28 rfl (gZ 0 0 0 0) (zeroG _) ?_; intro w1 rs1 hgr))
  have hG1 : Hid (w.grownBy w1 none) := Hid.mk' hgr
  have hB2 : Hid (w.heap.size ≤ w.heap.size) := Hid.mk' (Nat.le_refl _)
  obtain ⟨B, hBe⟩ : ∃ B, Hid (w.heap.size = B) := ⟨_, Hid.mk' rfl⟩
  replace hB2 : Hid (w.heap.size ≤ B) := Hid.mk' (by rw [← hBe.out]; exact hB2.out)
  rw [hBe.out] at rs1
  first | rw [hBe.out] | skip
  clear hgr
  have y0 := hy0.out _ hG1.out
  go_upto_region 2 with (first
    | (go_at_call 16; refine (set_81 _).mono ?_; rintro e w2 ⟨rfl, hg⟩; have rs2 := rs1.kept0 hg; have hG2 : Hid (w.grownBy w2 none) := Hid.mk' (gt hG1.out hg); clear y0; have y0 := hy0.out _ hG2.out; clear rs1 hg )
    | (refine wpList_allocC _ rfl 46 rfl (sZ) (zeroK _) ?_; intro w3 vss3 hg; have hss : Hid (w.heap.size ≤ w2.heap.size) := Hid.mk' hG2.out.size; have hnes : Hid (B < w2.heap.size) := Hid.mk' rs2.lt; obtain ⟨Vs, hVs⟩ : ∃ V, Hid (w2.heap.size = V) := ⟨_, Hid.mk' rfl⟩; have rs3 := rs2.kept0 hg; have hG3 : Hid (w.grownBy w3 none) := Hid.mk' (gt hG2.out hg); clear rs2 hg ; rw [hVs.out] at vss3 hss hnes; rw [hVs.out])
    | (refine wpList_storeC _ rfl 46 _ _ rfl Vs (sZ) ((sK 28 29 true)) infoK rfl (sK_one _ _ _) rfl rfl vss3 ?_; intro w4 vss4 hg; have rs4 := rs3.kept hg (by have := hnes.out; intro e; have h5 := Option.some.inj e; omega); have hG4 : Hid (w.grownBy w4 none) := Hid.mk' (grownBy_new hG3.out hg (fun q hq => by have h5 := Option.some.inj hq; have h6 := hss.out; omega)); clear y0; have y0 := hy0.out _ hG4.out; have cs2 := vss4.cell 2 rfl; clear rs3 hg vss3 ))
  go_upto_region 10 with fail
  go_upto_region 11 with (first
    | (go_at_call 18; refine (high_yes b h1 h2 _).mono ?_; rintro e w5 ⟨rfl, hg⟩; have rs5 := rs4.kept0 hg; have vss5 := vss4.kept0 hg; have hG5 : Hid (w.grownBy w5 none) := Hid.mk' (gt hG4.out hg); clear y0 cs2; have y0 := hy0.out _ hG5.out; have cs2 := vss5.cell 2 rfl; clear rs4 hg vss4))
  have hS : Hid (∀ wx, w5.grownBy wx none → wx.cell? ⟨g, o, none⟩ = some (.int .u8 (b : Int)) ∧ wx.cell? ⟨Vs, 0, none⟩ = some (.func (.func 28) #[] #[]) ∧ wx.cell? ⟨Vs, 1, none⟩ = some (.func (.func 29) #[] #[]) ∧ wx.cell? ⟨Vs, 2, none⟩ = some (.bool true)) := Hid.mk' (fun wx hgx => ⟨hy0.out _ (gt hG5.out hgx), (vss5.kept0 hgx).cell 0 rfl, (vss5.kept0 hgx).cell 1 rfl, (vss5.kept0 hgx).cell 2 rfl⟩)
  refine wp_region_held_drew (S := fun wx => wx.cell? ⟨g, o, none⟩ = some (.int .u8 (b : Int)) ∧ wx.cell? ⟨Vs, 0, none⟩ = some (.func (.func 28) #[] #[]) ∧ wx.cell? ⟨Vs, 1, none⟩ = some (.func (.func 29) #[] #[]) ∧ wx.cell? ⟨Vs, 2, none⟩ = some (.bool true)) (by kernel_rfl) (hS.out _ (grownBy_drew (grownBy_refl _ _))) (fun hHeld => ?_)
  refine wpAnyH_take (i := 0) (v := ?_) rfl (by kernel_rfl) (by kernel_rfl) (by kernel_rfl) (fun _ _ _ h => h) (Or.inl ⟨by rfl, ?_⟩) (by assumption) ?_; rotate_left
  · (intro w hSw; (try dsimp only at hSw); go_simp; try with_reducible rfl)
  try simp only [List.getElem_toArray, List.getElem_cons_zero, Act.put, List.setIfInBounds_toArray, List.set_cons_zero, List.set_cons_succ]
  refine wpAnyH_take (i := 1) (v := ?_) rfl (by kernel_rfl) (by kernel_rfl) (by kernel_rfl) (fun _ _ _ h => h) (Or.inl ⟨by rfl, ?_⟩) (by assumption) ?_; rotate_left
  · (intro w hSw; (try dsimp only at hSw); go_simp; try with_reducible rfl)
  try simp only [List.getElem_toArray, List.getElem_cons_zero, List.getElem_cons_succ, Act.put, List.setIfInBounds_toArray, List.set_cons_zero, List.set_cons_succ]
  refine wpAnyH_take (i := 2) (v := ?_) rfl (by kernel_rfl) (by kernel_rfl) (by kernel_rfl) (fun _ _ _ h => h) (Or.inl ⟨by rfl, ?_⟩) (by assumption) ?_; rotate_left
  · (intro w hSw; (try dsimp only at hSw); go_simp; try with_reducible rfl)
  try simp only [List.getElem_toArray, List.getElem_cons_zero, List.getElem_cons_succ, Act.put, List.setIfInBounds_toArray, List.set_cons_zero, List.set_cons_succ]
  refine wpAnyH_take (i := 3) (v := ?_) rfl (by kernel_rfl) (by kernel_rfl) (by kernel_rfl) (fun _ _ _ h => h) (Or.inl ⟨by rfl, ?_⟩) (by assumption) ?_; rotate_left
  · (intro w hSw; (try dsimp only at hSw); go_simp; try with_reducible rfl)
  try simp only [List.getElem_toArray, List.getElem_cons_zero, List.getElem_cons_succ, Act.put, List.setIfInBounds_toArray, List.set_cons_zero, List.set_cons_succ]
  refine wpAnyH_take (i := 4) (v := ?_) rfl (by kernel_rfl) (by kernel_rfl) (by kernel_rfl) (fun _ _ _ h => h) (Or.inl ⟨by rfl, ?_⟩) (by assumption) ?_; rotate_left
  · (intro w hSw; (try dsimp only at hSw); go_simp; try with_reducible rfl)
  try simp only [List.getElem_toArray, List.getElem_cons_zero, List.getElem_cons_succ, Act.put, List.setIfInBounds_toArray, List.set_cons_zero, List.set_cons_succ]
  refine wpAnyH_take (i := 5) (v := ?_) rfl (by kernel_rfl) (by kernel_rfl) (by kernel_rfl) (fun _ _ _ h => h) (Or.inl ⟨by rfl, ?_⟩) (by assumption) ?_; rotate_left
  · (intro w hSw; (try dsimp only at hSw); go_simp; try with_reducible rfl)
  try simp only [List.getElem_toArray, List.getElem_cons_zero, List.getElem_cons_succ, Act.put, List.setIfInBounds_toArray, List.set_cons_zero, List.set_cons_succ]
  refine wpAnyH_ready (rs := [6]) (by kernel_rfl) (by simp) ?_
  refine AllReadyH.cons rfl (fun K hK => ?_) AllReadyH.nil
  go_simp
  go_at_call 19; refine (hp.out _ (grownBy_drew hG5.out)).mono ?_; rintro e w6 ⟨rfl, hg⟩; have hg6 : w5.grownBy w6 none := gt (grownBy_drew (grownBy_refl _ _)) hg; have rs6 := rs5.kept0 hg6; have vss6 := vss5.kept0 hg6; have hG6 : Hid (w.grownBy w6 none) := Hid.mk' (gt hG5.out hg6)
  refine hK.out _ _ (hS.out _ hg6) (fun hHeld => ?_)
  clear hK K
  try simp only [List.getElem_toArray, List.getElem_cons_zero, List.getElem_cons_succ, Act.put, List.setIfInBounds_toArray, List.set_cons_zero, List.set_cons_succ]
  refine wpAnyH_ready (rs := [7]) (by kernel_rfl) (by simp) ?_
  refine AllReadyH.cons rfl (fun K hK => ?_) AllReadyH.nil
  refine step_storeC (by rfl) 28 _ _ rfl B (gZ 0 0 0 0) (gZ ge gn gk ga) infoG rfl (gC_one _ _ _ _ _ _ _ _ _) rfl rfl rs6 ?_; intro wz rsz hgz; have vsz := vss6.kept hgz (by intro e; have h5 := Option.some.inj e; have h6 := hnes.out; omega); have hb1 := World.block_lt_of_cell? w ⟨g, o, none⟩ (hy0.out _ (grownBy_refl _ _)); have hyz := hgz.cell (hy0.out _ hG6.out) (by intro e; have h5 := Option.some.inj e; have h6 := hB2.out; have h7 : g < w.heap.size := hb1; have h8 : g = B := h5; omega)
  refine hK.out _ _ ⟨hyz, vsz.cell 0 rfl, vsz.cell 1 rfl, vsz.cell 2 rfl⟩ (fun hHeld => ?_)
  clear hK K
  try simp only [List.getElem_toArray, List.getElem_cons_zero, List.getElem_cons_succ, Act.put, List.setIfInBounds_toArray, List.set_cons_zero, List.set_cons_succ]
  refine wpAnyH_done (by kernel_rfl) ?_ _
  (try go_wp2)
  refine bodyPost_ret (v := .agg (gZ ge gn gk ga)) (results_cell_row Try.results8 _ wz B 28 _ (0, 0) _ rfl rsz Try.underlying28 rfl infoG) rfl ⟨rfl, ?_⟩
  exact grownBy_new hG6.out hgz (fun k hk => by have h5 := Option.some.inj hk; have h6 := hB2.out; omega)
set_option maxRecDepth 100000 in
set_option maxHeartbeats 1000000 in
theorem pg_halfn (w : World) (g o : Nat) (b : Nat) (hy0 : Hid (∀ wx, w.grownBy wx none → wx.cell? ⟨g, o, none⟩ = some (.int .u8 (b : Int)))) (len cap : Nat) (hl2 : len ≤ cap) (hl3 : cap ≤ 9223372036854775807) (hl1 : 0 < len) (hl4 : ((len : Int) == 0) = false) (hl5 : ¬ cap = 1) (h0 : 128 ≤ b) (p2 : ((b : Int) == 142) = true) (ge gn gk ga : Int) (hp : Hid (∀ w1, w.grownBy w1 none → Calls Try.prog 17 #[.slice (some ⟨g, o + 1, none⟩) (len - 1) (cap - 1)] w1 fun e w2 => e = .returned (.agg (gZ ge gn gk ga)) ∧ w1.grownBy w2 none)) : Calls Try.prog 8 #[.int .i64 81, .slice (some ⟨g, o, none⟩) len cap] w fun e w' => e = .returned (.agg (gZ ge gn gk ga)) ∧ w.grownBy w' none := by
  have hl8 : (0 : Int) < (len : Int) := by omega
  have hl6 : (1 : Int) ≤ (len : Int) := by omega
  have p1 : ¬ (b : Int) < 128 := by omega
  go_enter Try.func8, Try.ntmps8
  go_upto_region 1 with (first
    | (refine wpList_allocC _ rfl 28 rfl (gZ 0 0 0 0) (zeroG _) ?_; intro w1 rs1 hgr))
  have hG1 : Hid (w.grownBy w1 none) := Hid.mk' hgr
  have hB2 : Hid (w.heap.size ≤ w.heap.size) := Hid.mk' (Nat.le_refl _)
  obtain ⟨B, hBe⟩ : ∃ B, Hid (w.heap.size = B) := ⟨_, Hid.mk' rfl⟩
  replace hB2 : Hid (w.heap.size ≤ B) := Hid.mk' (by rw [← hBe.out]; exact hB2.out)
  rw [hBe.out] at rs1
  first | rw [hBe.out] | skip
  clear hgr
  have y0 := hy0.out _ hG1.out
  go_upto_region 2 with (first
    | (go_at_call 16; refine (set_81 _).mono ?_; rintro e w2 ⟨rfl, hg⟩; have rs2 := rs1.kept0 hg; have hG2 : Hid (w.grownBy w2 none) := Hid.mk' (gt hG1.out hg); clear y0; have y0 := hy0.out _ hG2.out; clear rs1 hg )
    | (refine wpList_allocC _ rfl 46 rfl (sZ) (zeroK _) ?_; intro w3 vss3 hg; have hss : Hid (w.heap.size ≤ w2.heap.size) := Hid.mk' hG2.out.size; have hnes : Hid (B < w2.heap.size) := Hid.mk' rs2.lt; obtain ⟨Vs, hVs⟩ : ∃ V, Hid (w2.heap.size = V) := ⟨_, Hid.mk' rfl⟩; have rs3 := rs2.kept0 hg; have hG3 : Hid (w.grownBy w3 none) := Hid.mk' (gt hG2.out hg); clear rs2 hg ; rw [hVs.out] at vss3 hss hnes; rw [hVs.out])
    | (refine wpList_storeC _ rfl 46 _ _ rfl Vs (sZ) ((sK 28 29 true)) infoK rfl (sK_one _ _ _) rfl rfl vss3 ?_; intro w4 vss4 hg; have rs4 := rs3.kept hg (by have := hnes.out; intro e; have h5 := Option.some.inj e; omega); have hG4 : Hid (w.grownBy w4 none) := Hid.mk' (grownBy_new hG3.out hg (fun q hq => by have h5 := Option.some.inj hq; have h6 := hss.out; omega)); clear y0; have y0 := hy0.out _ hG4.out; have cs2 := vss4.cell 2 rfl; clear rs3 hg vss3 ))
  go_upto_region 9 with fail
  go_wp2_with (first
    | (go_at_call 17; refine (hp.out _ hG4.out).mono ?_; rintro e w5 ⟨rfl, hg⟩; have rs5 := rs4.kept0 hg; have vss5 := vss4.kept0 hg; have hG5 : Hid (w.grownBy w5 none) := Hid.mk' (gt hG4.out hg); clear y0 cs2; have y0 := hy0.out _ hG5.out; have cs2 := vss5.cell 2 rfl; clear rs4 hg vss4)
    | (refine wpList_storeC _ rfl 28 _ _ rfl B (gZ 0 0 0 0) (gZ ge gn gk ga) infoG rfl (gC_one _ _ _ _ _ _ _ _ _) rfl rfl rs5 ?_; intro wz rsz hgz))
  refine bodyPost_ret (v := .agg (gZ ge gn gk ga)) (results_cell_row Try.results8 _ wz B 28 _ (0, 0) _ rfl rsz Try.underlying28 rfl infoG) rfl ⟨rfl, ?_⟩
  exact grownBy_new hG5.out hgz (fun k hk => by have h5 := Option.some.inj hk; have h6 := hB2.out; omega)
set_option maxRecDepth 100000 in
set_option maxHeartbeats 1000000 in
theorem pg_pairn81 (w : World) (g o : Nat) (b : Nat) (hy0 : Hid (∀ wx, w.grownBy wx none → wx.cell? ⟨g, o, none⟩ = some (.int .u8 (b : Int)))) (len cap : Nat) (hl2 : len ≤ cap) (hl3 : cap ≤ 9223372036854775807) (hl1 : 0 < len) (hl4 : ((len : Int) == 0) = false) (hl5 : ¬ cap = 1) (h1 : 161 ≤ b) (h2 : b ≤ 254) (ge gn gk ga : Int) (hp : Hid (∀ w1, w.grownBy w1 none → Calls Try.prog 19 #[.agg (sK 28 29 true), .int .u8 (b : Int), .slice (some ⟨g, o + 1, none⟩) (len - 1) (cap - 1)] w1 fun e w2 => e = .returned (.agg (gZ ge gn gk ga)) ∧ w1.grownBy w2 none)) : Calls Try.prog 8 #[.int .i64 81, .slice (some ⟨g, o, none⟩) len cap] w fun e w' => e = .returned (.agg (gZ ge gn gk ga)) ∧ w.grownBy w' none := by
  have hl8 : (0 : Int) < (len : Int) := by omega
  have hl6 : (1 : Int) ≤ (len : Int) := by omega
  have p1 : ¬ (b : Int) < 128 := by omega
  have p2 : ((b : Int) == 142) = false := by simp; omega
  go_enter Try.func8, Try.ntmps8
  go_upto_region 1 with (first
    | (refine wpList_allocC _ rfl 28 rfl (gZ 0 0 0 0) (zeroG _) ?_; intro w1 rs1 hgr))
  have hG1 : Hid (w.grownBy w1 none) := Hid.mk' hgr
  have hB2 : Hid (w.heap.size ≤ w.heap.size) := Hid.mk' (Nat.le_refl _)
  obtain ⟨B, hBe⟩ : ∃ B, Hid (w.heap.size = B) := ⟨_, Hid.mk' rfl⟩
  replace hB2 : Hid (w.heap.size ≤ B) := Hid.mk' (by rw [← hBe.out]; exact hB2.out)
  rw [hBe.out] at rs1
  first | rw [hBe.out] | skip
  clear hgr
  have y0 := hy0.out _ hG1.out
  go_upto_region 2 with (first
    | (go_at_call 16; refine (set_81 _).mono ?_; rintro e w2 ⟨rfl, hg⟩; have rs2 := rs1.kept0 hg; have hG2 : Hid (w.grownBy w2 none) := Hid.mk' (gt hG1.out hg); clear y0; have y0 := hy0.out _ hG2.out; clear rs1 hg )
    | (refine wpList_allocC _ rfl 46 rfl (sZ) (zeroK _) ?_; intro w3 vss3 hg; have hss : Hid (w.heap.size ≤ w2.heap.size) := Hid.mk' hG2.out.size; have hnes : Hid (B < w2.heap.size) := Hid.mk' rs2.lt; obtain ⟨Vs, hVs⟩ : ∃ V, Hid (w2.heap.size = V) := ⟨_, Hid.mk' rfl⟩; have rs3 := rs2.kept0 hg; have hG3 : Hid (w.grownBy w3 none) := Hid.mk' (gt hG2.out hg); clear rs2 hg ; rw [hVs.out] at vss3 hss hnes; rw [hVs.out])
    | (refine wpList_storeC _ rfl 46 _ _ rfl Vs (sZ) ((sK 28 29 true)) infoK rfl (sK_one _ _ _) rfl rfl vss3 ?_; intro w4 vss4 hg; have rs4 := rs3.kept hg (by have := hnes.out; intro e; have h5 := Option.some.inj e; omega); have hG4 : Hid (w.grownBy w4 none) := Hid.mk' (grownBy_new hG3.out hg (fun q hq => by have h5 := Option.some.inj hq; have h6 := hss.out; omega)); clear y0; have y0 := hy0.out _ hG4.out; have cs2 := vss4.cell 2 rfl; clear rs3 hg vss3 ))
  go_upto_region 10 with fail
  go_upto_region 11 with (first
    | (go_at_call 18; refine (high_yes b h1 h2 _).mono ?_; rintro e w5 ⟨rfl, hg⟩; have rs5 := rs4.kept0 hg; have vss5 := vss4.kept0 hg; have hG5 : Hid (w.grownBy w5 none) := Hid.mk' (gt hG4.out hg); clear y0 cs2; have y0 := hy0.out _ hG5.out; have cs2 := vss5.cell 2 rfl; clear rs4 hg vss4))
  have hS : Hid (∀ wx, w5.grownBy wx none → wx.cell? ⟨g, o, none⟩ = some (.int .u8 (b : Int)) ∧ wx.cell? ⟨Vs, 0, none⟩ = some (.func (.func 28) #[] #[]) ∧ wx.cell? ⟨Vs, 1, none⟩ = some (.func (.func 29) #[] #[]) ∧ wx.cell? ⟨Vs, 2, none⟩ = some (.bool true)) := Hid.mk' (fun wx hgx => ⟨hy0.out _ (gt hG5.out hgx), (vss5.kept0 hgx).cell 0 rfl, (vss5.kept0 hgx).cell 1 rfl, (vss5.kept0 hgx).cell 2 rfl⟩)
  refine wp_region_held_drew (S := fun wx => wx.cell? ⟨g, o, none⟩ = some (.int .u8 (b : Int)) ∧ wx.cell? ⟨Vs, 0, none⟩ = some (.func (.func 28) #[] #[]) ∧ wx.cell? ⟨Vs, 1, none⟩ = some (.func (.func 29) #[] #[]) ∧ wx.cell? ⟨Vs, 2, none⟩ = some (.bool true)) (by kernel_rfl) (hS.out _ (grownBy_drew (grownBy_refl _ _))) (fun hHeld => ?_)
  refine wpAnyH_take (i := 0) (v := ?_) rfl (by kernel_rfl) (by kernel_rfl) (by kernel_rfl) (fun _ _ _ h => h) (Or.inl ⟨by rfl, ?_⟩) (by assumption) ?_; rotate_left
  · (intro w hSw; (try dsimp only at hSw); go_simp; try with_reducible rfl)
  try simp only [List.getElem_toArray, List.getElem_cons_zero, Act.put, List.setIfInBounds_toArray, List.set_cons_zero, List.set_cons_succ]
  refine wpAnyH_take (i := 1) (v := ?_) rfl (by kernel_rfl) (by kernel_rfl) (by kernel_rfl) (fun _ _ _ h => h) (Or.inl ⟨by rfl, ?_⟩) (by assumption) ?_; rotate_left
  · (intro w hSw; (try dsimp only at hSw); go_simp; try with_reducible rfl)
  try simp only [List.getElem_toArray, List.getElem_cons_zero, List.getElem_cons_succ, Act.put, List.setIfInBounds_toArray, List.set_cons_zero, List.set_cons_succ]
  refine wpAnyH_take (i := 2) (v := ?_) rfl (by kernel_rfl) (by kernel_rfl) (by kernel_rfl) (fun _ _ _ h => h) (Or.inl ⟨by rfl, ?_⟩) (by assumption) ?_; rotate_left
  · (intro w hSw; (try dsimp only at hSw); go_simp; try with_reducible rfl)
  try simp only [List.getElem_toArray, List.getElem_cons_zero, List.getElem_cons_succ, Act.put, List.setIfInBounds_toArray, List.set_cons_zero, List.set_cons_succ]
  refine wpAnyH_take (i := 3) (v := ?_) rfl (by kernel_rfl) (by kernel_rfl) (by kernel_rfl) (fun _ _ _ h => h) (Or.inl ⟨by rfl, ?_⟩) (by assumption) ?_; rotate_left
  · (intro w hSw; (try dsimp only at hSw); go_simp; try with_reducible rfl)
  try simp only [List.getElem_toArray, List.getElem_cons_zero, List.getElem_cons_succ, Act.put, List.setIfInBounds_toArray, List.set_cons_zero, List.set_cons_succ]
  refine wpAnyH_take (i := 4) (v := ?_) rfl (by kernel_rfl) (by kernel_rfl) (by kernel_rfl) (fun _ _ _ h => h) (Or.inl ⟨by rfl, ?_⟩) (by assumption) ?_; rotate_left
  · (intro w hSw; (try dsimp only at hSw); go_simp; try with_reducible rfl)
  try simp only [List.getElem_toArray, List.getElem_cons_zero, List.getElem_cons_succ, Act.put, List.setIfInBounds_toArray, List.set_cons_zero, List.set_cons_succ]
  refine wpAnyH_take (i := 5) (v := ?_) rfl (by kernel_rfl) (by kernel_rfl) (by kernel_rfl) (fun _ _ _ h => h) (Or.inl ⟨by rfl, ?_⟩) (by assumption) ?_; rotate_left
  · (intro w hSw; (try dsimp only at hSw); go_simp; try with_reducible rfl)
  try simp only [List.getElem_toArray, List.getElem_cons_zero, List.getElem_cons_succ, Act.put, List.setIfInBounds_toArray, List.set_cons_zero, List.set_cons_succ]
  refine wpAnyH_ready (rs := [6]) (by kernel_rfl) (by simp) ?_
  refine AllReadyH.cons rfl (fun K hK => ?_) AllReadyH.nil
  go_simp
  go_at_call 19; refine (hp.out _ (grownBy_drew hG5.out)).mono ?_; rintro e w6 ⟨rfl, hg⟩; have hg6 : w5.grownBy w6 none := gt (grownBy_drew (grownBy_refl _ _)) hg; have rs6 := rs5.kept0 hg6; have vss6 := vss5.kept0 hg6; have hG6 : Hid (w.grownBy w6 none) := Hid.mk' (gt hG5.out hg6)
  refine hK.out _ _ (hS.out _ hg6) (fun hHeld => ?_)
  clear hK K
  try simp only [List.getElem_toArray, List.getElem_cons_zero, List.getElem_cons_succ, Act.put, List.setIfInBounds_toArray, List.set_cons_zero, List.set_cons_succ]
  refine wpAnyH_ready (rs := [7]) (by kernel_rfl) (by simp) ?_
  refine AllReadyH.cons rfl (fun K hK => ?_) AllReadyH.nil
  refine step_storeC (by rfl) 28 _ _ rfl B (gZ 0 0 0 0) (gZ ge gn gk ga) infoG rfl (gC_one _ _ _ _ _ _ _ _ _) rfl rfl rs6 ?_; intro wz rsz hgz; have vsz := vss6.kept hgz (by intro e; have h5 := Option.some.inj e; have h6 := hnes.out; omega); have hb1 := World.block_lt_of_cell? w ⟨g, o, none⟩ (hy0.out _ (grownBy_refl _ _)); have hyz := hgz.cell (hy0.out _ hG6.out) (by intro e; have h5 := Option.some.inj e; have h6 := hB2.out; have h7 : g < w.heap.size := hb1; have h8 : g = B := h5; omega)
  refine hK.out _ _ ⟨hyz, vsz.cell 0 rfl, vsz.cell 1 rfl, vsz.cell 2 rfl⟩ (fun hHeld => ?_)
  clear hK K
  try simp only [List.getElem_toArray, List.getElem_cons_zero, List.getElem_cons_succ, Act.put, List.setIfInBounds_toArray, List.set_cons_zero, List.set_cons_succ]
  refine wpAnyH_done (by kernel_rfl) ?_ _
  (try go_wp2)
  refine bodyPost_ret (v := .agg (gZ ge gn gk ga)) (results_cell_row Try.results8 _ wz B 28 _ (0, 0) _ rfl rsz Try.underlying28 rfl infoG) rfl ⟨rfl, ?_⟩
  exact grownBy_new hG6.out hgz (fun k hk => by have h5 := Option.some.inj hk; have h6 := hB2.out; omega)
set_option maxRecDepth 100000 in
set_option maxHeartbeats 1000000 in
theorem pg_bad81 (w : World) (g o : Nat) (b : Nat) (hy0 : Hid (∀ wx, w.grownBy wx none → wx.cell? ⟨g, o, none⟩ = some (.int .u8 (b : Int)))) (len cap : Nat) (hl2 : len ≤ cap) (hl3 : cap ≤ 9223372036854775807) (hl1 : 0 < len) (hl4 : ((len : Int) == 0) = false) (h0 : 128 ≤ b) (hb : ¬ b = 142) (h1 : b < 161 ∨ 254 < b) : Calls Try.prog 8 #[.int .i64 81, .slice (some ⟨g, o, none⟩) len cap] w fun e w' => e = .returned (.agg (gZ 10 1 0 0)) ∧ w.grownBy w' none := by
  have hl8 : (0 : Int) < (len : Int) := by omega
  have p1 : ¬ (b : Int) < 128 := by omega
  have p2 : ((b : Int) == 142) = false := by simp; omega
  go_enter Try.func8, Try.ntmps8
  go_upto_region 1 with (first
    | (refine wpList_allocC _ rfl 28 rfl (gZ 0 0 0 0) (zeroG _) ?_; intro w1 rs1 hgr))
  have hG1 : Hid (w.grownBy w1 none) := Hid.mk' hgr
  have hB2 : Hid (w.heap.size ≤ w.heap.size) := Hid.mk' (Nat.le_refl _)
  obtain ⟨B, hBe⟩ : ∃ B, Hid (w.heap.size = B) := ⟨_, Hid.mk' rfl⟩
  replace hB2 : Hid (w.heap.size ≤ B) := Hid.mk' (by rw [← hBe.out]; exact hB2.out)
  rw [hBe.out] at rs1
  first | rw [hBe.out] | skip
  clear hgr
  have y0 := hy0.out _ hG1.out
  go_upto_region 2 with (first
    | (go_at_call 16; refine (set_81 _).mono ?_; rintro e w2 ⟨rfl, hg⟩; have rs2 := rs1.kept0 hg; have hG2 : Hid (w.grownBy w2 none) := Hid.mk' (gt hG1.out hg); clear y0; have y0 := hy0.out _ hG2.out; clear rs1 hg )
    | (refine wpList_allocC _ rfl 46 rfl (sZ) (zeroK _) ?_; intro w3 vss3 hg; have hss : Hid (w.heap.size ≤ w2.heap.size) := Hid.mk' hG2.out.size; have hnes : Hid (B < w2.heap.size) := Hid.mk' rs2.lt; obtain ⟨Vs, hVs⟩ : ∃ V, Hid (w2.heap.size = V) := ⟨_, Hid.mk' rfl⟩; have rs3 := rs2.kept0 hg; have hG3 : Hid (w.grownBy w3 none) := Hid.mk' (gt hG2.out hg); clear rs2 hg ; rw [hVs.out] at vss3 hss hnes; rw [hVs.out])
    | (refine wpList_storeC _ rfl 46 _ _ rfl Vs (sZ) ((sK 28 29 true)) infoK rfl (sK_one _ _ _) rfl rfl vss3 ?_; intro w4 vss4 hg; have rs4 := rs3.kept hg (by have := hnes.out; intro e; have h5 := Option.some.inj e; omega); have hG4 : Hid (w.grownBy w4 none) := Hid.mk' (grownBy_new hG3.out hg (fun q hq => by have h5 := Option.some.inj hq; have h6 := hss.out; omega)); clear y0; have y0 := hy0.out _ hG4.out; have cs2 := vss4.cell 2 rfl; clear rs3 hg vss3 ))
  go_upto_region 10 with fail
  go_wp2_with (first
    | (go_at_call 18; refine (high_no b h1 _).mono ?_; rintro e w5 ⟨rfl, hg⟩; have rs5 := rs4.kept0 hg; have vss5 := vss4.kept0 hg; have hG5 : Hid (w.grownBy w5 none) := Hid.mk' (gt hG4.out hg); clear y0 cs2; have y0 := hy0.out _ hG5.out; have cs2 := vss5.cell 2 rfl; clear rs4 hg vss4)
    | (refine wpList_storeC _ rfl 28 _ _ rfl B (gZ 0 0 0 0) (gZ 10 1 0 0) infoG rfl (gC_one _ _ _ _ _ _ _ _ _) rfl rfl rs5 ?_; intro wz rsz hgz))
  refine bodyPost_ret (v := .agg (gZ 10 1 0 0)) (results_cell_row Try.results8 _ wz B 28 _ (0, 0) _ rfl rsz Try.underlying28 rfl infoG) rfl ⟨rfl, ?_⟩
  exact grownBy_new hG5.out hgz (fun k hk => by have h5 := Option.some.inj hk; have h6 := hB2.out; omega)
set_option maxRecDepth 100000 in
set_option maxHeartbeats 1000000 in
theorem pg_more84 (ao : Option Addr) (cap : Nat) (w : World) : Calls Try.prog 8 #[.int .i64 84, .slice ao 0 cap] w fun e w' => e = .returned (.agg (gZ 1 0 0 0)) ∧ w.grownBy w' none := by
  go_enter Try.func8, Try.ntmps8
  go_upto_region 1 with (first
    | (refine wpList_allocC _ rfl 28 rfl (gZ 0 0 0 0) (zeroG _) ?_; intro w1 rs1 hgr))
  have hG1 : Hid (w.grownBy w1 none) := Hid.mk' hgr
  have hB2 : Hid (w.heap.size ≤ w.heap.size) := Hid.mk' (Nat.le_refl _)
  obtain ⟨B, hBe⟩ : ∃ B, Hid (w.heap.size = B) := ⟨_, Hid.mk' rfl⟩
  replace hB2 : Hid (w.heap.size ≤ B) := Hid.mk' (by rw [← hBe.out]; exact hB2.out)
  rw [hBe.out] at rs1
  first | rw [hBe.out] | skip
  clear hgr
  go_upto_region 2 with (first
    | (go_at_call 16; refine (set_84 _).mono ?_; rintro e w2 ⟨rfl, hg⟩; have rs2 := rs1.kept0 hg; have hG2 : Hid (w.grownBy w2 none) := Hid.mk' (gt hG1.out hg); clear rs1 hg )
    | (refine wpList_allocC _ rfl 46 rfl (sZ) (zeroK _) ?_; intro w3 vss3 hg; have hss : Hid (w.heap.size ≤ w2.heap.size) := Hid.mk' hG2.out.size; have hnes : Hid (B < w2.heap.size) := Hid.mk' rs2.lt; obtain ⟨Vs, hVs⟩ : ∃ V, Hid (w2.heap.size = V) := ⟨_, Hid.mk' rfl⟩; have rs3 := rs2.kept0 hg; have hG3 : Hid (w.grownBy w3 none) := Hid.mk' (gt hG2.out hg); clear rs2 hg ; rw [hVs.out] at vss3 hss hnes; rw [hVs.out])
    | (refine wpList_storeC _ rfl 46 _ _ rfl Vs (sZ) ((sK 30 31 false)) infoK rfl (sK_one _ _ _) rfl rfl vss3 ?_; intro w4 vss4 hg; have rs4 := rs3.kept hg (by have := hnes.out; intro e; have h5 := Option.some.inj e; omega); have hG4 : Hid (w.grownBy w4 none) := Hid.mk' (grownBy_new hG3.out hg (fun q hq => by have h5 := Option.some.inj hq; have h6 := hss.out; omega)); clear rs3 hg vss3 ))
  go_wp2_with (first
    | (refine wpList_storeC _ rfl 28 _ _ rfl B (gZ 0 0 0 0) (gZ 1 0 0 0) infoG rfl (gC_one _ _ _ _ _ _ _ _ _) rfl rfl rs4 ?_; intro wz rsz hgz))
  refine bodyPost_ret (v := .agg (gZ 1 0 0 0)) (results_cell_row Try.results8 _ wz B 28 _ (0, 0) _ rfl rsz Try.underlying28 rfl infoG) rfl ⟨rfl, ?_⟩
  exact grownBy_new hG4.out hgz (fun k hk => by have h5 := Option.some.inj hk; have h6 := hB2.out; omega)
set_option maxRecDepth 100000 in
set_option maxHeartbeats 1000000 in
theorem pg_low84 (w : World) (g o : Nat) (b : Nat) (hy0 : Hid (∀ wx, w.grownBy wx none → wx.cell? ⟨g, o, none⟩ = some (.int .u8 (b : Int)))) (len cap : Nat) (hl2 : len ≤ cap) (hl3 : cap ≤ 9223372036854775807) (hl1 : 0 < len) (hl4 : ((len : Int) == 0) = false) (h1 : b < 128) : Calls Try.prog 8 #[.int .i64 84, .slice (some ⟨g, o, none⟩) len cap] w fun e w' => e = .returned (.agg (gZ 0 1 1 (b : Int))) ∧ w.grownBy w' none := by
  have hl8 : (0 : Int) < (len : Int) := by omega
  have p1 : (b : Int) < 128 := by omega
  have p2 : IntKind.i32.wrap (b : Int) = (b : Int) := by rw [IntKind.wrap_i32]; omega
  go_enter Try.func8, Try.ntmps8
  go_upto_region 1 with (first
    | (refine wpList_allocC _ rfl 28 rfl (gZ 0 0 0 0) (zeroG _) ?_; intro w1 rs1 hgr))
  have hG1 : Hid (w.grownBy w1 none) := Hid.mk' hgr
  have hB2 : Hid (w.heap.size ≤ w.heap.size) := Hid.mk' (Nat.le_refl _)
  obtain ⟨B, hBe⟩ : ∃ B, Hid (w.heap.size = B) := ⟨_, Hid.mk' rfl⟩
  replace hB2 : Hid (w.heap.size ≤ B) := Hid.mk' (by rw [← hBe.out]; exact hB2.out)
  rw [hBe.out] at rs1
  first | rw [hBe.out] | skip
  clear hgr
  have y0 := hy0.out _ hG1.out
  go_upto_region 2 with (first
    | (go_at_call 16; refine (set_84 _).mono ?_; rintro e w2 ⟨rfl, hg⟩; have rs2 := rs1.kept0 hg; have hG2 : Hid (w.grownBy w2 none) := Hid.mk' (gt hG1.out hg); clear y0; have y0 := hy0.out _ hG2.out; clear rs1 hg )
    | (refine wpList_allocC _ rfl 46 rfl (sZ) (zeroK _) ?_; intro w3 vss3 hg; have hss : Hid (w.heap.size ≤ w2.heap.size) := Hid.mk' hG2.out.size; have hnes : Hid (B < w2.heap.size) := Hid.mk' rs2.lt; obtain ⟨Vs, hVs⟩ : ∃ V, Hid (w2.heap.size = V) := ⟨_, Hid.mk' rfl⟩; have rs3 := rs2.kept0 hg; have hG3 : Hid (w.grownBy w3 none) := Hid.mk' (gt hG2.out hg); clear rs2 hg ; rw [hVs.out] at vss3 hss hnes; rw [hVs.out])
    | (refine wpList_storeC _ rfl 46 _ _ rfl Vs (sZ) ((sK 30 31 false)) infoK rfl (sK_one _ _ _) rfl rfl vss3 ?_; intro w4 vss4 hg; have rs4 := rs3.kept hg (by have := hnes.out; intro e; have h5 := Option.some.inj e; omega); have hG4 : Hid (w.grownBy w4 none) := Hid.mk' (grownBy_new hG3.out hg (fun q hq => by have h5 := Option.some.inj hq; have h6 := hss.out; omega)); clear y0; have y0 := hy0.out _ hG4.out; clear rs3 hg vss3 ))
  go_wp2_with (first
    | (refine wpList_storeC _ rfl 28 _ _ rfl B (gZ 0 0 0 0) (gZ 0 1 1 (b : Int)) infoG rfl (gC_one _ _ _ _ _ _ _ _ _) rfl rfl rs4 ?_; intro wz rsz hgz))
  refine bodyPost_ret (v := .agg (gZ 0 1 1 (b : Int))) (results_cell_row Try.results8 _ wz B 28 _ (0, 0) _ rfl rsz Try.underlying28 rfl infoG) rfl ⟨rfl, ?_⟩
  exact grownBy_new hG4.out hgz (fun k hk => by have h5 := Option.some.inj hk; have h6 := hB2.out; omega)
set_option maxRecDepth 100000 in
set_option maxHeartbeats 1000000 in
theorem pg_pairz84 (w : World) (g o : Nat) (b : Nat) (hy0 : Hid (∀ wx, w.grownBy wx none → wx.cell? ⟨g, o, none⟩ = some (.int .u8 (b : Int)))) (h1 : 161 ≤ b) (h2 : b ≤ 254) (ge gn gk ga : Int) (hp : Hid (∀ w1, w.grownBy w1 none → Calls Try.prog 19 #[.agg (sK 30 31 false), .int .u8 (b : Int), .slice (some ⟨g, o, none⟩) 0 0] w1 fun e w2 => e = .returned (.agg (gZ ge gn gk ga)) ∧ w1.grownBy w2 none)) : Calls Try.prog 8 #[.int .i64 84, .slice (some ⟨g, o, none⟩) 1 1] w fun e w' => e = .returned (.agg (gZ ge gn gk ga)) ∧ w.grownBy w' none := by
  have p1 : ¬ (b : Int) < 128 := by omega
  have p2 : ((b : Int) == 142) = false := by simp; omega
  go_enter Try.func8, Try.ntmps8
  go_upto_region 1 with (first
    | (refine wpList_allocC _ rfl 28 rfl (gZ 0 0 0 0) (zeroG _) ?_; intro w1 rs1 hgr))
  have hG1 : Hid (w.grownBy w1 none) := Hid.mk' hgr
  have hB2 : Hid (w.heap.size ≤ w.heap.size) := Hid.mk' (Nat.le_refl _)
  obtain ⟨B, hBe⟩ : ∃ B, Hid (w.heap.size = B) := ⟨_, Hid.mk' rfl⟩
  replace hB2 : Hid (w.heap.size ≤ B) := Hid.mk' (by rw [← hBe.out]; exact hB2.out)
  rw [hBe.out] at rs1
  first | rw [hBe.out] | skip
  clear hgr
  have y0 := hy0.out _ hG1.out
  go_upto_region 2 with (first
    | (go_at_call 16; refine (set_84 _).mono ?_; rintro e w2 ⟨rfl, hg⟩; have rs2 := rs1.kept0 hg; have hG2 : Hid (w.grownBy w2 none) := Hid.mk' (gt hG1.out hg); clear y0; have y0 := hy0.out _ hG2.out; clear rs1 hg )
    | (refine wpList_allocC _ rfl 46 rfl (sZ) (zeroK _) ?_; intro w3 vss3 hg; have hss : Hid (w.heap.size ≤ w2.heap.size) := Hid.mk' hG2.out.size; have hnes : Hid (B < w2.heap.size) := Hid.mk' rs2.lt; obtain ⟨Vs, hVs⟩ : ∃ V, Hid (w2.heap.size = V) := ⟨_, Hid.mk' rfl⟩; have rs3 := rs2.kept0 hg; have hG3 : Hid (w.grownBy w3 none) := Hid.mk' (gt hG2.out hg); clear rs2 hg ; rw [hVs.out] at vss3 hss hnes; rw [hVs.out])
    | (refine wpList_storeC _ rfl 46 _ _ rfl Vs (sZ) ((sK 30 31 false)) infoK rfl (sK_one _ _ _) rfl rfl vss3 ?_; intro w4 vss4 hg; have rs4 := rs3.kept hg (by have := hnes.out; intro e; have h5 := Option.some.inj e; omega); have hG4 : Hid (w.grownBy w4 none) := Hid.mk' (grownBy_new hG3.out hg (fun q hq => by have h5 := Option.some.inj hq; have h6 := hss.out; omega)); clear y0; have y0 := hy0.out _ hG4.out; have cs2 := vss4.cell 2 rfl; clear rs3 hg vss3 ))
  go_upto_region 10 with fail
  go_upto_region 11 with (first
    | (go_at_call 18; refine (high_yes b h1 h2 _).mono ?_; rintro e w5 ⟨rfl, hg⟩; have rs5 := rs4.kept0 hg; have vss5 := vss4.kept0 hg; have hG5 : Hid (w.grownBy w5 none) := Hid.mk' (gt hG4.out hg); clear y0 cs2; have y0 := hy0.out _ hG5.out; have cs2 := vss5.cell 2 rfl; clear rs4 hg vss4))
  have hS : Hid (∀ wx, w5.grownBy wx none → wx.cell? ⟨g, o, none⟩ = some (.int .u8 (b : Int)) ∧ wx.cell? ⟨Vs, 0, none⟩ = some (.func (.func 30) #[] #[]) ∧ wx.cell? ⟨Vs, 1, none⟩ = some (.func (.func 31) #[] #[]) ∧ wx.cell? ⟨Vs, 2, none⟩ = some (.bool false)) := Hid.mk' (fun wx hgx => ⟨hy0.out _ (gt hG5.out hgx), (vss5.kept0 hgx).cell 0 rfl, (vss5.kept0 hgx).cell 1 rfl, (vss5.kept0 hgx).cell 2 rfl⟩)
  refine wp_region_held_drew (S := fun wx => wx.cell? ⟨g, o, none⟩ = some (.int .u8 (b : Int)) ∧ wx.cell? ⟨Vs, 0, none⟩ = some (.func (.func 30) #[] #[]) ∧ wx.cell? ⟨Vs, 1, none⟩ = some (.func (.func 31) #[] #[]) ∧ wx.cell? ⟨Vs, 2, none⟩ = some (.bool false)) (by kernel_rfl) (hS.out _ (grownBy_drew (grownBy_refl _ _))) (fun hHeld => ?_)
  refine wpAnyH_take (i := 0) (v := ?_) rfl (by kernel_rfl) (by kernel_rfl) (by kernel_rfl) (fun _ _ _ h => h) (Or.inl ⟨by rfl, ?_⟩) (by assumption) ?_; rotate_left
  · (intro w hSw; (try dsimp only at hSw); go_simp; try with_reducible rfl)
  try simp only [List.getElem_toArray, List.getElem_cons_zero, Act.put, List.setIfInBounds_toArray, List.set_cons_zero, List.set_cons_succ]
  refine wpAnyH_take (i := 1) (v := ?_) rfl (by kernel_rfl) (by kernel_rfl) (by kernel_rfl) (fun _ _ _ h => h) (Or.inl ⟨by rfl, ?_⟩) (by assumption) ?_; rotate_left
  · (intro w hSw; (try dsimp only at hSw); go_simp; try with_reducible rfl)
  try simp only [List.getElem_toArray, List.getElem_cons_zero, List.getElem_cons_succ, Act.put, List.setIfInBounds_toArray, List.set_cons_zero, List.set_cons_succ]
  refine wpAnyH_take (i := 2) (v := ?_) rfl (by kernel_rfl) (by kernel_rfl) (by kernel_rfl) (fun _ _ _ h => h) (Or.inl ⟨by rfl, ?_⟩) (by assumption) ?_; rotate_left
  · (intro w hSw; (try dsimp only at hSw); go_simp; try with_reducible rfl)
  try simp only [List.getElem_toArray, List.getElem_cons_zero, List.getElem_cons_succ, Act.put, List.setIfInBounds_toArray, List.set_cons_zero, List.set_cons_succ]
  refine wpAnyH_take (i := 3) (v := ?_) rfl (by kernel_rfl) (by kernel_rfl) (by kernel_rfl) (fun _ _ _ h => h) (Or.inl ⟨by rfl, ?_⟩) (by assumption) ?_; rotate_left
  · (intro w hSw; (try dsimp only at hSw); go_simp; try with_reducible rfl)
  try simp only [List.getElem_toArray, List.getElem_cons_zero, List.getElem_cons_succ, Act.put, List.setIfInBounds_toArray, List.set_cons_zero, List.set_cons_succ]
  refine wpAnyH_take (i := 4) (v := ?_) rfl (by kernel_rfl) (by kernel_rfl) (by kernel_rfl) (fun _ _ _ h => h) (Or.inl ⟨by rfl, ?_⟩) (by assumption) ?_; rotate_left
  · (intro w hSw; (try dsimp only at hSw); go_simp; try with_reducible rfl)
  try simp only [List.getElem_toArray, List.getElem_cons_zero, List.getElem_cons_succ, Act.put, List.setIfInBounds_toArray, List.set_cons_zero, List.set_cons_succ]
  refine wpAnyH_take (i := 5) (v := ?_) rfl (by kernel_rfl) (by kernel_rfl) (by kernel_rfl) (fun _ _ _ h => h) (Or.inl ⟨by rfl, ?_⟩) (by assumption) ?_; rotate_left
  · (intro w hSw; (try dsimp only at hSw); go_simp; try with_reducible rfl)
  try simp only [List.getElem_toArray, List.getElem_cons_zero, List.getElem_cons_succ, Act.put, List.setIfInBounds_toArray, List.set_cons_zero, List.set_cons_succ]
  refine wpAnyH_ready (rs := [6]) (by kernel_rfl) (by simp) ?_
  refine AllReadyH.cons rfl (fun K hK => ?_) AllReadyH.nil
  go_simp
  go_at_call 19; refine (hp.out _ (grownBy_drew hG5.out)).mono ?_; rintro e w6 ⟨rfl, hg⟩; have hg6 : w5.grownBy w6 none := gt (grownBy_drew (grownBy_refl _ _)) hg; have rs6 := rs5.kept0 hg6; have vss6 := vss5.kept0 hg6; have hG6 : Hid (w.grownBy w6 none) := Hid.mk' (gt hG5.out hg6)
  refine hK.out _ _ (hS.out _ hg6) (fun hHeld => ?_)
  clear hK K
  try simp only [List.getElem_toArray, List.getElem_cons_zero, List.getElem_cons_succ, Act.put, List.setIfInBounds_toArray, List.set_cons_zero, List.set_cons_succ]
  refine wpAnyH_ready (rs := [7]) (by kernel_rfl) (by simp) ?_
  refine AllReadyH.cons rfl (fun K hK => ?_) AllReadyH.nil
  refine step_storeC (by rfl) 28 _ _ rfl B (gZ 0 0 0 0) (gZ ge gn gk ga) infoG rfl (gC_one _ _ _ _ _ _ _ _ _) rfl rfl rs6 ?_; intro wz rsz hgz; have vsz := vss6.kept hgz (by intro e; have h5 := Option.some.inj e; have h6 := hnes.out; omega); have hb1 := World.block_lt_of_cell? w ⟨g, o, none⟩ (hy0.out _ (grownBy_refl _ _)); have hyz := hgz.cell (hy0.out _ hG6.out) (by intro e; have h5 := Option.some.inj e; have h6 := hB2.out; have h7 : g < w.heap.size := hb1; have h8 : g = B := h5; omega)
  refine hK.out _ _ ⟨hyz, vsz.cell 0 rfl, vsz.cell 1 rfl, vsz.cell 2 rfl⟩ (fun hHeld => ?_)
  clear hK K
  try simp only [List.getElem_toArray, List.getElem_cons_zero, List.getElem_cons_succ, Act.put, List.setIfInBounds_toArray, List.set_cons_zero, List.set_cons_succ]
  refine wpAnyH_done (by kernel_rfl) ?_ _
  (try go_wp2)
  refine bodyPost_ret (v := .agg (gZ ge gn gk ga)) (results_cell_row Try.results8 _ wz B 28 _ (0, 0) _ rfl rsz Try.underlying28 rfl infoG) rfl ⟨rfl, ?_⟩
  exact grownBy_new hG6.out hgz (fun k hk => by have h5 := Option.some.inj hk; have h6 := hB2.out; omega)
set_option maxRecDepth 100000 in
set_option maxHeartbeats 1000000 in
theorem pg_pairn84 (w : World) (g o : Nat) (b : Nat) (hy0 : Hid (∀ wx, w.grownBy wx none → wx.cell? ⟨g, o, none⟩ = some (.int .u8 (b : Int)))) (len cap : Nat) (hl2 : len ≤ cap) (hl3 : cap ≤ 9223372036854775807) (hl1 : 0 < len) (hl4 : ((len : Int) == 0) = false) (hl5 : ¬ cap = 1) (h1 : 161 ≤ b) (h2 : b ≤ 254) (ge gn gk ga : Int) (hp : Hid (∀ w1, w.grownBy w1 none → Calls Try.prog 19 #[.agg (sK 30 31 false), .int .u8 (b : Int), .slice (some ⟨g, o + 1, none⟩) (len - 1) (cap - 1)] w1 fun e w2 => e = .returned (.agg (gZ ge gn gk ga)) ∧ w1.grownBy w2 none)) : Calls Try.prog 8 #[.int .i64 84, .slice (some ⟨g, o, none⟩) len cap] w fun e w' => e = .returned (.agg (gZ ge gn gk ga)) ∧ w.grownBy w' none := by
  have hl8 : (0 : Int) < (len : Int) := by omega
  have hl6 : (1 : Int) ≤ (len : Int) := by omega
  have p1 : ¬ (b : Int) < 128 := by omega
  have p2 : ((b : Int) == 142) = false := by simp; omega
  go_enter Try.func8, Try.ntmps8
  go_upto_region 1 with (first
    | (refine wpList_allocC _ rfl 28 rfl (gZ 0 0 0 0) (zeroG _) ?_; intro w1 rs1 hgr))
  have hG1 : Hid (w.grownBy w1 none) := Hid.mk' hgr
  have hB2 : Hid (w.heap.size ≤ w.heap.size) := Hid.mk' (Nat.le_refl _)
  obtain ⟨B, hBe⟩ : ∃ B, Hid (w.heap.size = B) := ⟨_, Hid.mk' rfl⟩
  replace hB2 : Hid (w.heap.size ≤ B) := Hid.mk' (by rw [← hBe.out]; exact hB2.out)
  rw [hBe.out] at rs1
  first | rw [hBe.out] | skip
  clear hgr
  have y0 := hy0.out _ hG1.out
  go_upto_region 2 with (first
    | (go_at_call 16; refine (set_84 _).mono ?_; rintro e w2 ⟨rfl, hg⟩; have rs2 := rs1.kept0 hg; have hG2 : Hid (w.grownBy w2 none) := Hid.mk' (gt hG1.out hg); clear y0; have y0 := hy0.out _ hG2.out; clear rs1 hg )
    | (refine wpList_allocC _ rfl 46 rfl (sZ) (zeroK _) ?_; intro w3 vss3 hg; have hss : Hid (w.heap.size ≤ w2.heap.size) := Hid.mk' hG2.out.size; have hnes : Hid (B < w2.heap.size) := Hid.mk' rs2.lt; obtain ⟨Vs, hVs⟩ : ∃ V, Hid (w2.heap.size = V) := ⟨_, Hid.mk' rfl⟩; have rs3 := rs2.kept0 hg; have hG3 : Hid (w.grownBy w3 none) := Hid.mk' (gt hG2.out hg); clear rs2 hg ; rw [hVs.out] at vss3 hss hnes; rw [hVs.out])
    | (refine wpList_storeC _ rfl 46 _ _ rfl Vs (sZ) ((sK 30 31 false)) infoK rfl (sK_one _ _ _) rfl rfl vss3 ?_; intro w4 vss4 hg; have rs4 := rs3.kept hg (by have := hnes.out; intro e; have h5 := Option.some.inj e; omega); have hG4 : Hid (w.grownBy w4 none) := Hid.mk' (grownBy_new hG3.out hg (fun q hq => by have h5 := Option.some.inj hq; have h6 := hss.out; omega)); clear y0; have y0 := hy0.out _ hG4.out; have cs2 := vss4.cell 2 rfl; clear rs3 hg vss3 ))
  go_upto_region 10 with fail
  go_upto_region 11 with (first
    | (go_at_call 18; refine (high_yes b h1 h2 _).mono ?_; rintro e w5 ⟨rfl, hg⟩; have rs5 := rs4.kept0 hg; have vss5 := vss4.kept0 hg; have hG5 : Hid (w.grownBy w5 none) := Hid.mk' (gt hG4.out hg); clear y0 cs2; have y0 := hy0.out _ hG5.out; have cs2 := vss5.cell 2 rfl; clear rs4 hg vss4))
  have hS : Hid (∀ wx, w5.grownBy wx none → wx.cell? ⟨g, o, none⟩ = some (.int .u8 (b : Int)) ∧ wx.cell? ⟨Vs, 0, none⟩ = some (.func (.func 30) #[] #[]) ∧ wx.cell? ⟨Vs, 1, none⟩ = some (.func (.func 31) #[] #[]) ∧ wx.cell? ⟨Vs, 2, none⟩ = some (.bool false)) := Hid.mk' (fun wx hgx => ⟨hy0.out _ (gt hG5.out hgx), (vss5.kept0 hgx).cell 0 rfl, (vss5.kept0 hgx).cell 1 rfl, (vss5.kept0 hgx).cell 2 rfl⟩)
  refine wp_region_held_drew (S := fun wx => wx.cell? ⟨g, o, none⟩ = some (.int .u8 (b : Int)) ∧ wx.cell? ⟨Vs, 0, none⟩ = some (.func (.func 30) #[] #[]) ∧ wx.cell? ⟨Vs, 1, none⟩ = some (.func (.func 31) #[] #[]) ∧ wx.cell? ⟨Vs, 2, none⟩ = some (.bool false)) (by kernel_rfl) (hS.out _ (grownBy_drew (grownBy_refl _ _))) (fun hHeld => ?_)
  refine wpAnyH_take (i := 0) (v := ?_) rfl (by kernel_rfl) (by kernel_rfl) (by kernel_rfl) (fun _ _ _ h => h) (Or.inl ⟨by rfl, ?_⟩) (by assumption) ?_; rotate_left
  · (intro w hSw; (try dsimp only at hSw); go_simp; try with_reducible rfl)
  try simp only [List.getElem_toArray, List.getElem_cons_zero, Act.put, List.setIfInBounds_toArray, List.set_cons_zero, List.set_cons_succ]
  refine wpAnyH_take (i := 1) (v := ?_) rfl (by kernel_rfl) (by kernel_rfl) (by kernel_rfl) (fun _ _ _ h => h) (Or.inl ⟨by rfl, ?_⟩) (by assumption) ?_; rotate_left
  · (intro w hSw; (try dsimp only at hSw); go_simp; try with_reducible rfl)
  try simp only [List.getElem_toArray, List.getElem_cons_zero, List.getElem_cons_succ, Act.put, List.setIfInBounds_toArray, List.set_cons_zero, List.set_cons_succ]
  refine wpAnyH_take (i := 2) (v := ?_) rfl (by kernel_rfl) (by kernel_rfl) (by kernel_rfl) (fun _ _ _ h => h) (Or.inl ⟨by rfl, ?_⟩) (by assumption) ?_; rotate_left
  · (intro w hSw; (try dsimp only at hSw); go_simp; try with_reducible rfl)
  try simp only [List.getElem_toArray, List.getElem_cons_zero, List.getElem_cons_succ, Act.put, List.setIfInBounds_toArray, List.set_cons_zero, List.set_cons_succ]
  refine wpAnyH_take (i := 3) (v := ?_) rfl (by kernel_rfl) (by kernel_rfl) (by kernel_rfl) (fun _ _ _ h => h) (Or.inl ⟨by rfl, ?_⟩) (by assumption) ?_; rotate_left
  · (intro w hSw; (try dsimp only at hSw); go_simp; try with_reducible rfl)
  try simp only [List.getElem_toArray, List.getElem_cons_zero, List.getElem_cons_succ, Act.put, List.setIfInBounds_toArray, List.set_cons_zero, List.set_cons_succ]
  refine wpAnyH_take (i := 4) (v := ?_) rfl (by kernel_rfl) (by kernel_rfl) (by kernel_rfl) (fun _ _ _ h => h) (Or.inl ⟨by rfl, ?_⟩) (by assumption) ?_; rotate_left
  · (intro w hSw; (try dsimp only at hSw); go_simp; try with_reducible rfl)
  try simp only [List.getElem_toArray, List.getElem_cons_zero, List.getElem_cons_succ, Act.put, List.setIfInBounds_toArray, List.set_cons_zero, List.set_cons_succ]
  refine wpAnyH_take (i := 5) (v := ?_) rfl (by kernel_rfl) (by kernel_rfl) (by kernel_rfl) (fun _ _ _ h => h) (Or.inl ⟨by rfl, ?_⟩) (by assumption) ?_; rotate_left
  · (intro w hSw; (try dsimp only at hSw); go_simp; try with_reducible rfl)
  try simp only [List.getElem_toArray, List.getElem_cons_zero, List.getElem_cons_succ, Act.put, List.setIfInBounds_toArray, List.set_cons_zero, List.set_cons_succ]
  refine wpAnyH_ready (rs := [6]) (by kernel_rfl) (by simp) ?_
  refine AllReadyH.cons rfl (fun K hK => ?_) AllReadyH.nil
  go_simp
  go_at_call 19; refine (hp.out _ (grownBy_drew hG5.out)).mono ?_; rintro e w6 ⟨rfl, hg⟩; have hg6 : w5.grownBy w6 none := gt (grownBy_drew (grownBy_refl _ _)) hg; have rs6 := rs5.kept0 hg6; have vss6 := vss5.kept0 hg6; have hG6 : Hid (w.grownBy w6 none) := Hid.mk' (gt hG5.out hg6)
  refine hK.out _ _ (hS.out _ hg6) (fun hHeld => ?_)
  clear hK K
  try simp only [List.getElem_toArray, List.getElem_cons_zero, List.getElem_cons_succ, Act.put, List.setIfInBounds_toArray, List.set_cons_zero, List.set_cons_succ]
  refine wpAnyH_ready (rs := [7]) (by kernel_rfl) (by simp) ?_
  refine AllReadyH.cons rfl (fun K hK => ?_) AllReadyH.nil
  refine step_storeC (by rfl) 28 _ _ rfl B (gZ 0 0 0 0) (gZ ge gn gk ga) infoG rfl (gC_one _ _ _ _ _ _ _ _ _) rfl rfl rs6 ?_; intro wz rsz hgz; have vsz := vss6.kept hgz (by intro e; have h5 := Option.some.inj e; have h6 := hnes.out; omega); have hb1 := World.block_lt_of_cell? w ⟨g, o, none⟩ (hy0.out _ (grownBy_refl _ _)); have hyz := hgz.cell (hy0.out _ hG6.out) (by intro e; have h5 := Option.some.inj e; have h6 := hB2.out; have h7 : g < w.heap.size := hb1; have h8 : g = B := h5; omega)
  refine hK.out _ _ ⟨hyz, vsz.cell 0 rfl, vsz.cell 1 rfl, vsz.cell 2 rfl⟩ (fun hHeld => ?_)
  clear hK K
  try simp only [List.getElem_toArray, List.getElem_cons_zero, List.getElem_cons_succ, Act.put, List.setIfInBounds_toArray, List.set_cons_zero, List.set_cons_succ]
  refine wpAnyH_done (by kernel_rfl) ?_ _
  (try go_wp2)
  refine bodyPost_ret (v := .agg (gZ ge gn gk ga)) (results_cell_row Try.results8 _ wz B 28 _ (0, 0) _ rfl rsz Try.underlying28 rfl infoG) rfl ⟨rfl, ?_⟩
  exact grownBy_new hG6.out hgz (fun k hk => by have h5 := Option.some.inj hk; have h6 := hB2.out; omega)
set_option maxRecDepth 100000 in
set_option maxHeartbeats 1000000 in
theorem pg_bad84 (w : World) (g o : Nat) (b : Nat) (hy0 : Hid (∀ wx, w.grownBy wx none → wx.cell? ⟨g, o, none⟩ = some (.int .u8 (b : Int)))) (len cap : Nat) (hl2 : len ≤ cap) (hl3 : cap ≤ 9223372036854775807) (hl1 : 0 < len) (hl4 : ((len : Int) == 0) = false) (h0 : 128 ≤ b) (hb : ¬ b = 142) (h1 : b < 161 ∨ 254 < b) : Calls Try.prog 8 #[.int .i64 84, .slice (some ⟨g, o, none⟩) len cap] w fun e w' => e = .returned (.agg (gZ 10 1 0 0)) ∧ w.grownBy w' none := by
  have hl8 : (0 : Int) < (len : Int) := by omega
  have p1 : ¬ (b : Int) < 128 := by omega
  have p2 : ((b : Int) == 142) = false := by simp; omega
  go_enter Try.func8, Try.ntmps8
  go_upto_region 1 with (first
    | (refine wpList_allocC _ rfl 28 rfl (gZ 0 0 0 0) (zeroG _) ?_; intro w1 rs1 hgr))
  have hG1 : Hid (w.grownBy w1 none) := Hid.mk' hgr
  have hB2 : Hid (w.heap.size ≤ w.heap.size) := Hid.mk' (Nat.le_refl _)
  obtain ⟨B, hBe⟩ : ∃ B, Hid (w.heap.size = B) := ⟨_, Hid.mk' rfl⟩
  replace hB2 : Hid (w.heap.size ≤ B) := Hid.mk' (by rw [← hBe.out]; exact hB2.out)
  rw [hBe.out] at rs1
  first | rw [hBe.out] | skip
  clear hgr
  have y0 := hy0.out _ hG1.out
  go_upto_region 2 with (first
    | (go_at_call 16; refine (set_84 _).mono ?_; rintro e w2 ⟨rfl, hg⟩; have rs2 := rs1.kept0 hg; have hG2 : Hid (w.grownBy w2 none) := Hid.mk' (gt hG1.out hg); clear y0; have y0 := hy0.out _ hG2.out; clear rs1 hg )
    | (refine wpList_allocC _ rfl 46 rfl (sZ) (zeroK _) ?_; intro w3 vss3 hg; have hss : Hid (w.heap.size ≤ w2.heap.size) := Hid.mk' hG2.out.size; have hnes : Hid (B < w2.heap.size) := Hid.mk' rs2.lt; obtain ⟨Vs, hVs⟩ : ∃ V, Hid (w2.heap.size = V) := ⟨_, Hid.mk' rfl⟩; have rs3 := rs2.kept0 hg; have hG3 : Hid (w.grownBy w3 none) := Hid.mk' (gt hG2.out hg); clear rs2 hg ; rw [hVs.out] at vss3 hss hnes; rw [hVs.out])
    | (refine wpList_storeC _ rfl 46 _ _ rfl Vs (sZ) ((sK 30 31 false)) infoK rfl (sK_one _ _ _) rfl rfl vss3 ?_; intro w4 vss4 hg; have rs4 := rs3.kept hg (by have := hnes.out; intro e; have h5 := Option.some.inj e; omega); have hG4 : Hid (w.grownBy w4 none) := Hid.mk' (grownBy_new hG3.out hg (fun q hq => by have h5 := Option.some.inj hq; have h6 := hss.out; omega)); clear y0; have y0 := hy0.out _ hG4.out; have cs2 := vss4.cell 2 rfl; clear rs3 hg vss3 ))
  go_upto_region 10 with fail
  go_wp2_with (first
    | (go_at_call 18; refine (high_no b h1 _).mono ?_; rintro e w5 ⟨rfl, hg⟩; have rs5 := rs4.kept0 hg; have vss5 := vss4.kept0 hg; have hG5 : Hid (w.grownBy w5 none) := Hid.mk' (gt hG4.out hg); clear y0 cs2; have y0 := hy0.out _ hG5.out; have cs2 := vss5.cell 2 rfl; clear rs4 hg vss4)
    | (refine wpList_storeC _ rfl 28 _ _ rfl B (gZ 0 0 0 0) (gZ 10 1 0 0) infoG rfl (gC_one _ _ _ _ _ _ _ _ _) rfl rfl rs5 ?_; intro wz rsz hgz))
  refine bodyPost_ret (v := .agg (gZ 10 1 0 0)) (results_cell_row Try.results8 _ wz B 28 _ (0, 0) _ rfl rsz Try.underlying28 rfl infoG) rfl ⟨rfl, ?_⟩
  exact grownBy_new hG5.out hgz (fun k hk => by have h5 := Option.some.inj hk; have h6 := hB2.out; omega)
set_option maxRecDepth 100000 in
set_option maxHeartbeats 1000000 in
theorem pg_badl84 (w : World) (g o : Nat) (b : Nat) (hy0 : Hid (∀ wx, w.grownBy wx none → wx.cell? ⟨g, o, none⟩ = some (.int .u8 (b : Int)))) (len cap : Nat) (hl2 : len ≤ cap) (hl3 : cap ≤ 9223372036854775807) (hl1 : 0 < len) (hl4 : ((len : Int) == 0) = false) (h0 : 128 ≤ b) (h1 : b < 161) (p2 : ((b : Int) == 142) = true) : Calls Try.prog 8 #[.int .i64 84, .slice (some ⟨g, o, none⟩) len cap] w fun e w' => e = .returned (.agg (gZ 10 1 0 0)) ∧ w.grownBy w' none := by
  have hl8 : (0 : Int) < (len : Int) := by omega
  have p1 : ¬ (b : Int) < 128 := by omega
  go_enter Try.func8, Try.ntmps8
  go_upto_region 1 with (first
    | (refine wpList_allocC _ rfl 28 rfl (gZ 0 0 0 0) (zeroG _) ?_; intro w1 rs1 hgr))
  have hG1 : Hid (w.grownBy w1 none) := Hid.mk' hgr
  have hB2 : Hid (w.heap.size ≤ w.heap.size) := Hid.mk' (Nat.le_refl _)
  obtain ⟨B, hBe⟩ : ∃ B, Hid (w.heap.size = B) := ⟨_, Hid.mk' rfl⟩
  replace hB2 : Hid (w.heap.size ≤ B) := Hid.mk' (by rw [← hBe.out]; exact hB2.out)
  rw [hBe.out] at rs1
  first | rw [hBe.out] | skip
  clear hgr
  have y0 := hy0.out _ hG1.out
  go_upto_region 2 with (first
    | (go_at_call 16; refine (set_84 _).mono ?_; rintro e w2 ⟨rfl, hg⟩; have rs2 := rs1.kept0 hg; have hG2 : Hid (w.grownBy w2 none) := Hid.mk' (gt hG1.out hg); clear y0; have y0 := hy0.out _ hG2.out; clear rs1 hg )
    | (refine wpList_allocC _ rfl 46 rfl (sZ) (zeroK _) ?_; intro w3 vss3 hg; have hss : Hid (w.heap.size ≤ w2.heap.size) := Hid.mk' hG2.out.size; have hnes : Hid (B < w2.heap.size) := Hid.mk' rs2.lt; obtain ⟨Vs, hVs⟩ : ∃ V, Hid (w2.heap.size = V) := ⟨_, Hid.mk' rfl⟩; have rs3 := rs2.kept0 hg; have hG3 : Hid (w.grownBy w3 none) := Hid.mk' (gt hG2.out hg); clear rs2 hg ; rw [hVs.out] at vss3 hss hnes; rw [hVs.out])
    | (refine wpList_storeC _ rfl 46 _ _ rfl Vs (sZ) ((sK 30 31 false)) infoK rfl (sK_one _ _ _) rfl rfl vss3 ?_; intro w4 vss4 hg; have rs4 := rs3.kept hg (by have := hnes.out; intro e; have h5 := Option.some.inj e; omega); have hG4 : Hid (w.grownBy w4 none) := Hid.mk' (grownBy_new hG3.out hg (fun q hq => by have h5 := Option.some.inj hq; have h6 := hss.out; omega)); clear y0; have y0 := hy0.out _ hG4.out; have cs2 := vss4.cell 2 rfl; clear rs3 hg vss3 ))
  go_upto_region 10 with fail
  go_wp2_with (first
    | (go_at_call 18; refine (high_no b (.inl h1) _).mono ?_; rintro e w5 ⟨rfl, hg⟩; have rs5 := rs4.kept0 hg; have vss5 := vss4.kept0 hg; have hG5 : Hid (w.grownBy w5 none) := Hid.mk' (gt hG4.out hg); clear y0 cs2; have y0 := hy0.out _ hG5.out; have cs2 := vss5.cell 2 rfl; clear rs4 hg vss4)
    | (refine wpList_storeC _ rfl 28 _ _ rfl B (gZ 0 0 0 0) (gZ 10 1 0 0) infoG rfl (gC_one _ _ _ _ _ _ _ _ _) rfl rfl rs5 ?_; intro wz rsz hgz))
  refine bodyPost_ret (v := .agg (gZ 10 1 0 0)) (results_cell_row Try.results8 _ wz B 28 _ (0, 0) _ rfl rsz Try.underlying28 rfl infoG) rfl ⟨rfl, ?_⟩
  exact grownBy_new hG5.out hgz (fun k hk => by have h5 := Option.some.inj hk; have h6 := hB2.out; omega)
set_option maxRecDepth 100000 in
set_option maxHeartbeats 1000000 in
theorem pg_more86 (ao : Option Addr) (cap : Nat) (w : World) : Calls Try.prog 8 #[.int .i64 86, .slice ao 0 cap] w fun e w' => e = .returned (.agg (gZ 1 0 0 0)) ∧ w.grownBy w' none := by
  go_enter Try.func8, Try.ntmps8
  go_upto_region 1 with (first
    | (refine wpList_allocC _ rfl 28 rfl (gZ 0 0 0 0) (zeroG _) ?_; intro w1 rs1 hgr))
  have hG1 : Hid (w.grownBy w1 none) := Hid.mk' hgr
  have hB2 : Hid (w.heap.size ≤ w.heap.size) := Hid.mk' (Nat.le_refl _)
  obtain ⟨B, hBe⟩ : ∃ B, Hid (w.heap.size = B) := ⟨_, Hid.mk' rfl⟩
  replace hB2 : Hid (w.heap.size ≤ B) := Hid.mk' (by rw [← hBe.out]; exact hB2.out)
  rw [hBe.out] at rs1
  first | rw [hBe.out] | skip
  clear hgr
  go_upto_region 2 with (first
    | (go_at_call 16; refine (set_86 _).mono ?_; rintro e w2 ⟨rfl, hg⟩; have rs2 := rs1.kept0 hg; have hG2 : Hid (w.grownBy w2 none) := Hid.mk' (gt hG1.out hg); clear rs1 hg )
    | (refine wpList_allocC _ rfl 46 rfl (sZ) (zeroK _) ?_; intro w3 vss3 hg; have hss : Hid (w.heap.size ≤ w2.heap.size) := Hid.mk' hG2.out.size; have hnes : Hid (B < w2.heap.size) := Hid.mk' rs2.lt; obtain ⟨Vs, hVs⟩ : ∃ V, Hid (w2.heap.size = V) := ⟨_, Hid.mk' rfl⟩; have rs3 := rs2.kept0 hg; have hG3 : Hid (w.grownBy w3 none) := Hid.mk' (gt hG2.out hg); clear rs2 hg ; rw [hVs.out] at vss3 hss hnes; rw [hVs.out])
    | (refine wpList_storeC _ rfl 46 _ _ rfl Vs (sZ) ((sK 32 33 false)) infoK rfl (sK_one _ _ _) rfl rfl vss3 ?_; intro w4 vss4 hg; have rs4 := rs3.kept hg (by have := hnes.out; intro e; have h5 := Option.some.inj e; omega); have hG4 : Hid (w.grownBy w4 none) := Hid.mk' (grownBy_new hG3.out hg (fun q hq => by have h5 := Option.some.inj hq; have h6 := hss.out; omega)); clear rs3 hg vss3 ))
  go_wp2_with (first
    | (refine wpList_storeC _ rfl 28 _ _ rfl B (gZ 0 0 0 0) (gZ 1 0 0 0) infoG rfl (gC_one _ _ _ _ _ _ _ _ _) rfl rfl rs4 ?_; intro wz rsz hgz))
  refine bodyPost_ret (v := .agg (gZ 1 0 0 0)) (results_cell_row Try.results8 _ wz B 28 _ (0, 0) _ rfl rsz Try.underlying28 rfl infoG) rfl ⟨rfl, ?_⟩
  exact grownBy_new hG4.out hgz (fun k hk => by have h5 := Option.some.inj hk; have h6 := hB2.out; omega)
set_option maxRecDepth 100000 in
set_option maxHeartbeats 1000000 in
theorem pg_low86 (w : World) (g o : Nat) (b : Nat) (hy0 : Hid (∀ wx, w.grownBy wx none → wx.cell? ⟨g, o, none⟩ = some (.int .u8 (b : Int)))) (len cap : Nat) (hl2 : len ≤ cap) (hl3 : cap ≤ 9223372036854775807) (hl1 : 0 < len) (hl4 : ((len : Int) == 0) = false) (h1 : b < 128) : Calls Try.prog 8 #[.int .i64 86, .slice (some ⟨g, o, none⟩) len cap] w fun e w' => e = .returned (.agg (gZ 0 1 1 (b : Int))) ∧ w.grownBy w' none := by
  have hl8 : (0 : Int) < (len : Int) := by omega
  have p1 : (b : Int) < 128 := by omega
  have p2 : IntKind.i32.wrap (b : Int) = (b : Int) := by rw [IntKind.wrap_i32]; omega
  go_enter Try.func8, Try.ntmps8
  go_upto_region 1 with (first
    | (refine wpList_allocC _ rfl 28 rfl (gZ 0 0 0 0) (zeroG _) ?_; intro w1 rs1 hgr))
  have hG1 : Hid (w.grownBy w1 none) := Hid.mk' hgr
  have hB2 : Hid (w.heap.size ≤ w.heap.size) := Hid.mk' (Nat.le_refl _)
  obtain ⟨B, hBe⟩ : ∃ B, Hid (w.heap.size = B) := ⟨_, Hid.mk' rfl⟩
  replace hB2 : Hid (w.heap.size ≤ B) := Hid.mk' (by rw [← hBe.out]; exact hB2.out)
  rw [hBe.out] at rs1
  first | rw [hBe.out] | skip
  clear hgr
  have y0 := hy0.out _ hG1.out
  go_upto_region 2 with (first
    | (go_at_call 16; refine (set_86 _).mono ?_; rintro e w2 ⟨rfl, hg⟩; have rs2 := rs1.kept0 hg; have hG2 : Hid (w.grownBy w2 none) := Hid.mk' (gt hG1.out hg); clear y0; have y0 := hy0.out _ hG2.out; clear rs1 hg )
    | (refine wpList_allocC _ rfl 46 rfl (sZ) (zeroK _) ?_; intro w3 vss3 hg; have hss : Hid (w.heap.size ≤ w2.heap.size) := Hid.mk' hG2.out.size; have hnes : Hid (B < w2.heap.size) := Hid.mk' rs2.lt; obtain ⟨Vs, hVs⟩ : ∃ V, Hid (w2.heap.size = V) := ⟨_, Hid.mk' rfl⟩; have rs3 := rs2.kept0 hg; have hG3 : Hid (w.grownBy w3 none) := Hid.mk' (gt hG2.out hg); clear rs2 hg ; rw [hVs.out] at vss3 hss hnes; rw [hVs.out])
    | (refine wpList_storeC _ rfl 46 _ _ rfl Vs (sZ) ((sK 32 33 false)) infoK rfl (sK_one _ _ _) rfl rfl vss3 ?_; intro w4 vss4 hg; have rs4 := rs3.kept hg (by have := hnes.out; intro e; have h5 := Option.some.inj e; omega); have hG4 : Hid (w.grownBy w4 none) := Hid.mk' (grownBy_new hG3.out hg (fun q hq => by have h5 := Option.some.inj hq; have h6 := hss.out; omega)); clear y0; have y0 := hy0.out _ hG4.out; clear rs3 hg vss3 ))
  go_wp2_with (first
    | (refine wpList_storeC _ rfl 28 _ _ rfl B (gZ 0 0 0 0) (gZ 0 1 1 (b : Int)) infoG rfl (gC_one _ _ _ _ _ _ _ _ _) rfl rfl rs4 ?_; intro wz rsz hgz))
  refine bodyPost_ret (v := .agg (gZ 0 1 1 (b : Int))) (results_cell_row Try.results8 _ wz B 28 _ (0, 0) _ rfl rsz Try.underlying28 rfl infoG) rfl ⟨rfl, ?_⟩
  exact grownBy_new hG4.out hgz (fun k hk => by have h5 := Option.some.inj hk; have h6 := hB2.out; omega)
set_option maxRecDepth 100000 in
set_option maxHeartbeats 1000000 in
theorem pg_pairz86 (w : World) (g o : Nat) (b : Nat) (hy0 : Hid (∀ wx, w.grownBy wx none → wx.cell? ⟨g, o, none⟩ = some (.int .u8 (b : Int)))) (h1 : 161 ≤ b) (h2 : b ≤ 254) (ge gn gk ga : Int) (hp : Hid (∀ w1, w.grownBy w1 none → Calls Try.prog 19 #[.agg (sK 32 33 false), .int .u8 (b : Int), .slice (some ⟨g, o, none⟩) 0 0] w1 fun e w2 => e = .returned (.agg (gZ ge gn gk ga)) ∧ w1.grownBy w2 none)) : Calls Try.prog 8 #[.int .i64 86, .slice (some ⟨g, o, none⟩) 1 1] w fun e w' => e = .returned (.agg (gZ ge gn gk ga)) ∧ w.grownBy w' none := by
  have p1 : ¬ (b : Int) < 128 := by omega
  have p2 : ((b : Int) == 142) = false := by simp; omega
  go_enter Try.func8, Try.ntmps8
  go_upto_region 1 with (first
    | (refine wpList_allocC _ rfl 28 rfl (gZ 0 0 0 0) (zeroG _) ?_; intro w1 rs1 hgr))
  have hG1 : Hid (w.grownBy w1 none) := Hid.mk' hgr
  have hB2 : Hid (w.heap.size ≤ w.heap.size) := Hid.mk' (Nat.le_refl _)
  obtain ⟨B, hBe⟩ : ∃ B, Hid (w.heap.size = B) := ⟨_, Hid.mk' rfl⟩
  replace hB2 : Hid (w.heap.size ≤ B) := Hid.mk' (by rw [← hBe.out]; exact hB2.out)
  rw [hBe.out] at rs1
  first | rw [hBe.out] | skip
  clear hgr
  have y0 := hy0.out _ hG1.out
  go_upto_region 2 with (first
    | (go_at_call 16; refine (set_86 _).mono ?_; rintro e w2 ⟨rfl, hg⟩; have rs2 := rs1.kept0 hg; have hG2 : Hid (w.grownBy w2 none) := Hid.mk' (gt hG1.out hg); clear y0; have y0 := hy0.out _ hG2.out; clear rs1 hg )
    | (refine wpList_allocC _ rfl 46 rfl (sZ) (zeroK _) ?_; intro w3 vss3 hg; have hss : Hid (w.heap.size ≤ w2.heap.size) := Hid.mk' hG2.out.size; have hnes : Hid (B < w2.heap.size) := Hid.mk' rs2.lt; obtain ⟨Vs, hVs⟩ : ∃ V, Hid (w2.heap.size = V) := ⟨_, Hid.mk' rfl⟩; have rs3 := rs2.kept0 hg; have hG3 : Hid (w.grownBy w3 none) := Hid.mk' (gt hG2.out hg); clear rs2 hg ; rw [hVs.out] at vss3 hss hnes; rw [hVs.out])
    | (refine wpList_storeC _ rfl 46 _ _ rfl Vs (sZ) ((sK 32 33 false)) infoK rfl (sK_one _ _ _) rfl rfl vss3 ?_; intro w4 vss4 hg; have rs4 := rs3.kept hg (by have := hnes.out; intro e; have h5 := Option.some.inj e; omega); have hG4 : Hid (w.grownBy w4 none) := Hid.mk' (grownBy_new hG3.out hg (fun q hq => by have h5 := Option.some.inj hq; have h6 := hss.out; omega)); clear y0; have y0 := hy0.out _ hG4.out; have cs2 := vss4.cell 2 rfl; clear rs3 hg vss3 ))
  go_upto_region 10 with fail
  go_upto_region 11 with (first
    | (go_at_call 18; refine (high_yes b h1 h2 _).mono ?_; rintro e w5 ⟨rfl, hg⟩; have rs5 := rs4.kept0 hg; have vss5 := vss4.kept0 hg; have hG5 : Hid (w.grownBy w5 none) := Hid.mk' (gt hG4.out hg); clear y0 cs2; have y0 := hy0.out _ hG5.out; have cs2 := vss5.cell 2 rfl; clear rs4 hg vss4))
  have hS : Hid (∀ wx, w5.grownBy wx none → wx.cell? ⟨g, o, none⟩ = some (.int .u8 (b : Int)) ∧ wx.cell? ⟨Vs, 0, none⟩ = some (.func (.func 32) #[] #[]) ∧ wx.cell? ⟨Vs, 1, none⟩ = some (.func (.func 33) #[] #[]) ∧ wx.cell? ⟨Vs, 2, none⟩ = some (.bool false)) := Hid.mk' (fun wx hgx => ⟨hy0.out _ (gt hG5.out hgx), (vss5.kept0 hgx).cell 0 rfl, (vss5.kept0 hgx).cell 1 rfl, (vss5.kept0 hgx).cell 2 rfl⟩)
  refine wp_region_held_drew (S := fun wx => wx.cell? ⟨g, o, none⟩ = some (.int .u8 (b : Int)) ∧ wx.cell? ⟨Vs, 0, none⟩ = some (.func (.func 32) #[] #[]) ∧ wx.cell? ⟨Vs, 1, none⟩ = some (.func (.func 33) #[] #[]) ∧ wx.cell? ⟨Vs, 2, none⟩ = some (.bool false)) (by kernel_rfl) (hS.out _ (grownBy_drew (grownBy_refl _ _))) (fun hHeld => ?_)
  refine wpAnyH_take (i := 0) (v := ?_) rfl (by kernel_rfl) (by kernel_rfl) (by kernel_rfl) (fun _ _ _ h => h) (Or.inl ⟨by rfl, ?_⟩) (by assumption) ?_; rotate_left
  · (intro w hSw; (try dsimp only at hSw); go_simp; try with_reducible rfl)
  try simp only [List.getElem_toArray, List.getElem_cons_zero, Act.put, List.setIfInBounds_toArray, List.set_cons_zero, List.set_cons_succ]
  refine wpAnyH_take (i := 1) (v := ?_) rfl (by kernel_rfl) (by kernel_rfl) (by kernel_rfl) (fun _ _ _ h => h) (Or.inl ⟨by rfl, ?_⟩) (by assumption) ?_; rotate_left
  · (intro w hSw; (try dsimp only at hSw); go_simp; try with_reducible rfl)
  try simp only [List.getElem_toArray, List.getElem_cons_zero, List.getElem_cons_succ, Act.put, List.setIfInBounds_toArray, List.set_cons_zero, List.set_cons_succ]
  refine wpAnyH_take (i := 2) (v := ?_) rfl (by kernel_rfl) (by kernel_rfl) (by kernel_rfl) (fun _ _ _ h => h) (Or.inl ⟨by rfl, ?_⟩) (by assumption) ?_; rotate_left
  · (intro w hSw; (try dsimp only at hSw); go_simp; try with_reducible rfl)
  try simp only [List.getElem_toArray, List.getElem_cons_zero, List.getElem_cons_succ, Act.put, List.setIfInBounds_toArray, List.set_cons_zero, List.set_cons_succ]
  refine wpAnyH_take (i := 3) (v := ?_) rfl (by kernel_rfl) (by kernel_rfl) (by kernel_rfl) (fun _ _ _ h => h) (Or.inl ⟨by rfl, ?_⟩) (by assumption) ?_; rotate_left
  · (intro w hSw; (try dsimp only at hSw); go_simp; try with_reducible rfl)
  try simp only [List.getElem_toArray, List.getElem_cons_zero, List.getElem_cons_succ, Act.put, List.setIfInBounds_toArray, List.set_cons_zero, List.set_cons_succ]
  refine wpAnyH_take (i := 4) (v := ?_) rfl (by kernel_rfl) (by kernel_rfl) (by kernel_rfl) (fun _ _ _ h => h) (Or.inl ⟨by rfl, ?_⟩) (by assumption) ?_; rotate_left
  · (intro w hSw; (try dsimp only at hSw); go_simp; try with_reducible rfl)
  try simp only [List.getElem_toArray, List.getElem_cons_zero, List.getElem_cons_succ, Act.put, List.setIfInBounds_toArray, List.set_cons_zero, List.set_cons_succ]
  refine wpAnyH_take (i := 5) (v := ?_) rfl (by kernel_rfl) (by kernel_rfl) (by kernel_rfl) (fun _ _ _ h => h) (Or.inl ⟨by rfl, ?_⟩) (by assumption) ?_; rotate_left
  · (intro w hSw; (try dsimp only at hSw); go_simp; try with_reducible rfl)
  try simp only [List.getElem_toArray, List.getElem_cons_zero, List.getElem_cons_succ, Act.put, List.setIfInBounds_toArray, List.set_cons_zero, List.set_cons_succ]
  refine wpAnyH_ready (rs := [6]) (by kernel_rfl) (by simp) ?_
  refine AllReadyH.cons rfl (fun K hK => ?_) AllReadyH.nil
  go_simp
  go_at_call 19; refine (hp.out _ (grownBy_drew hG5.out)).mono ?_; rintro e w6 ⟨rfl, hg⟩; have hg6 : w5.grownBy w6 none := gt (grownBy_drew (grownBy_refl _ _)) hg; have rs6 := rs5.kept0 hg6; have vss6 := vss5.kept0 hg6; have hG6 : Hid (w.grownBy w6 none) := Hid.mk' (gt hG5.out hg6)
  refine hK.out _ _ (hS.out _ hg6) (fun hHeld => ?_)
  clear hK K
  try simp only [List.getElem_toArray, List.getElem_cons_zero, List.getElem_cons_succ, Act.put, List.setIfInBounds_toArray, List.set_cons_zero, List.set_cons_succ]
  refine wpAnyH_ready (rs := [7]) (by kernel_rfl) (by simp) ?_
  refine AllReadyH.cons rfl (fun K hK => ?_) AllReadyH.nil
  refine step_storeC (by rfl) 28 _ _ rfl B (gZ 0 0 0 0) (gZ ge gn gk ga) infoG rfl (gC_one _ _ _ _ _ _ _ _ _) rfl rfl rs6 ?_; intro wz rsz hgz; have vsz := vss6.kept hgz (by intro e; have h5 := Option.some.inj e; have h6 := hnes.out; omega); have hb1 := World.block_lt_of_cell? w ⟨g, o, none⟩ (hy0.out _ (grownBy_refl _ _)); have hyz := hgz.cell (hy0.out _ hG6.out) (by intro e; have h5 := Option.some.inj e; have h6 := hB2.out; have h7 : g < w.heap.size := hb1; have h8 : g = B := h5; omega)
  refine hK.out _ _ ⟨hyz, vsz.cell 0 rfl, vsz.cell 1 rfl, vsz.cell 2 rfl⟩ (fun hHeld => ?_)
  clear hK K
  try simp only [List.getElem_toArray, List.getElem_cons_zero, List.getElem_cons_succ, Act.put, List.setIfInBounds_toArray, List.set_cons_zero, List.set_cons_succ]
  refine wpAnyH_done (by kernel_rfl) ?_ _
  (try go_wp2)
  refine bodyPost_ret (v := .agg (gZ ge gn gk ga)) (results_cell_row Try.results8 _ wz B 28 _ (0, 0) _ rfl rsz Try.underlying28 rfl infoG) rfl ⟨rfl, ?_⟩
  exact grownBy_new hG6.out hgz (fun k hk => by have h5 := Option.some.inj hk; have h6 := hB2.out; omega)
set_option maxRecDepth 100000 in
set_option maxHeartbeats 1000000 in
theorem pg_pairn86 (w : World) (g o : Nat) (b : Nat) (hy0 : Hid (∀ wx, w.grownBy wx none → wx.cell? ⟨g, o, none⟩ = some (.int .u8 (b : Int)))) (len cap : Nat) (hl2 : len ≤ cap) (hl3 : cap ≤ 9223372036854775807) (hl1 : 0 < len) (hl4 : ((len : Int) == 0) = false) (hl5 : ¬ cap = 1) (h1 : 161 ≤ b) (h2 : b ≤ 254) (ge gn gk ga : Int) (hp : Hid (∀ w1, w.grownBy w1 none → Calls Try.prog 19 #[.agg (sK 32 33 false), .int .u8 (b : Int), .slice (some ⟨g, o + 1, none⟩) (len - 1) (cap - 1)] w1 fun e w2 => e = .returned (.agg (gZ ge gn gk ga)) ∧ w1.grownBy w2 none)) : Calls Try.prog 8 #[.int .i64 86, .slice (some ⟨g, o, none⟩) len cap] w fun e w' => e = .returned (.agg (gZ ge gn gk ga)) ∧ w.grownBy w' none := by
  have hl8 : (0 : Int) < (len : Int) := by omega
  have hl6 : (1 : Int) ≤ (len : Int) := by omega
  have p1 : ¬ (b : Int) < 128 := by omega
  have p2 : ((b : Int) == 142) = false := by simp; omega
  go_enter Try.func8, Try.ntmps8
  go_upto_region 1 with (first
    | (refine wpList_allocC _ rfl 28 rfl (gZ 0 0 0 0) (zeroG _) ?_; intro w1 rs1 hgr))
  have hG1 : Hid (w.grownBy w1 none) := Hid.mk' hgr
  have hB2 : Hid (w.heap.size ≤ w.heap.size) := Hid.mk' (Nat.le_refl _)
  obtain ⟨B, hBe⟩ : ∃ B, Hid (w.heap.size = B) := ⟨_, Hid.mk' rfl⟩
  replace hB2 : Hid (w.heap.size ≤ B) := Hid.mk' (by rw [← hBe.out]; exact hB2.out)
  rw [hBe.out] at rs1
  first | rw [hBe.out] | skip
  clear hgr
  have y0 := hy0.out _ hG1.out
  go_upto_region 2 with (first
    | (go_at_call 16; refine (set_86 _).mono ?_; rintro e w2 ⟨rfl, hg⟩; have rs2 := rs1.kept0 hg; have hG2 : Hid (w.grownBy w2 none) := Hid.mk' (gt hG1.out hg); clear y0; have y0 := hy0.out _ hG2.out; clear rs1 hg )
    | (refine wpList_allocC _ rfl 46 rfl (sZ) (zeroK _) ?_; intro w3 vss3 hg; have hss : Hid (w.heap.size ≤ w2.heap.size) := Hid.mk' hG2.out.size; have hnes : Hid (B < w2.heap.size) := Hid.mk' rs2.lt; obtain ⟨Vs, hVs⟩ : ∃ V, Hid (w2.heap.size = V) := ⟨_, Hid.mk' rfl⟩; have rs3 := rs2.kept0 hg; have hG3 : Hid (w.grownBy w3 none) := Hid.mk' (gt hG2.out hg); clear rs2 hg ; rw [hVs.out] at vss3 hss hnes; rw [hVs.out])
    | (refine wpList_storeC _ rfl 46 _ _ rfl Vs (sZ) ((sK 32 33 false)) infoK rfl (sK_one _ _ _) rfl rfl vss3 ?_; intro w4 vss4 hg; have rs4 := rs3.kept hg (by have := hnes.out; intro e; have h5 := Option.some.inj e; omega); have hG4 : Hid (w.grownBy w4 none) := Hid.mk' (grownBy_new hG3.out hg (fun q hq => by have h5 := Option.some.inj hq; have h6 := hss.out; omega)); clear y0; have y0 := hy0.out _ hG4.out; have cs2 := vss4.cell 2 rfl; clear rs3 hg vss3 ))
  go_upto_region 10 with fail
  go_upto_region 11 with (first
    | (go_at_call 18; refine (high_yes b h1 h2 _).mono ?_; rintro e w5 ⟨rfl, hg⟩; have rs5 := rs4.kept0 hg; have vss5 := vss4.kept0 hg; have hG5 : Hid (w.grownBy w5 none) := Hid.mk' (gt hG4.out hg); clear y0 cs2; have y0 := hy0.out _ hG5.out; have cs2 := vss5.cell 2 rfl; clear rs4 hg vss4))
  have hS : Hid (∀ wx, w5.grownBy wx none → wx.cell? ⟨g, o, none⟩ = some (.int .u8 (b : Int)) ∧ wx.cell? ⟨Vs, 0, none⟩ = some (.func (.func 32) #[] #[]) ∧ wx.cell? ⟨Vs, 1, none⟩ = some (.func (.func 33) #[] #[]) ∧ wx.cell? ⟨Vs, 2, none⟩ = some (.bool false)) := Hid.mk' (fun wx hgx => ⟨hy0.out _ (gt hG5.out hgx), (vss5.kept0 hgx).cell 0 rfl, (vss5.kept0 hgx).cell 1 rfl, (vss5.kept0 hgx).cell 2 rfl⟩)
  refine wp_region_held_drew (S := fun wx => wx.cell? ⟨g, o, none⟩ = some (.int .u8 (b : Int)) ∧ wx.cell? ⟨Vs, 0, none⟩ = some (.func (.func 32) #[] #[]) ∧ wx.cell? ⟨Vs, 1, none⟩ = some (.func (.func 33) #[] #[]) ∧ wx.cell? ⟨Vs, 2, none⟩ = some (.bool false)) (by kernel_rfl) (hS.out _ (grownBy_drew (grownBy_refl _ _))) (fun hHeld => ?_)
  refine wpAnyH_take (i := 0) (v := ?_) rfl (by kernel_rfl) (by kernel_rfl) (by kernel_rfl) (fun _ _ _ h => h) (Or.inl ⟨by rfl, ?_⟩) (by assumption) ?_; rotate_left
  · (intro w hSw; (try dsimp only at hSw); go_simp; try with_reducible rfl)
  try simp only [List.getElem_toArray, List.getElem_cons_zero, Act.put, List.setIfInBounds_toArray, List.set_cons_zero, List.set_cons_succ]
  refine wpAnyH_take (i := 1) (v := ?_) rfl (by kernel_rfl) (by kernel_rfl) (by kernel_rfl) (fun _ _ _ h => h) (Or.inl ⟨by rfl, ?_⟩) (by assumption) ?_; rotate_left
  · (intro w hSw; (try dsimp only at hSw); go_simp; try with_reducible rfl)
  try simp only [List.getElem_toArray, List.getElem_cons_zero, List.getElem_cons_succ, Act.put, List.setIfInBounds_toArray, List.set_cons_zero, List.set_cons_succ]
  refine wpAnyH_take (i := 2) (v := ?_) rfl (by kernel_rfl) (by kernel_rfl) (by kernel_rfl) (fun _ _ _ h => h) (Or.inl ⟨by rfl, ?_⟩) (by assumption) ?_; rotate_left
  · (intro w hSw; (try dsimp only at hSw); go_simp; try with_reducible rfl)
  try simp only [List.getElem_toArray, List.getElem_cons_zero, List.getElem_cons_succ, Act.put, List.setIfInBounds_toArray, List.set_cons_zero, List.set_cons_succ]
  refine wpAnyH_take (i := 3) (v := ?_) rfl (by kernel_rfl) (by kernel_rfl) (by kernel_rfl) (fun _ _ _ h => h) (Or.inl ⟨by rfl, ?_⟩) (by assumption) ?_; rotate_left
  · (intro w hSw; (try dsimp only at hSw); go_simp; try with_reducible rfl)
  try simp only [List.getElem_toArray, List.getElem_cons_zero, List.getElem_cons_succ, Act.put, List.setIfInBounds_toArray, List.set_cons_zero, List.set_cons_succ]
  refine wpAnyH_take (i := 4) (v := ?_) rfl (by kernel_rfl) (by kernel_rfl) (by kernel_rfl) (fun _ _ _ h => h) (Or.inl ⟨by rfl, ?_⟩) (by assumption) ?_; rotate_left
  · (intro w hSw; (try dsimp only at hSw); go_simp; try with_reducible rfl)
  try simp only [List.getElem_toArray, List.getElem_cons_zero, List.getElem_cons_succ, Act.put, List.setIfInBounds_toArray, List.set_cons_zero, List.set_cons_succ]
  refine wpAnyH_take (i := 5) (v := ?_) rfl (by kernel_rfl) (by kernel_rfl) (by kernel_rfl) (fun _ _ _ h => h) (Or.inl ⟨by rfl, ?_⟩) (by assumption) ?_; rotate_left
  · (intro w hSw; (try dsimp only at hSw); go_simp; try with_reducible rfl)
  try simp only [List.getElem_toArray, List.getElem_cons_zero, List.getElem_cons_succ, Act.put, List.setIfInBounds_toArray, List.set_cons_zero, List.set_cons_succ]
  refine wpAnyH_ready (rs := [6]) (by kernel_rfl) (by simp) ?_
  refine AllReadyH.cons rfl (fun K hK => ?_) AllReadyH.nil
  go_simp
  go_at_call 19; refine (hp.out _ (grownBy_drew hG5.out)).mono ?_; rintro e w6 ⟨rfl, hg⟩; have hg6 : w5.grownBy w6 none := gt (grownBy_drew (grownBy_refl _ _)) hg; have rs6 := rs5.kept0 hg6; have vss6 := vss5.kept0 hg6; have hG6 : Hid (w.grownBy w6 none) := Hid.mk' (gt hG5.out hg6)
  refine hK.out _ _ (hS.out _ hg6) (fun hHeld => ?_)
  clear hK K
  try simp only [List.getElem_toArray, List.getElem_cons_zero, List.getElem_cons_succ, Act.put, List.setIfInBounds_toArray, List.set_cons_zero, List.set_cons_succ]
  refine wpAnyH_ready (rs := [7]) (by kernel_rfl) (by simp) ?_
  refine AllReadyH.cons rfl (fun K hK => ?_) AllReadyH.nil
  refine step_storeC (by rfl) 28 _ _ rfl B (gZ 0 0 0 0) (gZ ge gn gk ga) infoG rfl (gC_one _ _ _ _ _ _ _ _ _) rfl rfl rs6 ?_; intro wz rsz hgz; have vsz := vss6.kept hgz (by intro e; have h5 := Option.some.inj e; have h6 := hnes.out; omega); have hb1 := World.block_lt_of_cell? w ⟨g, o, none⟩ (hy0.out _ (grownBy_refl _ _)); have hyz := hgz.cell (hy0.out _ hG6.out) (by intro e; have h5 := Option.some.inj e; have h6 := hB2.out; have h7 : g < w.heap.size := hb1; have h8 : g = B := h5; omega)
  refine hK.out _ _ ⟨hyz, vsz.cell 0 rfl, vsz.cell 1 rfl, vsz.cell 2 rfl⟩ (fun hHeld => ?_)
  clear hK K
  try simp only [List.getElem_toArray, List.getElem_cons_zero, List.getElem_cons_succ, Act.put, List.setIfInBounds_toArray, List.set_cons_zero, List.set_cons_succ]
  refine wpAnyH_done (by kernel_rfl) ?_ _
  (try go_wp2)
  refine bodyPost_ret (v := .agg (gZ ge gn gk ga)) (results_cell_row Try.results8 _ wz B 28 _ (0, 0) _ rfl rsz Try.underlying28 rfl infoG) rfl ⟨rfl, ?_⟩
  exact grownBy_new hG6.out hgz (fun k hk => by have h5 := Option.some.inj hk; have h6 := hB2.out; omega)
set_option maxRecDepth 100000 in
set_option maxHeartbeats 1000000 in
theorem pg_bad86 (w : World) (g o : Nat) (b : Nat) (hy0 : Hid (∀ wx, w.grownBy wx none → wx.cell? ⟨g, o, none⟩ = some (.int .u8 (b : Int)))) (len cap : Nat) (hl2 : len ≤ cap) (hl3 : cap ≤ 9223372036854775807) (hl1 : 0 < len) (hl4 : ((len : Int) == 0) = false) (h0 : 128 ≤ b) (hb : ¬ b = 142) (h1 : b < 161 ∨ 254 < b) : Calls Try.prog 8 #[.int .i64 86, .slice (some ⟨g, o, none⟩) len cap] w fun e w' => e = .returned (.agg (gZ 10 1 0 0)) ∧ w.grownBy w' none := by
  have hl8 : (0 : Int) < (len : Int) := by omega
  have p1 : ¬ (b : Int) < 128 := by omega
  have p2 : ((b : Int) == 142) = false := by simp; omega
  go_enter Try.func8, Try.ntmps8
  go_upto_region 1 with (first
    | (refine wpList_allocC _ rfl 28 rfl (gZ 0 0 0 0) (zeroG _) ?_; intro w1 rs1 hgr))
  have hG1 : Hid (w.grownBy w1 none) := Hid.mk' hgr
  have hB2 : Hid (w.heap.size ≤ w.heap.size) := Hid.mk' (Nat.le_refl _)
  obtain ⟨B, hBe⟩ : ∃ B, Hid (w.heap.size = B) := ⟨_, Hid.mk' rfl⟩
  replace hB2 : Hid (w.heap.size ≤ B) := Hid.mk' (by rw [← hBe.out]; exact hB2.out)
  rw [hBe.out] at rs1
  first | rw [hBe.out] | skip
  clear hgr
  have y0 := hy0.out _ hG1.out
  go_upto_region 2 with (first
    | (go_at_call 16; refine (set_86 _).mono ?_; rintro e w2 ⟨rfl, hg⟩; have rs2 := rs1.kept0 hg; have hG2 : Hid (w.grownBy w2 none) := Hid.mk' (gt hG1.out hg); clear y0; have y0 := hy0.out _ hG2.out; clear rs1 hg )
    | (refine wpList_allocC _ rfl 46 rfl (sZ) (zeroK _) ?_; intro w3 vss3 hg; have hss : Hid (w.heap.size ≤ w2.heap.size) := Hid.mk' hG2.out.size; have hnes : Hid (B < w2.heap.size) := Hid.mk' rs2.lt; obtain ⟨Vs, hVs⟩ : ∃ V, Hid (w2.heap.size = V) := ⟨_, Hid.mk' rfl⟩; have rs3 := rs2.kept0 hg; have hG3 : Hid (w.grownBy w3 none) := Hid.mk' (gt hG2.out hg); clear rs2 hg ; rw [hVs.out] at vss3 hss hnes; rw [hVs.out])
    | (refine wpList_storeC _ rfl 46 _ _ rfl Vs (sZ) ((sK 32 33 false)) infoK rfl (sK_one _ _ _) rfl rfl vss3 ?_; intro w4 vss4 hg; have rs4 := rs3.kept hg (by have := hnes.out; intro e; have h5 := Option.some.inj e; omega); have hG4 : Hid (w.grownBy w4 none) := Hid.mk' (grownBy_new hG3.out hg (fun q hq => by have h5 := Option.some.inj hq; have h6 := hss.out; omega)); clear y0; have y0 := hy0.out _ hG4.out; have cs2 := vss4.cell 2 rfl; clear rs3 hg vss3 ))
  go_upto_region 10 with fail
  go_wp2_with (first
    | (go_at_call 18; refine (high_no b h1 _).mono ?_; rintro e w5 ⟨rfl, hg⟩; have rs5 := rs4.kept0 hg; have vss5 := vss4.kept0 hg; have hG5 : Hid (w.grownBy w5 none) := Hid.mk' (gt hG4.out hg); clear y0 cs2; have y0 := hy0.out _ hG5.out; have cs2 := vss5.cell 2 rfl; clear rs4 hg vss4)
    | (refine wpList_storeC _ rfl 28 _ _ rfl B (gZ 0 0 0 0) (gZ 10 1 0 0) infoG rfl (gC_one _ _ _ _ _ _ _ _ _) rfl rfl rs5 ?_; intro wz rsz hgz))
  refine bodyPost_ret (v := .agg (gZ 10 1 0 0)) (results_cell_row Try.results8 _ wz B 28 _ (0, 0) _ rfl rsz Try.underlying28 rfl infoG) rfl ⟨rfl, ?_⟩
  exact grownBy_new hG5.out hgz (fun k hk => by have h5 := Option.some.inj hk; have h6 := hB2.out; omega)
set_option maxRecDepth 100000 in
set_option maxHeartbeats 1000000 in
theorem pg_badl86 (w : World) (g o : Nat) (b : Nat) (hy0 : Hid (∀ wx, w.grownBy wx none → wx.cell? ⟨g, o, none⟩ = some (.int .u8 (b : Int)))) (len cap : Nat) (hl2 : len ≤ cap) (hl3 : cap ≤ 9223372036854775807) (hl1 : 0 < len) (hl4 : ((len : Int) == 0) = false) (h0 : 128 ≤ b) (h1 : b < 161) (p2 : ((b : Int) == 142) = true) : Calls Try.prog 8 #[.int .i64 86, .slice (some ⟨g, o, none⟩) len cap] w fun e w' => e = .returned (.agg (gZ 10 1 0 0)) ∧ w.grownBy w' none := by
  have hl8 : (0 : Int) < (len : Int) := by omega
  have p1 : ¬ (b : Int) < 128 := by omega
  go_enter Try.func8, Try.ntmps8
  go_upto_region 1 with (first
    | (refine wpList_allocC _ rfl 28 rfl (gZ 0 0 0 0) (zeroG _) ?_; intro w1 rs1 hgr))
  have hG1 : Hid (w.grownBy w1 none) := Hid.mk' hgr
  have hB2 : Hid (w.heap.size ≤ w.heap.size) := Hid.mk' (Nat.le_refl _)
  obtain ⟨B, hBe⟩ : ∃ B, Hid (w.heap.size = B) := ⟨_, Hid.mk' rfl⟩
  replace hB2 : Hid (w.heap.size ≤ B) := Hid.mk' (by rw [← hBe.out]; exact hB2.out)
  rw [hBe.out] at rs1
  first | rw [hBe.out] | skip
  clear hgr
  have y0 := hy0.out _ hG1.out
  go_upto_region 2 with (first
    | (go_at_call 16; refine (set_86 _).mono ?_; rintro e w2 ⟨rfl, hg⟩; have rs2 := rs1.kept0 hg; have hG2 : Hid (w.grownBy w2 none) := Hid.mk' (gt hG1.out hg); clear y0; have y0 := hy0.out _ hG2.out; clear rs1 hg )
    | (refine wpList_allocC _ rfl 46 rfl (sZ) (zeroK _) ?_; intro w3 vss3 hg; have hss : Hid (w.heap.size ≤ w2.heap.size) := Hid.mk' hG2.out.size; have hnes : Hid (B < w2.heap.size) := Hid.mk' rs2.lt; obtain ⟨Vs, hVs⟩ : ∃ V, Hid (w2.heap.size = V) := ⟨_, Hid.mk' rfl⟩; have rs3 := rs2.kept0 hg; have hG3 : Hid (w.grownBy w3 none) := Hid.mk' (gt hG2.out hg); clear rs2 hg ; rw [hVs.out] at vss3 hss hnes; rw [hVs.out])
    | (refine wpList_storeC _ rfl 46 _ _ rfl Vs (sZ) ((sK 32 33 false)) infoK rfl (sK_one _ _ _) rfl rfl vss3 ?_; intro w4 vss4 hg; have rs4 := rs3.kept hg (by have := hnes.out; intro e; have h5 := Option.some.inj e; omega); have hG4 : Hid (w.grownBy w4 none) := Hid.mk' (grownBy_new hG3.out hg (fun q hq => by have h5 := Option.some.inj hq; have h6 := hss.out; omega)); clear y0; have y0 := hy0.out _ hG4.out; have cs2 := vss4.cell 2 rfl; clear rs3 hg vss3 ))
  go_upto_region 10 with fail
  go_wp2_with (first
    | (go_at_call 18; refine (high_no b (.inl h1) _).mono ?_; rintro e w5 ⟨rfl, hg⟩; have rs5 := rs4.kept0 hg; have vss5 := vss4.kept0 hg; have hG5 : Hid (w.grownBy w5 none) := Hid.mk' (gt hG4.out hg); clear y0 cs2; have y0 := hy0.out _ hG5.out; have cs2 := vss5.cell 2 rfl; clear rs4 hg vss4)
    | (refine wpList_storeC _ rfl 28 _ _ rfl B (gZ 0 0 0 0) (gZ 10 1 0 0) infoG rfl (gC_one _ _ _ _ _ _ _ _ _) rfl rfl rs5 ?_; intro wz rsz hgz))
  refine bodyPost_ret (v := .agg (gZ 10 1 0 0)) (results_cell_row Try.results8 _ wz B 28 _ (0, 0) _ rfl rsz Try.underlying28 rfl infoG) rfl ⟨rfl, ?_⟩
  exact grownBy_new hG5.out hgz (fun k hk => by have h5 := Option.some.inj hk; have h6 := hB2.out; omega)
end Go.Proofs.Ytcbjkamjkaiofaa.C17

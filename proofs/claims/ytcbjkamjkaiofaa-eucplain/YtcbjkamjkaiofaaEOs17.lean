/- The program's Set of layer 17: walks, a way each. -/
import Derived.Test.YtcbjkamjkaiofaaEM17
namespace Go.Proofs.Ytcbjkamjkaiofaa.C17
open Go.ChangeShapes Go.WideShapes Go.ChangeAt Go.RowKit Go.Proofs.Ytcbjkamjkaiofaa.Mem Go.Proofs.Ytcbjkamjkaiofaa.Cb Go.Proofs.Ytcbjkamjkaiofaa.Sp
set_option linter.unusedVariables false
set_option linter.unusedSimpArgs false

set_option maxRecDepth 100000 in
set_option maxHeartbeats 1000000 in
theorem ps_kind (k : Int) (hk : Hid (has k = false)) (u : Int) (w : World) : Calls Try.prog 12 #[.int .i64 k, .int .i32 u] w fun e w' => e = .returned (.agg (pZ 5 ⟨#[]⟩)) ∧ w.grownBy w' none := by
  go_enter Try.func12, Try.ntmps12
  go_upto_region 1 with (first
    | (refine wpList_allocC _ rfl 33 rfl (pZ 0 ⟨#[]⟩) (zeroP _) ?_; intro w1 rs1 hgr))
  have hG1 : Hid (w.grownBy w1 none) := Hid.mk' hgr
  have hB2 : Hid (w.heap.size ≤ w.heap.size) := Hid.mk' (Nat.le_refl _)
  obtain ⟨B, hBe⟩ : ∃ B, Hid (w.heap.size = B) := ⟨_, Hid.mk' rfl⟩
  replace hB2 : Hid (w.heap.size ≤ B) := Hid.mk' (by rw [← hBe.out]; exact hB2.out)
  rw [hBe.out] at rs1
  first | rw [hBe.out] | skip
  clear hgr
  go_upto_region 2 with (first
    | (go_at_call 16; refine (set_no k hk _).mono ?_; rintro e w2 ⟨rfl, hg⟩; have rs2 := rs1.kept0 hg; have hG2 : Hid (w.grownBy w2 none) := Hid.mk' (gt hG1.out hg); clear rs1 hg )
    | (refine wpList_allocC _ rfl 46 rfl (sZ) (zeroK _) ?_; intro w3 vss3 hg; have hss : Hid (w.heap.size ≤ w2.heap.size) := Hid.mk' hG2.out.size; have hnes : Hid (B < w2.heap.size) := Hid.mk' rs2.lt; obtain ⟨Vs, hVs⟩ : ∃ V, Hid (w2.heap.size = V) := ⟨_, Hid.mk' rfl⟩; have rs3 := rs2.kept0 hg; have hG3 : Hid (w.grownBy w3 none) := Hid.mk' (gt hG2.out hg); clear rs2 hg ; rw [hVs.out] at vss3 hss hnes; rw [hVs.out])
    | (refine wpList_storeC _ rfl 46 _ _ rfl Vs (sZ) (sZ) infoK rfl sZ_one rfl rfl vss3 ?_; intro w4 vss4 hg; have rs4 := rs3.kept hg (by have := hnes.out; intro e; have h5 := Option.some.inj e; omega); have hG4 : Hid (w.grownBy w4 none) := Hid.mk' (grownBy_new hG3.out hg (fun q hq => by have h5 := Option.some.inj hq; have h6 := hss.out; omega)); clear rs3 hg vss3 ))
  go_wp2_with (first
    | (refine wpList_storeC _ rfl 33 _ _ rfl B (pZ 0 ⟨#[]⟩) (pZ 5 ⟨#[]⟩) infoP rfl (pC_one _ _ _ _ _ _) rfl rfl rs4 ?_; intro wz rsz hgz))
  refine bodyPost_ret (v := .agg (pZ 5 ⟨#[]⟩)) (results_cell_row Try.results12 _ wz B 33 _ (0, 0) _ rfl rsz Try.underlying33 rfl infoP) rfl ⟨rfl, ?_⟩
  exact grownBy_new hG4.out hgz (fun k hk => by have h5 := Option.some.inj hk; have h6 := hB2.out; omega)
set_option maxRecDepth 100000 in
set_option maxHeartbeats 1000000 in
theorem ps_low81 (n : Nat) (hn : n < 128) (w : World) : Calls Try.prog 12 #[.int .i64 81, .int .i32 (n : Int)] w fun e w' => e = .returned (.agg (pZ 0 (str [b8 n]))) ∧ w.grownBy w' none := by
  have q0 : decide (0 ≤ (n : Int)) = true := by simp
  have q1 : decide ((n : Int) < 128) = true := by simp; omega
  have q2 : (n : Int) < 256 := by omega
  go_enter Try.func12, Try.ntmps12
  go_upto_region 1 with (first
    | (refine wpList_allocC _ rfl 33 rfl (pZ 0 ⟨#[]⟩) (zeroP _) ?_; intro w1 rs1 hgr))
  have hG1 : Hid (w.grownBy w1 none) := Hid.mk' hgr
  have hB2 : Hid (w.heap.size ≤ w.heap.size) := Hid.mk' (Nat.le_refl _)
  obtain ⟨B, hBe⟩ : ∃ B, Hid (w.heap.size = B) := ⟨_, Hid.mk' rfl⟩
  replace hB2 : Hid (w.heap.size ≤ B) := Hid.mk' (by rw [← hBe.out]; exact hB2.out)
  rw [hBe.out] at rs1
  first | rw [hBe.out] | skip
  clear hgr
  go_upto_region 2 with (first
    | (go_at_call 16; refine (set_81 _).mono ?_; rintro e w2 ⟨rfl, hg⟩; have rs2 := rs1.kept0 hg; have hG2 : Hid (w.grownBy w2 none) := Hid.mk' (gt hG1.out hg); clear rs1 hg )
    | (refine wpList_allocC _ rfl 46 rfl (sZ) (zeroK _) ?_; intro w3 vss3 hg; have hss : Hid (w.heap.size ≤ w2.heap.size) := Hid.mk' hG2.out.size; have hnes : Hid (B < w2.heap.size) := Hid.mk' rs2.lt; obtain ⟨Vs, hVs⟩ : ∃ V, Hid (w2.heap.size = V) := ⟨_, Hid.mk' rfl⟩; have rs3 := rs2.kept0 hg; have hG3 : Hid (w.grownBy w3 none) := Hid.mk' (gt hG2.out hg); clear rs2 hg ; rw [hVs.out] at vss3 hss hnes; rw [hVs.out])
    | (refine wpList_storeC _ rfl 46 _ _ rfl Vs (sZ) ((sK 28 29 true)) infoK rfl (sK_one _ _ _) rfl rfl vss3 ?_; intro w4 vss4 hg; have rs4 := rs3.kept hg (by have := hnes.out; intro e; have h5 := Option.some.inj e; omega); have hG4 : Hid (w.grownBy w4 none) := Hid.mk' (grownBy_new hG3.out hg (fun q hq => by have h5 := Option.some.inj hq; have h6 := hss.out; omega)); clear rs3 hg vss3 ))
  go_wp2_with (first
    | (go_at_call 21; refine (put_any _ _ _ [b8 n] _ (bytes_one (show n < 256 by omega) w4 (0, 0)) rfl).mono ?_; rintro e w5 ⟨rfl, hg0⟩; have hg : w4.grownBy w5 none := gt (World.grownBy_alloc _ _ _) hg0; have rs5 := rs4.kept0 hg; have vss5 := vss4.kept0 hg; have hG5 : Hid (w.grownBy w5 none) := Hid.mk' (gt hG4.out hg); clear rs4 hg hg0 vss4)
    | (refine wpList_storeC _ rfl 33 _ _ rfl B (pZ 0 ⟨#[]⟩) (pZ 0 (str [b8 n])) infoP rfl (pC_one _ _ _ _ _ _) rfl rfl rs5 ?_; intro wz rsz hgz))
  refine bodyPost_ret (v := .agg (pZ 0 (str [b8 n]))) (results_cell_row Try.results12 _ wz B 33 _ (0, 0) _ rfl rsz Try.underlying33 rfl infoP) rfl ⟨rfl, ?_⟩
  exact grownBy_new hG5.out hgz (fun k hk => by have h5 := Option.some.inj hk; have h6 := hB2.out; omega)
set_option maxRecDepth 100000 in
set_option maxHeartbeats 1000000 in
theorem ps_place81 (u : Int) (h1 : 128 ≤ u) (A D : Nat) (hA : A ≤ 94) (hD : D ≤ 94) (hP : Hid (C14.plT u = (A, D, true))) (x y : Nat) (hx : A + 160 = x) (hy : D + 160 = y) (w : World) : Calls Try.prog 12 #[.int .i64 81, .int .i32 u] w fun e w' => e = .returned (.agg (pZ 0 (str [b8 x, b8 y]))) ∧ w.grownBy w' none := by
  have q0 : decide (0 ≤ u) = true := by simp; omega
  have q1 : decide (u < 128) = false := by simp; omega
  have t1 : 160 + (A : Int) = (x : Int) := by omega
  have t2 : 160 + (D : Int) = (y : Int) := by omega
  have t3 : (x : Int) < 256 := by omega
  have t4 : (y : Int) < 256 := by omega
  clear hx hy
  go_enter Try.func12, Try.ntmps12
  go_upto_region 1 with (first
    | (refine wpList_allocC _ rfl 33 rfl (pZ 0 ⟨#[]⟩) (zeroP _) ?_; intro w1 rs1 hgr))
  have hG1 : Hid (w.grownBy w1 none) := Hid.mk' hgr
  have hB2 : Hid (w.heap.size ≤ w.heap.size) := Hid.mk' (Nat.le_refl _)
  obtain ⟨B, hBe⟩ : ∃ B, Hid (w.heap.size = B) := ⟨_, Hid.mk' rfl⟩
  replace hB2 : Hid (w.heap.size ≤ B) := Hid.mk' (by rw [← hBe.out]; exact hB2.out)
  rw [hBe.out] at rs1
  first | rw [hBe.out] | skip
  clear hgr
  go_upto_region 2 with (first
    | (go_at_call 16; refine (set_81 _).mono ?_; rintro e w2 ⟨rfl, hg⟩; have rs2 := rs1.kept0 hg; have hG2 : Hid (w.grownBy w2 none) := Hid.mk' (gt hG1.out hg); clear rs1 hg )
    | (refine wpList_allocC _ rfl 46 rfl (sZ) (zeroK _) ?_; intro w3 vss3 hg; have hss : Hid (w.heap.size ≤ w2.heap.size) := Hid.mk' hG2.out.size; have hnes : Hid (B < w2.heap.size) := Hid.mk' rs2.lt; obtain ⟨Vs, hVs⟩ : ∃ V, Hid (w2.heap.size = V) := ⟨_, Hid.mk' rfl⟩; have rs3 := rs2.kept0 hg; have hG3 : Hid (w.grownBy w3 none) := Hid.mk' (gt hG2.out hg); clear rs2 hg ; rw [hVs.out] at vss3 hss hnes; rw [hVs.out])
    | (refine wpList_storeC _ rfl 46 _ _ rfl Vs (sZ) ((sK 28 29 true)) infoK rfl (sK_one _ _ _) rfl rfl vss3 ?_; intro w4 vss4 hg; have rs4 := rs3.kept hg (by have := hnes.out; intro e; have h5 := Option.some.inj e; omega); have hG4 : Hid (w.grownBy w4 none) := Hid.mk' (grownBy_new hG3.out hg (fun q hq => by have h5 := Option.some.inj hq; have h6 := hss.out; omega)); have cs1 := vss4.cell 1 rfl; have cs2 := vss4.cell 2 rfl; clear rs3 hg vss3 ))
  go_wp2_with (first
    | (go_at_call 29; refine (C14.pPlace u _ A D true hP).mono ?_; rintro e w5 ⟨rfl, hg⟩; have rs5 := rs4.kept0 hg; have vss5 := vss4.kept0 hg; have hG5 : Hid (w.grownBy w5 none) := Hid.mk' (gt hG4.out hg); clear cs1 cs2; have cs1 := vss5.cell 1 rfl; have cs2 := vss5.cell 2 rfl; clear rs4 hg vss4)
    | (go_at_call 21; refine (put_any _ _ _ [b8 x, b8 y] _ (bytes_two (show x < 256 by omega) (show y < 256 by omega) w5 (0, 0)) rfl).mono ?_; rintro e w6 ⟨rfl, hg0⟩; have hg : w5.grownBy w6 none := gt (World.grownBy_alloc _ _ _) hg0; have rs6 := rs5.kept0 hg; have vss6 := vss5.kept0 hg; have hG6 : Hid (w.grownBy w6 none) := Hid.mk' (gt hG5.out hg); clear cs1 cs2; have cs1 := vss6.cell 1 rfl; have cs2 := vss6.cell 2 rfl; clear rs5 hg hg0 vss5)
    | (refine wpList_storeC _ rfl 33 _ _ rfl B (pZ 0 ⟨#[]⟩) (pZ 0 (str [b8 x, b8 y])) infoP rfl (pC_one _ _ _ _ _ _) rfl rfl rs6 ?_; intro wz rsz hgz))
  refine bodyPost_ret (v := .agg (pZ 0 (str [b8 x, b8 y]))) (results_cell_row Try.results12 _ wz B 33 _ (0, 0) _ rfl rsz Try.underlying33 rfl infoP) rfl ⟨rfl, ?_⟩
  exact grownBy_new hG6.out hgz (fun k hk => by have h5 := Option.some.inj hk; have h6 := hB2.out; omega)
set_option maxRecDepth 100000 in
set_option maxHeartbeats 1000000 in
theorem ps_nonea81 (u : Int) (h1 : u < 0) (A D : Nat) (hP : Hid (C14.plT u = (A, D, false))) (w : World) : Calls Try.prog 12 #[.int .i64 81, .int .i32 u] w fun e w' => e = .returned (.agg (pZ 11 ⟨#[]⟩)) ∧ w.grownBy w' none := by
  have q0 : decide (0 ≤ u) = false := by simp; omega
  have r1 : decide (65377 ≤ u) = false := by simp; omega
  go_enter Try.func12, Try.ntmps12
  go_upto_region 1 with (first
    | (refine wpList_allocC _ rfl 33 rfl (pZ 0 ⟨#[]⟩) (zeroP _) ?_; intro w1 rs1 hgr))
  have hG1 : Hid (w.grownBy w1 none) := Hid.mk' hgr
  have hB2 : Hid (w.heap.size ≤ w.heap.size) := Hid.mk' (Nat.le_refl _)
  obtain ⟨B, hBe⟩ : ∃ B, Hid (w.heap.size = B) := ⟨_, Hid.mk' rfl⟩
  replace hB2 : Hid (w.heap.size ≤ B) := Hid.mk' (by rw [← hBe.out]; exact hB2.out)
  rw [hBe.out] at rs1
  first | rw [hBe.out] | skip
  clear hgr
  go_upto_region 2 with (first
    | (go_at_call 16; refine (set_81 _).mono ?_; rintro e w2 ⟨rfl, hg⟩; have rs2 := rs1.kept0 hg; have hG2 : Hid (w.grownBy w2 none) := Hid.mk' (gt hG1.out hg); clear rs1 hg )
    | (refine wpList_allocC _ rfl 46 rfl (sZ) (zeroK _) ?_; intro w3 vss3 hg; have hss : Hid (w.heap.size ≤ w2.heap.size) := Hid.mk' hG2.out.size; have hnes : Hid (B < w2.heap.size) := Hid.mk' rs2.lt; obtain ⟨Vs, hVs⟩ : ∃ V, Hid (w2.heap.size = V) := ⟨_, Hid.mk' rfl⟩; have rs3 := rs2.kept0 hg; have hG3 : Hid (w.grownBy w3 none) := Hid.mk' (gt hG2.out hg); clear rs2 hg ; rw [hVs.out] at vss3 hss hnes; rw [hVs.out])
    | (refine wpList_storeC _ rfl 46 _ _ rfl Vs (sZ) ((sK 28 29 true)) infoK rfl (sK_one _ _ _) rfl rfl vss3 ?_; intro w4 vss4 hg; have rs4 := rs3.kept hg (by have := hnes.out; intro e; have h5 := Option.some.inj e; omega); have hG4 : Hid (w.grownBy w4 none) := Hid.mk' (grownBy_new hG3.out hg (fun q hq => by have h5 := Option.some.inj hq; have h6 := hss.out; omega)); have cs1 := vss4.cell 1 rfl; have cs2 := vss4.cell 2 rfl; clear rs3 hg vss3 ))
  go_wp2_with (first
    | (go_at_call 29; refine (C14.pPlace u _ A D false hP).mono ?_; rintro e w5 ⟨rfl, hg⟩; have rs5 := rs4.kept0 hg; have vss5 := vss4.kept0 hg; have hG5 : Hid (w.grownBy w5 none) := Hid.mk' (gt hG4.out hg); clear cs1 cs2; have cs1 := vss5.cell 1 rfl; have cs2 := vss5.cell 2 rfl; clear rs4 hg vss4)
    | (refine wpList_storeC _ rfl 33 _ _ rfl B (pZ 0 ⟨#[]⟩) (pZ 11 ⟨#[]⟩) infoP rfl (pC_one _ _ _ _ _ _) rfl rfl rs5 ?_; intro wz rsz hgz))
  refine bodyPost_ret (v := .agg (pZ 11 ⟨#[]⟩)) (results_cell_row Try.results12 _ wz B 33 _ (0, 0) _ rfl rsz Try.underlying33 rfl infoP) rfl ⟨rfl, ?_⟩
  exact grownBy_new hG5.out hgz (fun k hk => by have h5 := Option.some.inj hk; have h6 := hB2.out; omega)
set_option maxRecDepth 100000 in
set_option maxHeartbeats 1000000 in
theorem ps_noneb81 (u : Int) (h1 : 128 ≤ u) (h2 : u < 65377) (A D : Nat) (hP : Hid (C14.plT u = (A, D, false))) (w : World) : Calls Try.prog 12 #[.int .i64 81, .int .i32 u] w fun e w' => e = .returned (.agg (pZ 11 ⟨#[]⟩)) ∧ w.grownBy w' none := by
  have q0 : decide (0 ≤ u) = true := by simp; omega
  have q1 : decide (u < 128) = false := by simp; omega
  have r1 : decide (65377 ≤ u) = false := by simp; omega
  go_enter Try.func12, Try.ntmps12
  go_upto_region 1 with (first
    | (refine wpList_allocC _ rfl 33 rfl (pZ 0 ⟨#[]⟩) (zeroP _) ?_; intro w1 rs1 hgr))
  have hG1 : Hid (w.grownBy w1 none) := Hid.mk' hgr
  have hB2 : Hid (w.heap.size ≤ w.heap.size) := Hid.mk' (Nat.le_refl _)
  obtain ⟨B, hBe⟩ : ∃ B, Hid (w.heap.size = B) := ⟨_, Hid.mk' rfl⟩
  replace hB2 : Hid (w.heap.size ≤ B) := Hid.mk' (by rw [← hBe.out]; exact hB2.out)
  rw [hBe.out] at rs1
  first | rw [hBe.out] | skip
  clear hgr
  go_upto_region 2 with (first
    | (go_at_call 16; refine (set_81 _).mono ?_; rintro e w2 ⟨rfl, hg⟩; have rs2 := rs1.kept0 hg; have hG2 : Hid (w.grownBy w2 none) := Hid.mk' (gt hG1.out hg); clear rs1 hg )
    | (refine wpList_allocC _ rfl 46 rfl (sZ) (zeroK _) ?_; intro w3 vss3 hg; have hss : Hid (w.heap.size ≤ w2.heap.size) := Hid.mk' hG2.out.size; have hnes : Hid (B < w2.heap.size) := Hid.mk' rs2.lt; obtain ⟨Vs, hVs⟩ : ∃ V, Hid (w2.heap.size = V) := ⟨_, Hid.mk' rfl⟩; have rs3 := rs2.kept0 hg; have hG3 : Hid (w.grownBy w3 none) := Hid.mk' (gt hG2.out hg); clear rs2 hg ; rw [hVs.out] at vss3 hss hnes; rw [hVs.out])
    | (refine wpList_storeC _ rfl 46 _ _ rfl Vs (sZ) ((sK 28 29 true)) infoK rfl (sK_one _ _ _) rfl rfl vss3 ?_; intro w4 vss4 hg; have rs4 := rs3.kept hg (by have := hnes.out; intro e; have h5 := Option.some.inj e; omega); have hG4 : Hid (w.grownBy w4 none) := Hid.mk' (grownBy_new hG3.out hg (fun q hq => by have h5 := Option.some.inj hq; have h6 := hss.out; omega)); have cs1 := vss4.cell 1 rfl; have cs2 := vss4.cell 2 rfl; clear rs3 hg vss3 ))
  go_wp2_with (first
    | (go_at_call 29; refine (C14.pPlace u _ A D false hP).mono ?_; rintro e w5 ⟨rfl, hg⟩; have rs5 := rs4.kept0 hg; have vss5 := vss4.kept0 hg; have hG5 : Hid (w.grownBy w5 none) := Hid.mk' (gt hG4.out hg); clear cs1 cs2; have cs1 := vss5.cell 1 rfl; have cs2 := vss5.cell 2 rfl; clear rs4 hg vss4)
    | (refine wpList_storeC _ rfl 33 _ _ rfl B (pZ 0 ⟨#[]⟩) (pZ 11 ⟨#[]⟩) infoP rfl (pC_one _ _ _ _ _ _) rfl rfl rs5 ?_; intro wz rsz hgz))
  refine bodyPost_ret (v := .agg (pZ 11 ⟨#[]⟩)) (results_cell_row Try.results12 _ wz B 33 _ (0, 0) _ rfl rsz Try.underlying33 rfl infoP) rfl ⟨rfl, ?_⟩
  exact grownBy_new hG5.out hgz (fun k hk => by have h5 := Option.some.inj hk; have h6 := hB2.out; omega)
set_option maxRecDepth 100000 in
set_option maxHeartbeats 1000000 in
theorem ps_nonec81 (u : Int) (h2 : 65439 < u) (A D : Nat) (hP : Hid (C14.plT u = (A, D, false))) (w : World) : Calls Try.prog 12 #[.int .i64 81, .int .i32 u] w fun e w' => e = .returned (.agg (pZ 11 ⟨#[]⟩)) ∧ w.grownBy w' none := by
  have q0 : decide (0 ≤ u) = true := by simp; omega
  have q1 : decide (u < 128) = false := by simp; omega
  have r1 : decide (65377 ≤ u) = true := by simp; omega
  have r2 : decide (u ≤ 65439) = false := by simp; omega
  go_enter Try.func12, Try.ntmps12
  go_upto_region 1 with (first
    | (refine wpList_allocC _ rfl 33 rfl (pZ 0 ⟨#[]⟩) (zeroP _) ?_; intro w1 rs1 hgr))
  have hG1 : Hid (w.grownBy w1 none) := Hid.mk' hgr
  have hB2 : Hid (w.heap.size ≤ w.heap.size) := Hid.mk' (Nat.le_refl _)
  obtain ⟨B, hBe⟩ : ∃ B, Hid (w.heap.size = B) := ⟨_, Hid.mk' rfl⟩
  replace hB2 : Hid (w.heap.size ≤ B) := Hid.mk' (by rw [← hBe.out]; exact hB2.out)
  rw [hBe.out] at rs1
  first | rw [hBe.out] | skip
  clear hgr
  go_upto_region 2 with (first
    | (go_at_call 16; refine (set_81 _).mono ?_; rintro e w2 ⟨rfl, hg⟩; have rs2 := rs1.kept0 hg; have hG2 : Hid (w.grownBy w2 none) := Hid.mk' (gt hG1.out hg); clear rs1 hg )
    | (refine wpList_allocC _ rfl 46 rfl (sZ) (zeroK _) ?_; intro w3 vss3 hg; have hss : Hid (w.heap.size ≤ w2.heap.size) := Hid.mk' hG2.out.size; have hnes : Hid (B < w2.heap.size) := Hid.mk' rs2.lt; obtain ⟨Vs, hVs⟩ : ∃ V, Hid (w2.heap.size = V) := ⟨_, Hid.mk' rfl⟩; have rs3 := rs2.kept0 hg; have hG3 : Hid (w.grownBy w3 none) := Hid.mk' (gt hG2.out hg); clear rs2 hg ; rw [hVs.out] at vss3 hss hnes; rw [hVs.out])
    | (refine wpList_storeC _ rfl 46 _ _ rfl Vs (sZ) ((sK 28 29 true)) infoK rfl (sK_one _ _ _) rfl rfl vss3 ?_; intro w4 vss4 hg; have rs4 := rs3.kept hg (by have := hnes.out; intro e; have h5 := Option.some.inj e; omega); have hG4 : Hid (w.grownBy w4 none) := Hid.mk' (grownBy_new hG3.out hg (fun q hq => by have h5 := Option.some.inj hq; have h6 := hss.out; omega)); have cs1 := vss4.cell 1 rfl; have cs2 := vss4.cell 2 rfl; clear rs3 hg vss3 ))
  go_wp2_with (first
    | (go_at_call 29; refine (C14.pPlace u _ A D false hP).mono ?_; rintro e w5 ⟨rfl, hg⟩; have rs5 := rs4.kept0 hg; have vss5 := vss4.kept0 hg; have hG5 : Hid (w.grownBy w5 none) := Hid.mk' (gt hG4.out hg); clear cs1 cs2; have cs1 := vss5.cell 1 rfl; have cs2 := vss5.cell 2 rfl; clear rs4 hg vss4)
    | (refine wpList_storeC _ rfl 33 _ _ rfl B (pZ 0 ⟨#[]⟩) (pZ 11 ⟨#[]⟩) infoP rfl (pC_one _ _ _ _ _ _) rfl rfl rs5 ?_; intro wz rsz hgz))
  refine bodyPost_ret (v := .agg (pZ 11 ⟨#[]⟩)) (results_cell_row Try.results12 _ wz B 33 _ (0, 0) _ rfl rsz Try.underlying33 rfl infoP) rfl ⟨rfl, ?_⟩
  exact grownBy_new hG5.out hgz (fun k hk => by have h5 := Option.some.inj hk; have h6 := hB2.out; omega)
set_option maxRecDepth 100000 in
set_option maxHeartbeats 1000000 in
theorem ps_half (u : Int) (h1 : 65377 ≤ u) (h2 : u ≤ 65439) (y : Nat) (hy : y < 256) (hb : Hid (C14.hbR u = some y)) (A D : Nat) (hP : Hid (C14.plT u = (A, D, false))) (w : World) : Calls Try.prog 12 #[.int .i64 81, .int .i32 u] w fun e w' => e = .returned (.agg (pZ 0 (str [b8 142, b8 y]))) ∧ w.grownBy w' none := by
  have q0 : decide (0 ≤ u) = true := by simp; omega
  have q1 : decide (u < 128) = false := by simp; omega
  have r1 : decide (65377 ≤ u) = true := by simp; omega
  have r2 : decide (u ≤ 65439) = true := by simp; omega
  have a1 : Hid (∀ w, Calls Try.prog 22 #[.int .i32 u] w fun e w' => e = .returned (.tuple #[.int .u8 (y : Int), .bool true]) ∧ w.grownBy w' none) := Hid.mk' (fun w => (C14.pHalfByte u w _ hb).mono (fun e w' h => ⟨h.1, by rw [h.2]; exact grownBy_refl _ _⟩))
  go_enter Try.func12, Try.ntmps12
  go_upto_region 1 with (first
    | (refine wpList_allocC _ rfl 33 rfl (pZ 0 ⟨#[]⟩) (zeroP _) ?_; intro w1 rs1 hgr))
  have hG1 : Hid (w.grownBy w1 none) := Hid.mk' hgr
  have hB2 : Hid (w.heap.size ≤ w.heap.size) := Hid.mk' (Nat.le_refl _)
  obtain ⟨B, hBe⟩ : ∃ B, Hid (w.heap.size = B) := ⟨_, Hid.mk' rfl⟩
  replace hB2 : Hid (w.heap.size ≤ B) := Hid.mk' (by rw [← hBe.out]; exact hB2.out)
  rw [hBe.out] at rs1
  first | rw [hBe.out] | skip
  clear hgr
  go_upto_region 2 with (first
    | (go_at_call 16; refine (set_81 _).mono ?_; rintro e w2 ⟨rfl, hg⟩; have rs2 := rs1.kept0 hg; have hG2 : Hid (w.grownBy w2 none) := Hid.mk' (gt hG1.out hg); clear rs1 hg )
    | (refine wpList_allocC _ rfl 46 rfl (sZ) (zeroK _) ?_; intro w3 vss3 hg; have hss : Hid (w.heap.size ≤ w2.heap.size) := Hid.mk' hG2.out.size; have hnes : Hid (B < w2.heap.size) := Hid.mk' rs2.lt; obtain ⟨Vs, hVs⟩ : ∃ V, Hid (w2.heap.size = V) := ⟨_, Hid.mk' rfl⟩; have rs3 := rs2.kept0 hg; have hG3 : Hid (w.grownBy w3 none) := Hid.mk' (gt hG2.out hg); clear rs2 hg ; rw [hVs.out] at vss3 hss hnes; rw [hVs.out])
    | (refine wpList_storeC _ rfl 46 _ _ rfl Vs (sZ) ((sK 28 29 true)) infoK rfl (sK_one _ _ _) rfl rfl vss3 ?_; intro w4 vss4 hg; have rs4 := rs3.kept hg (by have := hnes.out; intro e; have h5 := Option.some.inj e; omega); have hG4 : Hid (w.grownBy w4 none) := Hid.mk' (grownBy_new hG3.out hg (fun q hq => by have h5 := Option.some.inj hq; have h6 := hss.out; omega)); have cs1 := vss4.cell 1 rfl; have cs2 := vss4.cell 2 rfl; clear rs3 hg vss3 ))
  go_wp2_with (first
    | (go_at_call 29; refine (C14.pPlace u _ A D false hP).mono ?_; rintro e w5 ⟨rfl, hg⟩; have rs5 := rs4.kept0 hg; have vss5 := vss4.kept0 hg; have hG5 : Hid (w.grownBy w5 none) := Hid.mk' (gt hG4.out hg); clear cs1 cs2; have cs1 := vss5.cell 1 rfl; have cs2 := vss5.cell 2 rfl; clear rs4 hg vss4)
    | (go_at_call 22; refine (a1.out _).mono ?_; rintro e w6 ⟨rfl, hg⟩; have rs6 := rs5.kept0 hg; have vss6 := vss5.kept0 hg; have hG6 : Hid (w.grownBy w6 none) := Hid.mk' (gt hG5.out hg); clear cs1 cs2; have cs1 := vss6.cell 1 rfl; have cs2 := vss6.cell 2 rfl; clear rs5 hg vss5)
    | (go_at_call 21; refine (put_any _ _ _ [b8 142, b8 y] _ (bytes_two (show 142 < 256 by omega) hy w6 (0, 0)) rfl).mono ?_; rintro e w7 ⟨rfl, hg0⟩; have hg : w6.grownBy w7 none := gt (World.grownBy_alloc _ _ _) hg0; have rs7 := rs6.kept0 hg; have vss7 := vss6.kept0 hg; have hG7 : Hid (w.grownBy w7 none) := Hid.mk' (gt hG6.out hg); clear cs1 cs2; have cs1 := vss7.cell 1 rfl; have cs2 := vss7.cell 2 rfl; clear rs6 hg hg0 vss6)
    | (refine wpList_storeC _ rfl 33 _ _ rfl B (pZ 0 ⟨#[]⟩) (pZ 0 (str [b8 142, b8 y])) infoP rfl (pC_one _ _ _ _ _ _) rfl rfl rs7 ?_; intro wz rsz hgz))
  refine bodyPost_ret (v := .agg (pZ 0 (str [b8 142, b8 y]))) (results_cell_row Try.results12 _ wz B 33 _ (0, 0) _ rfl rsz Try.underlying33 rfl infoP) rfl ⟨rfl, ?_⟩
  exact grownBy_new hG7.out hgz (fun k hk => by have h5 := Option.some.inj hk; have h6 := hB2.out; omega)
set_option maxRecDepth 100000 in
set_option maxHeartbeats 1000000 in
theorem ps_low84 (n : Nat) (hn : n < 128) (w : World) : Calls Try.prog 12 #[.int .i64 84, .int .i32 (n : Int)] w fun e w' => e = .returned (.agg (pZ 0 (str [b8 n]))) ∧ w.grownBy w' none := by
  have q0 : decide (0 ≤ (n : Int)) = true := by simp
  have q1 : decide ((n : Int) < 128) = true := by simp; omega
  have q2 : (n : Int) < 256 := by omega
  go_enter Try.func12, Try.ntmps12
  go_upto_region 1 with (first
    | (refine wpList_allocC _ rfl 33 rfl (pZ 0 ⟨#[]⟩) (zeroP _) ?_; intro w1 rs1 hgr))
  have hG1 : Hid (w.grownBy w1 none) := Hid.mk' hgr
  have hB2 : Hid (w.heap.size ≤ w.heap.size) := Hid.mk' (Nat.le_refl _)
  obtain ⟨B, hBe⟩ : ∃ B, Hid (w.heap.size = B) := ⟨_, Hid.mk' rfl⟩
  replace hB2 : Hid (w.heap.size ≤ B) := Hid.mk' (by rw [← hBe.out]; exact hB2.out)
  rw [hBe.out] at rs1
  first | rw [hBe.out] | skip
  clear hgr
  go_upto_region 2 with (first
    | (go_at_call 16; refine (set_84 _).mono ?_; rintro e w2 ⟨rfl, hg⟩; have rs2 := rs1.kept0 hg; have hG2 : Hid (w.grownBy w2 none) := Hid.mk' (gt hG1.out hg); clear rs1 hg )
    | (refine wpList_allocC _ rfl 46 rfl (sZ) (zeroK _) ?_; intro w3 vss3 hg; have hss : Hid (w.heap.size ≤ w2.heap.size) := Hid.mk' hG2.out.size; have hnes : Hid (B < w2.heap.size) := Hid.mk' rs2.lt; obtain ⟨Vs, hVs⟩ : ∃ V, Hid (w2.heap.size = V) := ⟨_, Hid.mk' rfl⟩; have rs3 := rs2.kept0 hg; have hG3 : Hid (w.grownBy w3 none) := Hid.mk' (gt hG2.out hg); clear rs2 hg ; rw [hVs.out] at vss3 hss hnes; rw [hVs.out])
    | (refine wpList_storeC _ rfl 46 _ _ rfl Vs (sZ) ((sK 30 31 false)) infoK rfl (sK_one _ _ _) rfl rfl vss3 ?_; intro w4 vss4 hg; have rs4 := rs3.kept hg (by have := hnes.out; intro e; have h5 := Option.some.inj e; omega); have hG4 : Hid (w.grownBy w4 none) := Hid.mk' (grownBy_new hG3.out hg (fun q hq => by have h5 := Option.some.inj hq; have h6 := hss.out; omega)); clear rs3 hg vss3 ))
  go_wp2_with (first
    | (go_at_call 21; refine (put_any _ _ _ [b8 n] _ (bytes_one (show n < 256 by omega) w4 (0, 0)) rfl).mono ?_; rintro e w5 ⟨rfl, hg0⟩; have hg : w4.grownBy w5 none := gt (World.grownBy_alloc _ _ _) hg0; have rs5 := rs4.kept0 hg; have vss5 := vss4.kept0 hg; have hG5 : Hid (w.grownBy w5 none) := Hid.mk' (gt hG4.out hg); clear rs4 hg hg0 vss4)
    | (refine wpList_storeC _ rfl 33 _ _ rfl B (pZ 0 ⟨#[]⟩) (pZ 0 (str [b8 n])) infoP rfl (pC_one _ _ _ _ _ _) rfl rfl rs5 ?_; intro wz rsz hgz))
  refine bodyPost_ret (v := .agg (pZ 0 (str [b8 n]))) (results_cell_row Try.results12 _ wz B 33 _ (0, 0) _ rfl rsz Try.underlying33 rfl infoP) rfl ⟨rfl, ?_⟩
  exact grownBy_new hG5.out hgz (fun k hk => by have h5 := Option.some.inj hk; have h6 := hB2.out; omega)
set_option maxRecDepth 100000 in
set_option maxHeartbeats 1000000 in
theorem ps_place84 (u : Int) (h1 : 128 ≤ u) (A D : Nat) (hA : A ≤ 94) (hD : D ≤ 94) (hP : Hid (C15.plT u = (A, D, true))) (x y : Nat) (hx : A + 160 = x) (hy : D + 160 = y) (w : World) : Calls Try.prog 12 #[.int .i64 84, .int .i32 u] w fun e w' => e = .returned (.agg (pZ 0 (str [b8 x, b8 y]))) ∧ w.grownBy w' none := by
  have q0 : decide (0 ≤ u) = true := by simp; omega
  have q1 : decide (u < 128) = false := by simp; omega
  have t1 : 160 + (A : Int) = (x : Int) := by omega
  have t2 : 160 + (D : Int) = (y : Int) := by omega
  have t3 : (x : Int) < 256 := by omega
  have t4 : (y : Int) < 256 := by omega
  clear hx hy
  go_enter Try.func12, Try.ntmps12
  go_upto_region 1 with (first
    | (refine wpList_allocC _ rfl 33 rfl (pZ 0 ⟨#[]⟩) (zeroP _) ?_; intro w1 rs1 hgr))
  have hG1 : Hid (w.grownBy w1 none) := Hid.mk' hgr
  have hB2 : Hid (w.heap.size ≤ w.heap.size) := Hid.mk' (Nat.le_refl _)
  obtain ⟨B, hBe⟩ : ∃ B, Hid (w.heap.size = B) := ⟨_, Hid.mk' rfl⟩
  replace hB2 : Hid (w.heap.size ≤ B) := Hid.mk' (by rw [← hBe.out]; exact hB2.out)
  rw [hBe.out] at rs1
  first | rw [hBe.out] | skip
  clear hgr
  go_upto_region 2 with (first
    | (go_at_call 16; refine (set_84 _).mono ?_; rintro e w2 ⟨rfl, hg⟩; have rs2 := rs1.kept0 hg; have hG2 : Hid (w.grownBy w2 none) := Hid.mk' (gt hG1.out hg); clear rs1 hg )
    | (refine wpList_allocC _ rfl 46 rfl (sZ) (zeroK _) ?_; intro w3 vss3 hg; have hss : Hid (w.heap.size ≤ w2.heap.size) := Hid.mk' hG2.out.size; have hnes : Hid (B < w2.heap.size) := Hid.mk' rs2.lt; obtain ⟨Vs, hVs⟩ : ∃ V, Hid (w2.heap.size = V) := ⟨_, Hid.mk' rfl⟩; have rs3 := rs2.kept0 hg; have hG3 : Hid (w.grownBy w3 none) := Hid.mk' (gt hG2.out hg); clear rs2 hg ; rw [hVs.out] at vss3 hss hnes; rw [hVs.out])
    | (refine wpList_storeC _ rfl 46 _ _ rfl Vs (sZ) ((sK 30 31 false)) infoK rfl (sK_one _ _ _) rfl rfl vss3 ?_; intro w4 vss4 hg; have rs4 := rs3.kept hg (by have := hnes.out; intro e; have h5 := Option.some.inj e; omega); have hG4 : Hid (w.grownBy w4 none) := Hid.mk' (grownBy_new hG3.out hg (fun q hq => by have h5 := Option.some.inj hq; have h6 := hss.out; omega)); have cs1 := vss4.cell 1 rfl; have cs2 := vss4.cell 2 rfl; clear rs3 hg vss3 ))
  go_wp2_with (first
    | (go_at_call 31; refine (C15.pPlace u _ A D true hP).mono ?_; rintro e w5 ⟨rfl, hg⟩; have rs5 := rs4.kept0 hg; have vss5 := vss4.kept0 hg; have hG5 : Hid (w.grownBy w5 none) := Hid.mk' (gt hG4.out hg); clear cs1 cs2; have cs1 := vss5.cell 1 rfl; have cs2 := vss5.cell 2 rfl; clear rs4 hg vss4)
    | (go_at_call 21; refine (put_any _ _ _ [b8 x, b8 y] _ (bytes_two (show x < 256 by omega) (show y < 256 by omega) w5 (0, 0)) rfl).mono ?_; rintro e w6 ⟨rfl, hg0⟩; have hg : w5.grownBy w6 none := gt (World.grownBy_alloc _ _ _) hg0; have rs6 := rs5.kept0 hg; have vss6 := vss5.kept0 hg; have hG6 : Hid (w.grownBy w6 none) := Hid.mk' (gt hG5.out hg); clear cs1 cs2; have cs1 := vss6.cell 1 rfl; have cs2 := vss6.cell 2 rfl; clear rs5 hg hg0 vss5)
    | (refine wpList_storeC _ rfl 33 _ _ rfl B (pZ 0 ⟨#[]⟩) (pZ 0 (str [b8 x, b8 y])) infoP rfl (pC_one _ _ _ _ _ _) rfl rfl rs6 ?_; intro wz rsz hgz))
  refine bodyPost_ret (v := .agg (pZ 0 (str [b8 x, b8 y]))) (results_cell_row Try.results12 _ wz B 33 _ (0, 0) _ rfl rsz Try.underlying33 rfl infoP) rfl ⟨rfl, ?_⟩
  exact grownBy_new hG6.out hgz (fun k hk => by have h5 := Option.some.inj hk; have h6 := hB2.out; omega)
set_option maxRecDepth 100000 in
set_option maxHeartbeats 1000000 in
theorem ps_nonea84 (u : Int) (h1 : u < 0) (A D : Nat) (hP : Hid (C15.plT u = (A, D, false))) (w : World) : Calls Try.prog 12 #[.int .i64 84, .int .i32 u] w fun e w' => e = .returned (.agg (pZ 11 ⟨#[]⟩)) ∧ w.grownBy w' none := by
  have q0 : decide (0 ≤ u) = false := by simp; omega
  go_enter Try.func12, Try.ntmps12
  go_upto_region 1 with (first
    | (refine wpList_allocC _ rfl 33 rfl (pZ 0 ⟨#[]⟩) (zeroP _) ?_; intro w1 rs1 hgr))
  have hG1 : Hid (w.grownBy w1 none) := Hid.mk' hgr
  have hB2 : Hid (w.heap.size ≤ w.heap.size) := Hid.mk' (Nat.le_refl _)
  obtain ⟨B, hBe⟩ : ∃ B, Hid (w.heap.size = B) := ⟨_, Hid.mk' rfl⟩
  replace hB2 : Hid (w.heap.size ≤ B) := Hid.mk' (by rw [← hBe.out]; exact hB2.out)
  rw [hBe.out] at rs1
  first | rw [hBe.out] | skip
  clear hgr
  go_upto_region 2 with (first
    | (go_at_call 16; refine (set_84 _).mono ?_; rintro e w2 ⟨rfl, hg⟩; have rs2 := rs1.kept0 hg; have hG2 : Hid (w.grownBy w2 none) := Hid.mk' (gt hG1.out hg); clear rs1 hg )
    | (refine wpList_allocC _ rfl 46 rfl (sZ) (zeroK _) ?_; intro w3 vss3 hg; have hss : Hid (w.heap.size ≤ w2.heap.size) := Hid.mk' hG2.out.size; have hnes : Hid (B < w2.heap.size) := Hid.mk' rs2.lt; obtain ⟨Vs, hVs⟩ : ∃ V, Hid (w2.heap.size = V) := ⟨_, Hid.mk' rfl⟩; have rs3 := rs2.kept0 hg; have hG3 : Hid (w.grownBy w3 none) := Hid.mk' (gt hG2.out hg); clear rs2 hg ; rw [hVs.out] at vss3 hss hnes; rw [hVs.out])
    | (refine wpList_storeC _ rfl 46 _ _ rfl Vs (sZ) ((sK 30 31 false)) infoK rfl (sK_one _ _ _) rfl rfl vss3 ?_; intro w4 vss4 hg; have rs4 := rs3.kept hg (by have := hnes.out; intro e; have h5 := Option.some.inj e; omega); have hG4 : Hid (w.grownBy w4 none) := Hid.mk' (grownBy_new hG3.out hg (fun q hq => by have h5 := Option.some.inj hq; have h6 := hss.out; omega)); have cs1 := vss4.cell 1 rfl; have cs2 := vss4.cell 2 rfl; clear rs3 hg vss3 ))
  go_wp2_with (first
    | (go_at_call 31; refine (C15.pPlace u _ A D false hP).mono ?_; rintro e w5 ⟨rfl, hg⟩; have rs5 := rs4.kept0 hg; have vss5 := vss4.kept0 hg; have hG5 : Hid (w.grownBy w5 none) := Hid.mk' (gt hG4.out hg); clear cs1 cs2; have cs1 := vss5.cell 1 rfl; have cs2 := vss5.cell 2 rfl; clear rs4 hg vss4)
    | (refine wpList_storeC _ rfl 33 _ _ rfl B (pZ 0 ⟨#[]⟩) (pZ 11 ⟨#[]⟩) infoP rfl (pC_one _ _ _ _ _ _) rfl rfl rs5 ?_; intro wz rsz hgz))
  refine bodyPost_ret (v := .agg (pZ 11 ⟨#[]⟩)) (results_cell_row Try.results12 _ wz B 33 _ (0, 0) _ rfl rsz Try.underlying33 rfl infoP) rfl ⟨rfl, ?_⟩
  exact grownBy_new hG5.out hgz (fun k hk => by have h5 := Option.some.inj hk; have h6 := hB2.out; omega)
set_option maxRecDepth 100000 in
set_option maxHeartbeats 1000000 in
theorem ps_noneb84 (u : Int) (h1 : 128 ≤ u) (A D : Nat) (hP : Hid (C15.plT u = (A, D, false))) (w : World) : Calls Try.prog 12 #[.int .i64 84, .int .i32 u] w fun e w' => e = .returned (.agg (pZ 11 ⟨#[]⟩)) ∧ w.grownBy w' none := by
  have q0 : decide (0 ≤ u) = true := by simp; omega
  have q1 : decide (u < 128) = false := by simp; omega
  go_enter Try.func12, Try.ntmps12
  go_upto_region 1 with (first
    | (refine wpList_allocC _ rfl 33 rfl (pZ 0 ⟨#[]⟩) (zeroP _) ?_; intro w1 rs1 hgr))
  have hG1 : Hid (w.grownBy w1 none) := Hid.mk' hgr
  have hB2 : Hid (w.heap.size ≤ w.heap.size) := Hid.mk' (Nat.le_refl _)
  obtain ⟨B, hBe⟩ : ∃ B, Hid (w.heap.size = B) := ⟨_, Hid.mk' rfl⟩
  replace hB2 : Hid (w.heap.size ≤ B) := Hid.mk' (by rw [← hBe.out]; exact hB2.out)
  rw [hBe.out] at rs1
  first | rw [hBe.out] | skip
  clear hgr
  go_upto_region 2 with (first
    | (go_at_call 16; refine (set_84 _).mono ?_; rintro e w2 ⟨rfl, hg⟩; have rs2 := rs1.kept0 hg; have hG2 : Hid (w.grownBy w2 none) := Hid.mk' (gt hG1.out hg); clear rs1 hg )
    | (refine wpList_allocC _ rfl 46 rfl (sZ) (zeroK _) ?_; intro w3 vss3 hg; have hss : Hid (w.heap.size ≤ w2.heap.size) := Hid.mk' hG2.out.size; have hnes : Hid (B < w2.heap.size) := Hid.mk' rs2.lt; obtain ⟨Vs, hVs⟩ : ∃ V, Hid (w2.heap.size = V) := ⟨_, Hid.mk' rfl⟩; have rs3 := rs2.kept0 hg; have hG3 : Hid (w.grownBy w3 none) := Hid.mk' (gt hG2.out hg); clear rs2 hg ; rw [hVs.out] at vss3 hss hnes; rw [hVs.out])
    | (refine wpList_storeC _ rfl 46 _ _ rfl Vs (sZ) ((sK 30 31 false)) infoK rfl (sK_one _ _ _) rfl rfl vss3 ?_; intro w4 vss4 hg; have rs4 := rs3.kept hg (by have := hnes.out; intro e; have h5 := Option.some.inj e; omega); have hG4 : Hid (w.grownBy w4 none) := Hid.mk' (grownBy_new hG3.out hg (fun q hq => by have h5 := Option.some.inj hq; have h6 := hss.out; omega)); have cs1 := vss4.cell 1 rfl; have cs2 := vss4.cell 2 rfl; clear rs3 hg vss3 ))
  go_wp2_with (first
    | (go_at_call 31; refine (C15.pPlace u _ A D false hP).mono ?_; rintro e w5 ⟨rfl, hg⟩; have rs5 := rs4.kept0 hg; have vss5 := vss4.kept0 hg; have hG5 : Hid (w.grownBy w5 none) := Hid.mk' (gt hG4.out hg); clear cs1 cs2; have cs1 := vss5.cell 1 rfl; have cs2 := vss5.cell 2 rfl; clear rs4 hg vss4)
    | (refine wpList_storeC _ rfl 33 _ _ rfl B (pZ 0 ⟨#[]⟩) (pZ 11 ⟨#[]⟩) infoP rfl (pC_one _ _ _ _ _ _) rfl rfl rs5 ?_; intro wz rsz hgz))
  refine bodyPost_ret (v := .agg (pZ 11 ⟨#[]⟩)) (results_cell_row Try.results12 _ wz B 33 _ (0, 0) _ rfl rsz Try.underlying33 rfl infoP) rfl ⟨rfl, ?_⟩
  exact grownBy_new hG5.out hgz (fun k hk => by have h5 := Option.some.inj hk; have h6 := hB2.out; omega)
set_option maxRecDepth 100000 in
set_option maxHeartbeats 1000000 in
theorem ps_low86 (n : Nat) (hn : n < 128) (w : World) : Calls Try.prog 12 #[.int .i64 86, .int .i32 (n : Int)] w fun e w' => e = .returned (.agg (pZ 0 (str [b8 n]))) ∧ w.grownBy w' none := by
  have q0 : decide (0 ≤ (n : Int)) = true := by simp
  have q1 : decide ((n : Int) < 128) = true := by simp; omega
  have q2 : (n : Int) < 256 := by omega
  go_enter Try.func12, Try.ntmps12
  go_upto_region 1 with (first
    | (refine wpList_allocC _ rfl 33 rfl (pZ 0 ⟨#[]⟩) (zeroP _) ?_; intro w1 rs1 hgr))
  have hG1 : Hid (w.grownBy w1 none) := Hid.mk' hgr
  have hB2 : Hid (w.heap.size ≤ w.heap.size) := Hid.mk' (Nat.le_refl _)
  obtain ⟨B, hBe⟩ : ∃ B, Hid (w.heap.size = B) := ⟨_, Hid.mk' rfl⟩
  replace hB2 : Hid (w.heap.size ≤ B) := Hid.mk' (by rw [← hBe.out]; exact hB2.out)
  rw [hBe.out] at rs1
  first | rw [hBe.out] | skip
  clear hgr
  go_upto_region 2 with (first
    | (go_at_call 16; refine (set_86 _).mono ?_; rintro e w2 ⟨rfl, hg⟩; have rs2 := rs1.kept0 hg; have hG2 : Hid (w.grownBy w2 none) := Hid.mk' (gt hG1.out hg); clear rs1 hg )
    | (refine wpList_allocC _ rfl 46 rfl (sZ) (zeroK _) ?_; intro w3 vss3 hg; have hss : Hid (w.heap.size ≤ w2.heap.size) := Hid.mk' hG2.out.size; have hnes : Hid (B < w2.heap.size) := Hid.mk' rs2.lt; obtain ⟨Vs, hVs⟩ : ∃ V, Hid (w2.heap.size = V) := ⟨_, Hid.mk' rfl⟩; have rs3 := rs2.kept0 hg; have hG3 : Hid (w.grownBy w3 none) := Hid.mk' (gt hG2.out hg); clear rs2 hg ; rw [hVs.out] at vss3 hss hnes; rw [hVs.out])
    | (refine wpList_storeC _ rfl 46 _ _ rfl Vs (sZ) ((sK 32 33 false)) infoK rfl (sK_one _ _ _) rfl rfl vss3 ?_; intro w4 vss4 hg; have rs4 := rs3.kept hg (by have := hnes.out; intro e; have h5 := Option.some.inj e; omega); have hG4 : Hid (w.grownBy w4 none) := Hid.mk' (grownBy_new hG3.out hg (fun q hq => by have h5 := Option.some.inj hq; have h6 := hss.out; omega)); clear rs3 hg vss3 ))
  go_wp2_with (first
    | (go_at_call 21; refine (put_any _ _ _ [b8 n] _ (bytes_one (show n < 256 by omega) w4 (0, 0)) rfl).mono ?_; rintro e w5 ⟨rfl, hg0⟩; have hg : w4.grownBy w5 none := gt (World.grownBy_alloc _ _ _) hg0; have rs5 := rs4.kept0 hg; have vss5 := vss4.kept0 hg; have hG5 : Hid (w.grownBy w5 none) := Hid.mk' (gt hG4.out hg); clear rs4 hg hg0 vss4)
    | (refine wpList_storeC _ rfl 33 _ _ rfl B (pZ 0 ⟨#[]⟩) (pZ 0 (str [b8 n])) infoP rfl (pC_one _ _ _ _ _ _) rfl rfl rs5 ?_; intro wz rsz hgz))
  refine bodyPost_ret (v := .agg (pZ 0 (str [b8 n]))) (results_cell_row Try.results12 _ wz B 33 _ (0, 0) _ rfl rsz Try.underlying33 rfl infoP) rfl ⟨rfl, ?_⟩
  exact grownBy_new hG5.out hgz (fun k hk => by have h5 := Option.some.inj hk; have h6 := hB2.out; omega)
set_option maxRecDepth 100000 in
set_option maxHeartbeats 1000000 in
theorem ps_place86 (u : Int) (h1 : 128 ≤ u) (A D : Nat) (hA : A ≤ 94) (hD : D ≤ 94) (hP : Hid (C16.plT u = (A, D, true))) (x y : Nat) (hx : A + 160 = x) (hy : D + 160 = y) (w : World) : Calls Try.prog 12 #[.int .i64 86, .int .i32 u] w fun e w' => e = .returned (.agg (pZ 0 (str [b8 x, b8 y]))) ∧ w.grownBy w' none := by
  have q0 : decide (0 ≤ u) = true := by simp; omega
  have q1 : decide (u < 128) = false := by simp; omega
  have t1 : 160 + (A : Int) = (x : Int) := by omega
  have t2 : 160 + (D : Int) = (y : Int) := by omega
  have t3 : (x : Int) < 256 := by omega
  have t4 : (y : Int) < 256 := by omega
  clear hx hy
  go_enter Try.func12, Try.ntmps12
  go_upto_region 1 with (first
    | (refine wpList_allocC _ rfl 33 rfl (pZ 0 ⟨#[]⟩) (zeroP _) ?_; intro w1 rs1 hgr))
  have hG1 : Hid (w.grownBy w1 none) := Hid.mk' hgr
  have hB2 : Hid (w.heap.size ≤ w.heap.size) := Hid.mk' (Nat.le_refl _)
  obtain ⟨B, hBe⟩ : ∃ B, Hid (w.heap.size = B) := ⟨_, Hid.mk' rfl⟩
  replace hB2 : Hid (w.heap.size ≤ B) := Hid.mk' (by rw [← hBe.out]; exact hB2.out)
  rw [hBe.out] at rs1
  first | rw [hBe.out] | skip
  clear hgr
  go_upto_region 2 with (first
    | (go_at_call 16; refine (set_86 _).mono ?_; rintro e w2 ⟨rfl, hg⟩; have rs2 := rs1.kept0 hg; have hG2 : Hid (w.grownBy w2 none) := Hid.mk' (gt hG1.out hg); clear rs1 hg )
    | (refine wpList_allocC _ rfl 46 rfl (sZ) (zeroK _) ?_; intro w3 vss3 hg; have hss : Hid (w.heap.size ≤ w2.heap.size) := Hid.mk' hG2.out.size; have hnes : Hid (B < w2.heap.size) := Hid.mk' rs2.lt; obtain ⟨Vs, hVs⟩ : ∃ V, Hid (w2.heap.size = V) := ⟨_, Hid.mk' rfl⟩; have rs3 := rs2.kept0 hg; have hG3 : Hid (w.grownBy w3 none) := Hid.mk' (gt hG2.out hg); clear rs2 hg ; rw [hVs.out] at vss3 hss hnes; rw [hVs.out])
    | (refine wpList_storeC _ rfl 46 _ _ rfl Vs (sZ) ((sK 32 33 false)) infoK rfl (sK_one _ _ _) rfl rfl vss3 ?_; intro w4 vss4 hg; have rs4 := rs3.kept hg (by have := hnes.out; intro e; have h5 := Option.some.inj e; omega); have hG4 : Hid (w.grownBy w4 none) := Hid.mk' (grownBy_new hG3.out hg (fun q hq => by have h5 := Option.some.inj hq; have h6 := hss.out; omega)); have cs1 := vss4.cell 1 rfl; have cs2 := vss4.cell 2 rfl; clear rs3 hg vss3 ))
  go_wp2_with (first
    | (go_at_call 33; refine (C16.pPlace u _ A D true hP).mono ?_; rintro e w5 ⟨rfl, hg⟩; have rs5 := rs4.kept0 hg; have vss5 := vss4.kept0 hg; have hG5 : Hid (w.grownBy w5 none) := Hid.mk' (gt hG4.out hg); clear cs1 cs2; have cs1 := vss5.cell 1 rfl; have cs2 := vss5.cell 2 rfl; clear rs4 hg vss4)
    | (go_at_call 21; refine (put_any _ _ _ [b8 x, b8 y] _ (bytes_two (show x < 256 by omega) (show y < 256 by omega) w5 (0, 0)) rfl).mono ?_; rintro e w6 ⟨rfl, hg0⟩; have hg : w5.grownBy w6 none := gt (World.grownBy_alloc _ _ _) hg0; have rs6 := rs5.kept0 hg; have vss6 := vss5.kept0 hg; have hG6 : Hid (w.grownBy w6 none) := Hid.mk' (gt hG5.out hg); clear cs1 cs2; have cs1 := vss6.cell 1 rfl; have cs2 := vss6.cell 2 rfl; clear rs5 hg hg0 vss5)
    | (refine wpList_storeC _ rfl 33 _ _ rfl B (pZ 0 ⟨#[]⟩) (pZ 0 (str [b8 x, b8 y])) infoP rfl (pC_one _ _ _ _ _ _) rfl rfl rs6 ?_; intro wz rsz hgz))
  refine bodyPost_ret (v := .agg (pZ 0 (str [b8 x, b8 y]))) (results_cell_row Try.results12 _ wz B 33 _ (0, 0) _ rfl rsz Try.underlying33 rfl infoP) rfl ⟨rfl, ?_⟩
  exact grownBy_new hG6.out hgz (fun k hk => by have h5 := Option.some.inj hk; have h6 := hB2.out; omega)
set_option maxRecDepth 100000 in
set_option maxHeartbeats 1000000 in
theorem ps_nonea86 (u : Int) (h1 : u < 0) (A D : Nat) (hP : Hid (C16.plT u = (A, D, false))) (w : World) : Calls Try.prog 12 #[.int .i64 86, .int .i32 u] w fun e w' => e = .returned (.agg (pZ 11 ⟨#[]⟩)) ∧ w.grownBy w' none := by
  have q0 : decide (0 ≤ u) = false := by simp; omega
  go_enter Try.func12, Try.ntmps12
  go_upto_region 1 with (first
    | (refine wpList_allocC _ rfl 33 rfl (pZ 0 ⟨#[]⟩) (zeroP _) ?_; intro w1 rs1 hgr))
  have hG1 : Hid (w.grownBy w1 none) := Hid.mk' hgr
  have hB2 : Hid (w.heap.size ≤ w.heap.size) := Hid.mk' (Nat.le_refl _)
  obtain ⟨B, hBe⟩ : ∃ B, Hid (w.heap.size = B) := ⟨_, Hid.mk' rfl⟩
  replace hB2 : Hid (w.heap.size ≤ B) := Hid.mk' (by rw [← hBe.out]; exact hB2.out)
  rw [hBe.out] at rs1
  first | rw [hBe.out] | skip
  clear hgr
  go_upto_region 2 with (first
    | (go_at_call 16; refine (set_86 _).mono ?_; rintro e w2 ⟨rfl, hg⟩; have rs2 := rs1.kept0 hg; have hG2 : Hid (w.grownBy w2 none) := Hid.mk' (gt hG1.out hg); clear rs1 hg )
    | (refine wpList_allocC _ rfl 46 rfl (sZ) (zeroK _) ?_; intro w3 vss3 hg; have hss : Hid (w.heap.size ≤ w2.heap.size) := Hid.mk' hG2.out.size; have hnes : Hid (B < w2.heap.size) := Hid.mk' rs2.lt; obtain ⟨Vs, hVs⟩ : ∃ V, Hid (w2.heap.size = V) := ⟨_, Hid.mk' rfl⟩; have rs3 := rs2.kept0 hg; have hG3 : Hid (w.grownBy w3 none) := Hid.mk' (gt hG2.out hg); clear rs2 hg ; rw [hVs.out] at vss3 hss hnes; rw [hVs.out])
    | (refine wpList_storeC _ rfl 46 _ _ rfl Vs (sZ) ((sK 32 33 false)) infoK rfl (sK_one _ _ _) rfl rfl vss3 ?_; intro w4 vss4 hg; have rs4 := rs3.kept hg (by have := hnes.out; intro e; have h5 := Option.some.inj e; omega); have hG4 : Hid (w.grownBy w4 none) := Hid.mk' (grownBy_new hG3.out hg (fun q hq => by have h5 := Option.some.inj hq; have h6 := hss.out; omega)); have cs1 := vss4.cell 1 rfl; have cs2 := vss4.cell 2 rfl; clear rs3 hg vss3 ))
  go_wp2_with (first
    | (go_at_call 33; refine (C16.pPlace u _ A D false hP).mono ?_; rintro e w5 ⟨rfl, hg⟩; have rs5 := rs4.kept0 hg; have vss5 := vss4.kept0 hg; have hG5 : Hid (w.grownBy w5 none) := Hid.mk' (gt hG4.out hg); clear cs1 cs2; have cs1 := vss5.cell 1 rfl; have cs2 := vss5.cell 2 rfl; clear rs4 hg vss4)
    | (refine wpList_storeC _ rfl 33 _ _ rfl B (pZ 0 ⟨#[]⟩) (pZ 11 ⟨#[]⟩) infoP rfl (pC_one _ _ _ _ _ _) rfl rfl rs5 ?_; intro wz rsz hgz))
  refine bodyPost_ret (v := .agg (pZ 11 ⟨#[]⟩)) (results_cell_row Try.results12 _ wz B 33 _ (0, 0) _ rfl rsz Try.underlying33 rfl infoP) rfl ⟨rfl, ?_⟩
  exact grownBy_new hG5.out hgz (fun k hk => by have h5 := Option.some.inj hk; have h6 := hB2.out; omega)
set_option maxRecDepth 100000 in
set_option maxHeartbeats 1000000 in
theorem ps_noneb86 (u : Int) (h1 : 128 ≤ u) (A D : Nat) (hP : Hid (C16.plT u = (A, D, false))) (w : World) : Calls Try.prog 12 #[.int .i64 86, .int .i32 u] w fun e w' => e = .returned (.agg (pZ 11 ⟨#[]⟩)) ∧ w.grownBy w' none := by
  have q0 : decide (0 ≤ u) = true := by simp; omega
  have q1 : decide (u < 128) = false := by simp; omega
  go_enter Try.func12, Try.ntmps12
  go_upto_region 1 with (first
    | (refine wpList_allocC _ rfl 33 rfl (pZ 0 ⟨#[]⟩) (zeroP _) ?_; intro w1 rs1 hgr))
  have hG1 : Hid (w.grownBy w1 none) := Hid.mk' hgr
  have hB2 : Hid (w.heap.size ≤ w.heap.size) := Hid.mk' (Nat.le_refl _)
  obtain ⟨B, hBe⟩ : ∃ B, Hid (w.heap.size = B) := ⟨_, Hid.mk' rfl⟩
  replace hB2 : Hid (w.heap.size ≤ B) := Hid.mk' (by rw [← hBe.out]; exact hB2.out)
  rw [hBe.out] at rs1
  first | rw [hBe.out] | skip
  clear hgr
  go_upto_region 2 with (first
    | (go_at_call 16; refine (set_86 _).mono ?_; rintro e w2 ⟨rfl, hg⟩; have rs2 := rs1.kept0 hg; have hG2 : Hid (w.grownBy w2 none) := Hid.mk' (gt hG1.out hg); clear rs1 hg )
    | (refine wpList_allocC _ rfl 46 rfl (sZ) (zeroK _) ?_; intro w3 vss3 hg; have hss : Hid (w.heap.size ≤ w2.heap.size) := Hid.mk' hG2.out.size; have hnes : Hid (B < w2.heap.size) := Hid.mk' rs2.lt; obtain ⟨Vs, hVs⟩ : ∃ V, Hid (w2.heap.size = V) := ⟨_, Hid.mk' rfl⟩; have rs3 := rs2.kept0 hg; have hG3 : Hid (w.grownBy w3 none) := Hid.mk' (gt hG2.out hg); clear rs2 hg ; rw [hVs.out] at vss3 hss hnes; rw [hVs.out])
    | (refine wpList_storeC _ rfl 46 _ _ rfl Vs (sZ) ((sK 32 33 false)) infoK rfl (sK_one _ _ _) rfl rfl vss3 ?_; intro w4 vss4 hg; have rs4 := rs3.kept hg (by have := hnes.out; intro e; have h5 := Option.some.inj e; omega); have hG4 : Hid (w.grownBy w4 none) := Hid.mk' (grownBy_new hG3.out hg (fun q hq => by have h5 := Option.some.inj hq; have h6 := hss.out; omega)); have cs1 := vss4.cell 1 rfl; have cs2 := vss4.cell 2 rfl; clear rs3 hg vss3 ))
  go_wp2_with (first
    | (go_at_call 33; refine (C16.pPlace u _ A D false hP).mono ?_; rintro e w5 ⟨rfl, hg⟩; have rs5 := rs4.kept0 hg; have vss5 := vss4.kept0 hg; have hG5 : Hid (w.grownBy w5 none) := Hid.mk' (gt hG4.out hg); clear cs1 cs2; have cs1 := vss5.cell 1 rfl; have cs2 := vss5.cell 2 rfl; clear rs4 hg vss4)
    | (refine wpList_storeC _ rfl 33 _ _ rfl B (pZ 0 ⟨#[]⟩) (pZ 11 ⟨#[]⟩) infoP rfl (pC_one _ _ _ _ _ _) rfl rfl rs5 ?_; intro wz rsz hgz))
  refine bodyPost_ret (v := .agg (pZ 11 ⟨#[]⟩)) (results_cell_row Try.results12 _ wz B 33 _ (0, 0) _ rfl rsz Try.underlying33 rfl infoP) rfl ⟨rfl, ?_⟩
  exact grownBy_new hG5.out hgz (fun k hk => by have h5 := Option.some.inj hk; have h6 := hB2.out; omega)
end Go.Proofs.Ytcbjkamjkaiofaa.C17

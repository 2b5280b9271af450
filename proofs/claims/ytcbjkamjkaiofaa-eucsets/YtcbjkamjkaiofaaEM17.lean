/- The program's half, pair and put of layer 17: walks, a way each. -/
import Derived.Test.YtcbjkamjkaiofaaEN17
import Derived.Test.YtcbjkamjkaiofaaRR14
import Derived.Test.YtcbjkamjkaiofaaCs
import Derived.Deep.RegionHeld3
import Derived.BigQuiet
namespace Go.Proofs.Ytcbjkamjkaiofaa.C17
open Go.ChangeShapes Go.WideShapes Go.ChangeAt Go.RowKit Go.Proofs.Ytcbjkamjkaiofaa.Mem Go.Proofs.Ytcbjkamjkaiofaa.Cb Go.Proofs.Ytcbjkamjkaiofaa.Sp Go.Proofs.Ytcbjkamjkaiofaa.Ar
set_option linter.unusedVariables false
set_option linter.unusedSimpArgs false

set_option maxRecDepth 100000 in
set_option maxHeartbeats 1000000 in
theorem gh_one (w : World) (ao : Option Addr) (cap : Nat) : Calls Try.prog 17 #[.slice ao 0 cap] w fun e w' => e = .returned (.agg (gZ 1 0 0 0)) ∧ w.grownBy w' none := by
  go_enter Try.func17, Try.ntmps17
  go_upto_region 1 with (first
    | (refine wpList_allocC _ rfl 28 rfl (gZ 0 0 0 0) (zeroG _) ?_; intro w1 rs1 hgr))
  have hG1 : Hid (w.grownBy w1 none) := Hid.mk' hgr
  have hB2 : Hid (w.heap.size ≤ w.heap.size) := Hid.mk' (Nat.le_refl _)
  obtain ⟨B, hBe⟩ : ∃ B, Hid (w.heap.size = B) := ⟨_, Hid.mk' rfl⟩
  replace hB2 : Hid (w.heap.size ≤ B) := Hid.mk' (by rw [← hBe.out]; exact hB2.out)
  rw [hBe.out] at rs1
  first | rw [hBe.out] | skip
  clear hgr
  go_wp2_with (first
    | (refine wpList_storeC _ rfl 28 _ _ rfl B (gZ 0 0 0 0) (gZ 1 0 0 0) infoG rfl (gC_one _ _ _ _ _ _ _ _ _) rfl rfl rs1 ?_; intro wz rsz hgz))
  refine bodyPost_ret (v := .agg (gZ 1 0 0 0)) (results_cell_row Try.results17 _ wz B 28 _ (0, 0) _ rfl rsz Try.underlying28 rfl infoG) rfl ⟨rfl, ?_⟩
  exact grownBy_new hG1.out hgz (fun k hk => by have h5 := Option.some.inj hk; have h6 := hB2.out; omega)
set_option maxRecDepth 100000 in
set_option maxHeartbeats 1000000 in
theorem gh_bad (w : World) (g o : Nat) (c : Nat) (hy0 : Hid (∀ wx, w.grownBy wx none → wx.cell? ⟨g, o, none⟩ = some (.int .u8 (c : Int)))) (len cap : Nat) (hl2 : len ≤ cap) (hl3 : cap ≤ 9223372036854775807) (hl1 : 0 < len) (hc : c < 256) (hh : Hid (C14.haR c = none)) : Calls Try.prog 17 #[.slice (some ⟨g, o, none⟩) len cap] w fun e w' => e = .returned (.agg (gZ 10 1 0 0)) ∧ w.grownBy w' none := by
  have hl8 : (0 : Int) < (len : Int) := by omega
  have hl9 : ((len : Int) == 0) = false := by simp; omega
  have a1 : Hid (∀ w, Calls Try.prog 34 #[.int .u8 (c : Int)] w fun e w' => e = .returned (.tuple #[.int .i32 0, .bool false]) ∧ w.grownBy w' none) := Hid.mk' (fun w => (C14.pHalf c (by omega) w _ hh).mono (fun e w' h => ⟨h.1, by rw [h.2]; exact grownBy_refl _ _⟩))
  go_enter Try.func17, Try.ntmps17
  go_upto_region 1 with (first
    | (refine wpList_allocC _ rfl 28 rfl (gZ 0 0 0 0) (zeroG _) ?_; intro w1 rs1 hgr))
  have hG1 : Hid (w.grownBy w1 none) := Hid.mk' hgr
  have hB2 : Hid (w.heap.size ≤ w.heap.size) := Hid.mk' (Nat.le_refl _)
  obtain ⟨B, hBe⟩ : ∃ B, Hid (w.heap.size = B) := ⟨_, Hid.mk' rfl⟩
  replace hB2 : Hid (w.heap.size ≤ B) := Hid.mk' (by rw [← hBe.out]; exact hB2.out)
  rw [hBe.out] at rs1
  first | rw [hBe.out] | skip
  clear hgr
  have y0 := hy0.out _ hG1.out
  go_wp2_with (first
    | (go_at_call 34; refine (a1.out _).mono ?_; rintro e w2 ⟨rfl, hg⟩; have rs2 := rs1.kept0 hg; have hG2 : Hid (w.grownBy w2 none) := Hid.mk' (gt hG1.out hg); clear y0; have y0 := hy0.out _ hG2.out; clear rs1 hg )
    | (refine wpList_storeC _ rfl 28 _ _ rfl B (gZ 0 0 0 0) (gZ 10 1 0 0) infoG rfl (gC_one _ _ _ _ _ _ _ _ _) rfl rfl rs2 ?_; intro wz rsz hgz))
  refine bodyPost_ret (v := .agg (gZ 10 1 0 0)) (results_cell_row Try.results17 _ wz B 28 _ (0, 0) _ rfl rsz Try.underlying28 rfl infoG) rfl ⟨rfl, ?_⟩
  exact grownBy_new hG2.out hgz (fun k hk => by have h5 := Option.some.inj hk; have h6 := hB2.out; omega)
set_option maxRecDepth 100000 in
set_option maxHeartbeats 1000000 in
theorem gh_low (w : World) (g o : Nat) (c : Nat) (hy0 : Hid (∀ wx, w.grownBy wx none → wx.cell? ⟨g, o, none⟩ = some (.int .u8 (c : Int)))) (len cap : Nat) (hl2 : len ≤ cap) (hl3 : cap ≤ 9223372036854775807) (hl1 : 0 < len) (h1 : c < 161) (m : Nat) (hh : Hid (C14.haR c = some m)) : Calls Try.prog 17 #[.slice (some ⟨g, o, none⟩) len cap] w fun e w' => e = .returned (.agg (gZ 10 1 0 0)) ∧ w.grownBy w' none := by
  have hl8 : (0 : Int) < (len : Int) := by omega
  have hl9 : ((len : Int) == 0) = false := by simp; omega
  have p1 : decide ((c : Int) < 161) = true := by simp; omega
  have a1 : Hid (∀ w, Calls Try.prog 34 #[.int .u8 (c : Int)] w fun e w' => e = .returned (.tuple #[.int .i32 (m : Int), .bool true]) ∧ w.grownBy w' none) := Hid.mk' (fun w => (C14.pHalf c (by omega) w _ hh).mono (fun e w' h => ⟨h.1, by rw [h.2]; exact grownBy_refl _ _⟩))
  go_enter Try.func17, Try.ntmps17
  go_upto_region 1 with (first
    | (refine wpList_allocC _ rfl 28 rfl (gZ 0 0 0 0) (zeroG _) ?_; intro w1 rs1 hgr))
  have hG1 : Hid (w.grownBy w1 none) := Hid.mk' hgr
  have hB2 : Hid (w.heap.size ≤ w.heap.size) := Hid.mk' (Nat.le_refl _)
  obtain ⟨B, hBe⟩ : ∃ B, Hid (w.heap.size = B) := ⟨_, Hid.mk' rfl⟩
  replace hB2 : Hid (w.heap.size ≤ B) := Hid.mk' (by rw [← hBe.out]; exact hB2.out)
  rw [hBe.out] at rs1
  first | rw [hBe.out] | skip
  clear hgr
  have y0 := hy0.out _ hG1.out
  go_wp2_with (first
    | (go_at_call 34; refine (a1.out _).mono ?_; rintro e w2 ⟨rfl, hg⟩; have rs2 := rs1.kept0 hg; have hG2 : Hid (w.grownBy w2 none) := Hid.mk' (gt hG1.out hg); clear y0; have y0 := hy0.out _ hG2.out; clear rs1 hg )
    | (refine wpList_storeC _ rfl 28 _ _ rfl B (gZ 0 0 0 0) (gZ 10 1 0 0) infoG rfl (gC_one _ _ _ _ _ _ _ _ _) rfl rfl rs2 ?_; intro wz rsz hgz))
  refine bodyPost_ret (v := .agg (gZ 10 1 0 0)) (results_cell_row Try.results17 _ wz B 28 _ (0, 0) _ rfl rsz Try.underlying28 rfl infoG) rfl ⟨rfl, ?_⟩
  exact grownBy_new hG2.out hgz (fun k hk => by have h5 := Option.some.inj hk; have h6 := hB2.out; omega)
set_option maxRecDepth 100000 in
set_option maxHeartbeats 1000000 in
theorem gh_ok (w : World) (g o : Nat) (c : Nat) (hy0 : Hid (∀ wx, w.grownBy wx none → wx.cell? ⟨g, o, none⟩ = some (.int .u8 (c : Int)))) (len cap : Nat) (hl2 : len ≤ cap) (hl3 : cap ≤ 9223372036854775807) (hl1 : 0 < len) (h1 : 161 ≤ c) (h2 : c ≤ 223) (m : Nat) (hh : Hid (C14.haR c = some m)) : Calls Try.prog 17 #[.slice (some ⟨g, o, none⟩) len cap] w fun e w' => e = .returned (.agg (gZ 0 2 1 (m : Int))) ∧ w.grownBy w' none := by
  have hl8 : (0 : Int) < (len : Int) := by omega
  have hl9 : ((len : Int) == 0) = false := by simp; omega
  have p1 : decide ((c : Int) < 161) = false := by simp; omega
  have p2 : decide (223 < (c : Int)) = false := by simp; omega
  have a1 : Hid (∀ w, Calls Try.prog 34 #[.int .u8 (c : Int)] w fun e w' => e = .returned (.tuple #[.int .i32 (m : Int), .bool true]) ∧ w.grownBy w' none) := Hid.mk' (fun w => (C14.pHalf c (by omega) w _ hh).mono (fun e w' h => ⟨h.1, by rw [h.2]; exact grownBy_refl _ _⟩))
  go_enter Try.func17, Try.ntmps17
  go_upto_region 1 with (first
    | (refine wpList_allocC _ rfl 28 rfl (gZ 0 0 0 0) (zeroG _) ?_; intro w1 rs1 hgr))
  have hG1 : Hid (w.grownBy w1 none) := Hid.mk' hgr
  have hB2 : Hid (w.heap.size ≤ w.heap.size) := Hid.mk' (Nat.le_refl _)
  obtain ⟨B, hBe⟩ : ∃ B, Hid (w.heap.size = B) := ⟨_, Hid.mk' rfl⟩
  replace hB2 : Hid (w.heap.size ≤ B) := Hid.mk' (by rw [← hBe.out]; exact hB2.out)
  rw [hBe.out] at rs1
  first | rw [hBe.out] | skip
  clear hgr
  have y0 := hy0.out _ hG1.out
  go_wp2_with (first
    | (go_at_call 34; refine (a1.out _).mono ?_; rintro e w2 ⟨rfl, hg⟩; have rs2 := rs1.kept0 hg; have hG2 : Hid (w.grownBy w2 none) := Hid.mk' (gt hG1.out hg); clear y0; have y0 := hy0.out _ hG2.out; clear rs1 hg )
    | (refine wpList_storeC _ rfl 28 _ _ rfl B (gZ 0 0 0 0) (gZ 0 2 1 (m : Int)) infoG rfl (gC_one _ _ _ _ _ _ _ _ _) rfl rfl rs2 ?_; intro wz rsz hgz))
  refine bodyPost_ret (v := .agg (gZ 0 2 1 (m : Int))) (results_cell_row Try.results17 _ wz B 28 _ (0, 0) _ rfl rsz Try.underlying28 rfl infoG) rfl ⟨rfl, ?_⟩
  exact grownBy_new hG2.out hgz (fun k hk => by have h5 := Option.some.inj hk; have h6 := hB2.out; omega)
set_option maxRecDepth 100000 in
set_option maxHeartbeats 1000000 in
theorem put_any (ao : Option Addr) (n cap : Nat) (L : List UInt8) (w : World) (hB : Bytes w ao L) (hn : L.length = n) : Calls Try.prog 21 #[.slice ao n cap] w fun e w' => e = .returned (.agg (pZ 0 (str L))) ∧ w.grownBy w' none := by
  go_enter Try.func21, Try.ntmps21
  go_upto_region 1 with (first
    | (refine wpList_allocC _ rfl 33 rfl (pZ 0 ⟨#[]⟩) (zeroP _) ?_; intro w1 rs1 hgr))
  have hG1 : Hid (w.grownBy w1 none) := Hid.mk' hgr
  have hB2 : Hid (w.heap.size ≤ w.heap.size) := Hid.mk' (Nat.le_refl _)
  obtain ⟨B, hBe⟩ : ∃ B, Hid (w.heap.size = B) := ⟨_, Hid.mk' rfl⟩
  replace hB2 : Hid (w.heap.size ≤ B) := Hid.mk' (by rw [← hBe.out]; exact hB2.out)
  rw [hBe.out] at rs1
  first | rw [hBe.out] | skip
  clear hgr
  have hcv := conv (hB.kept0 hG1.out) 22 9 cap Try.underlying22 Try.underlying5 Try.underlying9
  rw [hn] at hcv
  go_wp2_with (first
    | (refine wpList_storeC _ rfl 33 _ _ rfl B (pZ 0 ⟨#[]⟩) (pZ 0 (str L)) infoP rfl (pC_one _ _ _ _ _ _) rfl rfl rs1 ?_; intro wz rsz hgz))
  refine bodyPost_ret (v := .agg (pZ 0 (str L))) (results_cell_row Try.results21 _ wz B 33 _ (0, 0) _ rfl rsz Try.underlying33 rfl infoP) rfl ⟨rfl, ?_⟩
  exact grownBy_new hG1.out hgz (fun k hk => by have h5 := Option.some.inj hk; have h6 := hB2.out; omega)
set_option maxRecDepth 100000 in
set_option maxHeartbeats 1000000 in
theorem gp_one81 (w : World) (b : Nat) (ao : Option Addr) (cap : Nat) : Calls Try.prog 19 #[.agg (sK 28 29 true), .int .u8 (b : Int), .slice ao 0 cap] w fun e w' => e = .returned (.agg (gZ 1 0 0 0)) ∧ w.grownBy w' none := by
  go_enter Try.func19, Try.ntmps19
  go_upto_region 1 with (first
    | (refine wpList_boxC _ rfl 46 _ rfl ((sK 28 29 true)) rfl ?_; intro x0 vbs hx0)
    | (refine wpList_allocC _ rfl 28 rfl (gZ 0 0 0 0) (zeroG _) ?_; intro w1 rs1 hgr))
  have hG1 : Hid (w.grownBy w1 none) := Hid.mk' (gt hx0 hgr)
  have vss1 := vbs.kept0 hgr
  have hB2 : Hid (w.heap.size ≤ x0.heap.size) := Hid.mk' (hx0.size)
  obtain ⟨Vs, hVs⟩ : ∃ V, Hid (w.heap.size = V) := ⟨_, Hid.mk' rfl⟩
  rw [hVs.out] at vss1
  rw [hVs.out]
  obtain ⟨B, hBe⟩ : ∃ B, Hid (x0.heap.size = B) := ⟨_, Hid.mk' rfl⟩
  replace hB2 : Hid (w.heap.size ≤ B) := Hid.mk' (by rw [← hBe.out]; exact hB2.out)
  rw [hBe.out] at rs1
  first | rw [hBe.out] | skip
  clear hx0 vbs hgr
  have cs0 := vss1.cell 0 rfl
  go_wp2_with (first
    | (refine wpList_storeC _ rfl 28 _ _ rfl B (gZ 0 0 0 0) (gZ 1 0 0 0) infoG rfl (gC_one _ _ _ _ _ _ _ _ _) rfl rfl rs1 ?_; intro wz rsz hgz))
  refine bodyPost_ret (v := .agg (gZ 1 0 0 0)) (results_cell_row Try.results19 _ wz B 28 _ (0, 0) _ rfl rsz Try.underlying28 rfl infoG) rfl ⟨rfl, ?_⟩
  exact grownBy_new hG1.out hgz (fun k hk => by have h5 := Option.some.inj hk; have h6 := hB2.out; omega)
set_option maxRecDepth 100000 in
set_option maxHeartbeats 1000000 in
theorem gp_bad81 (w : World) (b : Nat) (g o : Nat) (c : Nat) (hy0 : Hid (∀ wx, w.grownBy wx none → wx.cell? ⟨g, o, none⟩ = some (.int .u8 (c : Int)))) (len cap : Nat) (hl2 : len ≤ cap) (hl3 : cap ≤ 9223372036854775807) (hl1 : 0 < len) (h1 : c < 161 ∨ 254 < c) : Calls Try.prog 19 #[.agg (sK 28 29 true), .int .u8 (b : Int), .slice (some ⟨g, o, none⟩) len cap] w fun e w' => e = .returned (.agg (gZ 10 1 0 0)) ∧ w.grownBy w' none := by
  have hl8 : (0 : Int) < (len : Int) := by omega
  have hl9 : ((len : Int) == 0) = false := by simp; omega
  go_enter Try.func19, Try.ntmps19
  go_upto_region 1 with (first
    | (refine wpList_boxC _ rfl 46 _ rfl ((sK 28 29 true)) rfl ?_; intro x0 vbs hx0)
    | (refine wpList_allocC _ rfl 28 rfl (gZ 0 0 0 0) (zeroG _) ?_; intro w1 rs1 hgr))
  have hG1 : Hid (w.grownBy w1 none) := Hid.mk' (gt hx0 hgr)
  have vss1 := vbs.kept0 hgr
  have hB2 : Hid (w.heap.size ≤ x0.heap.size) := Hid.mk' (hx0.size)
  obtain ⟨Vs, hVs⟩ : ∃ V, Hid (w.heap.size = V) := ⟨_, Hid.mk' rfl⟩
  rw [hVs.out] at vss1
  rw [hVs.out]
  obtain ⟨B, hBe⟩ : ∃ B, Hid (x0.heap.size = B) := ⟨_, Hid.mk' rfl⟩
  replace hB2 : Hid (w.heap.size ≤ B) := Hid.mk' (by rw [← hBe.out]; exact hB2.out)
  rw [hBe.out] at rs1
  first | rw [hBe.out] | skip
  clear hx0 vbs hgr
  have y0 := hy0.out _ hG1.out; have cs0 := vss1.cell 0 rfl
  go_wp2_with (first
    | (go_at_call 18; refine (high_no c h1 _).mono ?_; rintro e w2 ⟨rfl, hg⟩; have rs2 := rs1.kept0 hg; have vss2 := vss1.kept0 hg; have hG2 : Hid (w.grownBy w2 none) := Hid.mk' (gt hG1.out hg); clear y0 cs0; have y0 := hy0.out _ hG2.out; have cs0 := vss2.cell 0 rfl; clear rs1 hg vss1)
    | (refine wpList_storeC _ rfl 28 _ _ rfl B (gZ 0 0 0 0) (gZ 10 1 0 0) infoG rfl (gC_one _ _ _ _ _ _ _ _ _) rfl rfl rs2 ?_; intro wz rsz hgz))
  refine bodyPost_ret (v := .agg (gZ 10 1 0 0)) (results_cell_row Try.results19 _ wz B 28 _ (0, 0) _ rfl rsz Try.underlying28 rfl infoG) rfl ⟨rfl, ?_⟩
  exact grownBy_new hG2.out hgz (fun k hk => by have h5 := Option.some.inj hk; have h6 := hB2.out; omega)
set_option maxRecDepth 100000 in
set_option maxHeartbeats 1000000 in
theorem gp_none81 (w : World) (b : Nat) (g o : Nat) (c : Nat) (hy0 : Hid (∀ wx, w.grownBy wx none → wx.cell? ⟨g, o, none⟩ = some (.int .u8 (c : Int)))) (len cap : Nat) (hl2 : len ≤ cap) (hl3 : cap ≤ 9223372036854775807) (hl1 : 0 < len) (h1 : 161 ≤ b) (hh2 : b ≤ 254) (h3 : 161 ≤ c) (h4 : c ≤ 254) (x y : Int) (hx : (b : Int) - 160 = x) (hyy : (c : Int) - 160 = y) (hR : Hid (C14.scP x y = none)) : Calls Try.prog 19 #[.agg (sK 28 29 true), .int .u8 (b : Int), .slice (some ⟨g, o, none⟩) len cap] w fun e w' => e = .returned (.agg (gZ 10 2 0 0)) ∧ w.grownBy w' none := by
  have hl8 : (0 : Int) < (len : Int) := by omega
  have hl9 : ((len : Int) == 0) = false := by simp; omega
  have e1 : (b : Int) - 160 = x := hx
  have e2 : (c : Int) - 160 = y := hyy
  have e5 : IntKind.i64.wrap (b : Int) = (b : Int) := by rw [IntKind.wrap_i64]; omega
  have e6 : IntKind.i64.wrap (c : Int) = (c : Int) := by rw [IntKind.wrap_i64]; omega
  have e3 : IntKind.i64.wrap x = x := by rw [IntKind.wrap_i64]; omega
  have e4 : IntKind.i64.wrap y = y := by rw [IntKind.wrap_i64]; omega
  go_enter Try.func19, Try.ntmps19
  go_upto_region 1 with (first
    | (refine wpList_boxC _ rfl 46 _ rfl ((sK 28 29 true)) rfl ?_; intro x0 vbs hx0)
    | (refine wpList_allocC _ rfl 28 rfl (gZ 0 0 0 0) (zeroG _) ?_; intro w1 rs1 hgr))
  have hG1 : Hid (w.grownBy w1 none) := Hid.mk' (gt hx0 hgr)
  have vss1 := vbs.kept0 hgr
  have hB2 : Hid (w.heap.size ≤ x0.heap.size) := Hid.mk' (hx0.size)
  obtain ⟨Vs, hVs⟩ : ∃ V, Hid (w.heap.size = V) := ⟨_, Hid.mk' rfl⟩
  rw [hVs.out] at vss1
  rw [hVs.out]
  obtain ⟨B, hBe⟩ : ∃ B, Hid (x0.heap.size = B) := ⟨_, Hid.mk' rfl⟩
  replace hB2 : Hid (w.heap.size ≤ B) := Hid.mk' (by rw [← hBe.out]; exact hB2.out)
  rw [hBe.out] at rs1
  first | rw [hBe.out] | skip
  clear hx0 vbs hgr
  have y0 := hy0.out _ hG1.out; have cs0 := vss1.cell 0 rfl
  go_upto_region 5 with (first
    | (go_at_call 18; refine (high_yes c h3 h4 _).mono ?_; rintro e w2 ⟨rfl, hg⟩; have rs2 := rs1.kept0 hg; have vss2 := vss1.kept0 hg; have hG2 : Hid (w.grownBy w2 none) := Hid.mk' (gt hG1.out hg); clear y0 cs0; have y0 := hy0.out _ hG2.out; have cs0 := vss2.cell 0 rfl; clear rs1 hg vss1))
  have hF : Hid (∀ wx, w2.grownBy wx none → wx.cell? ⟨Vs, 0, none⟩ = some (.func (.func 28) #[] #[])) := Hid.mk' (fun wx hgx => (vss2.kept0 hgx).cell 0 rfl)
  have hS : Hid (∀ wx, w2.grownBy wx none → wx.cell? ⟨g, o, none⟩ = some (.int .u8 (c : Int)) ∧ wx.cell? ⟨Vs, 0, none⟩ = some (.func (.func 28) #[] #[])) := Hid.mk' (fun wx hgx => ⟨hy0.out _ (gt hG2.out hgx), hF.out _ hgx⟩)
  have hS0 := hS.out _ (grownBy_refl _ _)
  have hSd := hS.out _ (grownBy_drew (grownBy_refl _ _))
  go_region_held3 (fun w' => w'.cell? ⟨g, o, none⟩ = some (.int .u8 (c : Int)) ∧ w'.cell? ⟨Vs, 0, none⟩ = some (.func (.func 28) #[] #[])) (first | assumption | exact hS0) (first
    | (go_at_call 28; refine (C14.pScalar x y (by unfold C14.I64; omega) _ none hR).mono ?_; rintro e w3 ⟨rfl, hg⟩; have hrs3 : Hid (CA w3 B 28 (gZ 0 0 0 0)) := Hid.mk' (rs2.kept0 (by (repeat (first | with_reducible exact grownBy_refl _ _ | (with_reducible refine gs ?_ ?_; first | omega | (simp; omega)) | with_reducible refine ga ?_ | with_reducible refine gd ?_ | with_reducible refine gdn ?_ | with_reducible refine gt ?_ (by assumption))))); have hvss3 : Hid (CA w3 Vs 46 ((sK 28 29 true))) := Hid.mk' (vss2.kept0 (by (repeat (first | with_reducible exact grownBy_refl _ _ | (with_reducible refine gs ?_ ?_; first | omega | (simp; omega)) | with_reducible refine ga ?_ | with_reducible refine gd ?_ | with_reducible refine gdn ?_ | with_reducible refine gt ?_ (by assumption))))); have hG3 : Hid (w.grownBy w3 none) := Hid.mk' (gt hG2.out (by (repeat (first | with_reducible exact grownBy_refl _ _ | (with_reducible refine gs ?_ ?_; first | omega | (simp; omega)) | with_reducible refine ga ?_ | with_reducible refine gd ?_ | with_reducible refine gdn ?_ | with_reducible refine gt ?_ (by assumption))))); have hS3 := hS.out w3 (by (repeat (first | with_reducible exact grownBy_refl _ _ | (with_reducible refine gs ?_ ?_; first | omega | (simp; omega)) | with_reducible refine ga ?_ | with_reducible refine gd ?_ | with_reducible refine gdn ?_ | with_reducible refine gt ?_ (by assumption))))))
  have rs3 := hrs3.out
  have vss3 := hvss3.out
  go_wp2_with (first
    | (refine wpList_storeC _ rfl 28 _ _ rfl B (gZ 0 0 0 0) (gZ 10 2 0 0) infoG rfl (gC_one _ _ _ _ _ _ _ _ _) rfl rfl rs3 ?_; intro wz rsz hgz))
  refine bodyPost_ret (v := .agg (gZ 10 2 0 0)) (results_cell_row Try.results19 _ wz B 28 _ (0, 0) _ rfl rsz Try.underlying28 rfl infoG) rfl ⟨rfl, ?_⟩
  exact grownBy_new hG3.out hgz (fun k hk => by have h5 := Option.some.inj hk; have h6 := hB2.out; omega)
set_option maxRecDepth 100000 in
set_option maxHeartbeats 1000000 in
theorem gp_some81 (w : World) (b : Nat) (g o : Nat) (c : Nat) (hy0 : Hid (∀ wx, w.grownBy wx none → wx.cell? ⟨g, o, none⟩ = some (.int .u8 (c : Int)))) (len cap : Nat) (hl2 : len ≤ cap) (hl3 : cap ≤ 9223372036854775807) (hl1 : 0 < len) (h1 : 161 ≤ b) (hh2 : b ≤ 254) (h3 : 161 ≤ c) (h4 : c ≤ 254) (x y : Int) (hx : (b : Int) - 160 = x) (hyy : (c : Int) - 160 = y) (m : Nat) (hR : Hid (C14.scP x y = (some m))) : Calls Try.prog 19 #[.agg (sK 28 29 true), .int .u8 (b : Int), .slice (some ⟨g, o, none⟩) len cap] w fun e w' => e = .returned (.agg (gZ 0 2 1 (m : Int))) ∧ w.grownBy w' none := by
  have hl8 : (0 : Int) < (len : Int) := by omega
  have hl9 : ((len : Int) == 0) = false := by simp; omega
  have e1 : (b : Int) - 160 = x := hx
  have e2 : (c : Int) - 160 = y := hyy
  have e5 : IntKind.i64.wrap (b : Int) = (b : Int) := by rw [IntKind.wrap_i64]; omega
  have e6 : IntKind.i64.wrap (c : Int) = (c : Int) := by rw [IntKind.wrap_i64]; omega
  have e3 : IntKind.i64.wrap x = x := by rw [IntKind.wrap_i64]; omega
  have e4 : IntKind.i64.wrap y = y := by rw [IntKind.wrap_i64]; omega
  go_enter Try.func19, Try.ntmps19
  go_upto_region 1 with (first
    | (refine wpList_boxC _ rfl 46 _ rfl ((sK 28 29 true)) rfl ?_; intro x0 vbs hx0)
    | (refine wpList_allocC _ rfl 28 rfl (gZ 0 0 0 0) (zeroG _) ?_; intro w1 rs1 hgr))
  have hG1 : Hid (w.grownBy w1 none) := Hid.mk' (gt hx0 hgr)
  have vss1 := vbs.kept0 hgr
  have hB2 : Hid (w.heap.size ≤ x0.heap.size) := Hid.mk' (hx0.size)
  obtain ⟨Vs, hVs⟩ : ∃ V, Hid (w.heap.size = V) := ⟨_, Hid.mk' rfl⟩
  rw [hVs.out] at vss1
  rw [hVs.out]
  obtain ⟨B, hBe⟩ : ∃ B, Hid (x0.heap.size = B) := ⟨_, Hid.mk' rfl⟩
  replace hB2 : Hid (w.heap.size ≤ B) := Hid.mk' (by rw [← hBe.out]; exact hB2.out)
  rw [hBe.out] at rs1
  first | rw [hBe.out] | skip
  clear hx0 vbs hgr
  have y0 := hy0.out _ hG1.out; have cs0 := vss1.cell 0 rfl
  go_upto_region 5 with (first
    | (go_at_call 18; refine (high_yes c h3 h4 _).mono ?_; rintro e w2 ⟨rfl, hg⟩; have rs2 := rs1.kept0 hg; have vss2 := vss1.kept0 hg; have hG2 : Hid (w.grownBy w2 none) := Hid.mk' (gt hG1.out hg); clear y0 cs0; have y0 := hy0.out _ hG2.out; have cs0 := vss2.cell 0 rfl; clear rs1 hg vss1))
  have hF : Hid (∀ wx, w2.grownBy wx none → wx.cell? ⟨Vs, 0, none⟩ = some (.func (.func 28) #[] #[])) := Hid.mk' (fun wx hgx => (vss2.kept0 hgx).cell 0 rfl)
  have hS : Hid (∀ wx, w2.grownBy wx none → wx.cell? ⟨g, o, none⟩ = some (.int .u8 (c : Int)) ∧ wx.cell? ⟨Vs, 0, none⟩ = some (.func (.func 28) #[] #[])) := Hid.mk' (fun wx hgx => ⟨hy0.out _ (gt hG2.out hgx), hF.out _ hgx⟩)
  have hS0 := hS.out _ (grownBy_refl _ _)
  have hSd := hS.out _ (grownBy_drew (grownBy_refl _ _))
  go_region_held3 (fun w' => w'.cell? ⟨g, o, none⟩ = some (.int .u8 (c : Int)) ∧ w'.cell? ⟨Vs, 0, none⟩ = some (.func (.func 28) #[] #[])) (first | assumption | exact hS0) (first
    | (go_at_call 28; refine (C14.pScalar x y (by unfold C14.I64; omega) _ (some m) hR).mono ?_; rintro e w3 ⟨rfl, hg⟩; have hrs3 : Hid (CA w3 B 28 (gZ 0 0 0 0)) := Hid.mk' (rs2.kept0 (by (repeat (first | with_reducible exact grownBy_refl _ _ | (with_reducible refine gs ?_ ?_; first | omega | (simp; omega)) | with_reducible refine ga ?_ | with_reducible refine gd ?_ | with_reducible refine gdn ?_ | with_reducible refine gt ?_ (by assumption))))); have hvss3 : Hid (CA w3 Vs 46 ((sK 28 29 true))) := Hid.mk' (vss2.kept0 (by (repeat (first | with_reducible exact grownBy_refl _ _ | (with_reducible refine gs ?_ ?_; first | omega | (simp; omega)) | with_reducible refine ga ?_ | with_reducible refine gd ?_ | with_reducible refine gdn ?_ | with_reducible refine gt ?_ (by assumption))))); have hG3 : Hid (w.grownBy w3 none) := Hid.mk' (gt hG2.out (by (repeat (first | with_reducible exact grownBy_refl _ _ | (with_reducible refine gs ?_ ?_; first | omega | (simp; omega)) | with_reducible refine ga ?_ | with_reducible refine gd ?_ | with_reducible refine gdn ?_ | with_reducible refine gt ?_ (by assumption))))); have hS3 := hS.out w3 (by (repeat (first | with_reducible exact grownBy_refl _ _ | (with_reducible refine gs ?_ ?_; first | omega | (simp; omega)) | with_reducible refine ga ?_ | with_reducible refine gd ?_ | with_reducible refine gdn ?_ | with_reducible refine gt ?_ (by assumption))))))
  have rs3 := hrs3.out
  have vss3 := hvss3.out
  go_wp2_with (first
    | (refine wpList_storeC _ rfl 28 _ _ rfl B (gZ 0 0 0 0) (gZ 0 2 1 (m : Int)) infoG rfl (gC_one _ _ _ _ _ _ _ _ _) rfl rfl rs3 ?_; intro wz rsz hgz))
  refine bodyPost_ret (v := .agg (gZ 0 2 1 (m : Int))) (results_cell_row Try.results19 _ wz B 28 _ (0, 0) _ rfl rsz Try.underlying28 rfl infoG) rfl ⟨rfl, ?_⟩
  exact grownBy_new hG3.out hgz (fun k hk => by have h5 := Option.some.inj hk; have h6 := hB2.out; omega)
set_option maxRecDepth 100000 in
set_option maxHeartbeats 1000000 in
theorem gp_one84 (w : World) (b : Nat) (ao : Option Addr) (cap : Nat) : Calls Try.prog 19 #[.agg (sK 30 31 false), .int .u8 (b : Int), .slice ao 0 cap] w fun e w' => e = .returned (.agg (gZ 1 0 0 0)) ∧ w.grownBy w' none := by
  go_enter Try.func19, Try.ntmps19
  go_upto_region 1 with (first
    | (refine wpList_boxC _ rfl 46 _ rfl ((sK 30 31 false)) rfl ?_; intro x0 vbs hx0)
    | (refine wpList_allocC _ rfl 28 rfl (gZ 0 0 0 0) (zeroG _) ?_; intro w1 rs1 hgr))
  have hG1 : Hid (w.grownBy w1 none) := Hid.mk' (gt hx0 hgr)
  have vss1 := vbs.kept0 hgr
  have hB2 : Hid (w.heap.size ≤ x0.heap.size) := Hid.mk' (hx0.size)
  obtain ⟨Vs, hVs⟩ : ∃ V, Hid (w.heap.size = V) := ⟨_, Hid.mk' rfl⟩
  rw [hVs.out] at vss1
  rw [hVs.out]
  obtain ⟨B, hBe⟩ : ∃ B, Hid (x0.heap.size = B) := ⟨_, Hid.mk' rfl⟩
  replace hB2 : Hid (w.heap.size ≤ B) := Hid.mk' (by rw [← hBe.out]; exact hB2.out)
  rw [hBe.out] at rs1
  first | rw [hBe.out] | skip
  clear hx0 vbs hgr
  have cs0 := vss1.cell 0 rfl
  go_wp2_with (first
    | (refine wpList_storeC _ rfl 28 _ _ rfl B (gZ 0 0 0 0) (gZ 1 0 0 0) infoG rfl (gC_one _ _ _ _ _ _ _ _ _) rfl rfl rs1 ?_; intro wz rsz hgz))
  refine bodyPost_ret (v := .agg (gZ 1 0 0 0)) (results_cell_row Try.results19 _ wz B 28 _ (0, 0) _ rfl rsz Try.underlying28 rfl infoG) rfl ⟨rfl, ?_⟩
  exact grownBy_new hG1.out hgz (fun k hk => by have h5 := Option.some.inj hk; have h6 := hB2.out; omega)
set_option maxRecDepth 100000 in
set_option maxHeartbeats 1000000 in
theorem gp_bad84 (w : World) (b : Nat) (g o : Nat) (c : Nat) (hy0 : Hid (∀ wx, w.grownBy wx none → wx.cell? ⟨g, o, none⟩ = some (.int .u8 (c : Int)))) (len cap : Nat) (hl2 : len ≤ cap) (hl3 : cap ≤ 9223372036854775807) (hl1 : 0 < len) (h1 : c < 161 ∨ 254 < c) : Calls Try.prog 19 #[.agg (sK 30 31 false), .int .u8 (b : Int), .slice (some ⟨g, o, none⟩) len cap] w fun e w' => e = .returned (.agg (gZ 10 1 0 0)) ∧ w.grownBy w' none := by
  have hl8 : (0 : Int) < (len : Int) := by omega
  have hl9 : ((len : Int) == 0) = false := by simp; omega
  go_enter Try.func19, Try.ntmps19
  go_upto_region 1 with (first
    | (refine wpList_boxC _ rfl 46 _ rfl ((sK 30 31 false)) rfl ?_; intro x0 vbs hx0)
    | (refine wpList_allocC _ rfl 28 rfl (gZ 0 0 0 0) (zeroG _) ?_; intro w1 rs1 hgr))
  have hG1 : Hid (w.grownBy w1 none) := Hid.mk' (gt hx0 hgr)
  have vss1 := vbs.kept0 hgr
  have hB2 : Hid (w.heap.size ≤ x0.heap.size) := Hid.mk' (hx0.size)
  obtain ⟨Vs, hVs⟩ : ∃ V, Hid (w.heap.size = V) := ⟨_, Hid.mk' rfl⟩
  rw [hVs.out] at vss1
  rw [hVs.out]
  obtain ⟨B, hBe⟩ : ∃ B, Hid (x0.heap.size = B) := ⟨_, Hid.mk' rfl⟩
  replace hB2 : Hid (w.heap.size ≤ B) := Hid.mk' (by rw [← hBe.out]; exact hB2.out)
  rw [hBe.out] at rs1
  first | rw [hBe.out] | skip
  clear hx0 vbs hgr
  have y0 := hy0.out _ hG1.out; have cs0 := vss1.cell 0 rfl
  go_wp2_with (first
    | (go_at_call 18; refine (high_no c h1 _).mono ?_; rintro e w2 ⟨rfl, hg⟩; have rs2 := rs1.kept0 hg; have vss2 := vss1.kept0 hg; have hG2 : Hid (w.grownBy w2 none) := Hid.mk' (gt hG1.out hg); clear y0 cs0; have y0 := hy0.out _ hG2.out; have cs0 := vss2.cell 0 rfl; clear rs1 hg vss1)
    | (refine wpList_storeC _ rfl 28 _ _ rfl B (gZ 0 0 0 0) (gZ 10 1 0 0) infoG rfl (gC_one _ _ _ _ _ _ _ _ _) rfl rfl rs2 ?_; intro wz rsz hgz))
  refine bodyPost_ret (v := .agg (gZ 10 1 0 0)) (results_cell_row Try.results19 _ wz B 28 _ (0, 0) _ rfl rsz Try.underlying28 rfl infoG) rfl ⟨rfl, ?_⟩
  exact grownBy_new hG2.out hgz (fun k hk => by have h5 := Option.some.inj hk; have h6 := hB2.out; omega)
set_option maxRecDepth 100000 in
set_option maxHeartbeats 1000000 in
theorem gp_none84 (w : World) (b : Nat) (g o : Nat) (c : Nat) (hy0 : Hid (∀ wx, w.grownBy wx none → wx.cell? ⟨g, o, none⟩ = some (.int .u8 (c : Int)))) (len cap : Nat) (hl2 : len ≤ cap) (hl3 : cap ≤ 9223372036854775807) (hl1 : 0 < len) (h1 : 161 ≤ b) (hh2 : b ≤ 254) (h3 : 161 ≤ c) (h4 : c ≤ 254) (x y : Int) (hx : (b : Int) - 160 = x) (hyy : (c : Int) - 160 = y) (hR : Hid (C15.scP x y = none)) : Calls Try.prog 19 #[.agg (sK 30 31 false), .int .u8 (b : Int), .slice (some ⟨g, o, none⟩) len cap] w fun e w' => e = .returned (.agg (gZ 10 2 0 0)) ∧ w.grownBy w' none := by
  have hl8 : (0 : Int) < (len : Int) := by omega
  have hl9 : ((len : Int) == 0) = false := by simp; omega
  have e1 : (b : Int) - 160 = x := hx
  have e2 : (c : Int) - 160 = y := hyy
  have e5 : IntKind.i64.wrap (b : Int) = (b : Int) := by rw [IntKind.wrap_i64]; omega
  have e6 : IntKind.i64.wrap (c : Int) = (c : Int) := by rw [IntKind.wrap_i64]; omega
  have e3 : IntKind.i64.wrap x = x := by rw [IntKind.wrap_i64]; omega
  have e4 : IntKind.i64.wrap y = y := by rw [IntKind.wrap_i64]; omega
  go_enter Try.func19, Try.ntmps19
  go_upto_region 1 with (first
    | (refine wpList_boxC _ rfl 46 _ rfl ((sK 30 31 false)) rfl ?_; intro x0 vbs hx0)
    | (refine wpList_allocC _ rfl 28 rfl (gZ 0 0 0 0) (zeroG _) ?_; intro w1 rs1 hgr))
  have hG1 : Hid (w.grownBy w1 none) := Hid.mk' (gt hx0 hgr)
  have vss1 := vbs.kept0 hgr
  have hB2 : Hid (w.heap.size ≤ x0.heap.size) := Hid.mk' (hx0.size)
  obtain ⟨Vs, hVs⟩ : ∃ V, Hid (w.heap.size = V) := ⟨_, Hid.mk' rfl⟩
  rw [hVs.out] at vss1
  rw [hVs.out]
  obtain ⟨B, hBe⟩ : ∃ B, Hid (x0.heap.size = B) := ⟨_, Hid.mk' rfl⟩
  replace hB2 : Hid (w.heap.size ≤ B) := Hid.mk' (by rw [← hBe.out]; exact hB2.out)
  rw [hBe.out] at rs1
  first | rw [hBe.out] | skip
  clear hx0 vbs hgr
  have y0 := hy0.out _ hG1.out; have cs0 := vss1.cell 0 rfl
  go_upto_region 5 with (first
    | (go_at_call 18; refine (high_yes c h3 h4 _).mono ?_; rintro e w2 ⟨rfl, hg⟩; have rs2 := rs1.kept0 hg; have vss2 := vss1.kept0 hg; have hG2 : Hid (w.grownBy w2 none) := Hid.mk' (gt hG1.out hg); clear y0 cs0; have y0 := hy0.out _ hG2.out; have cs0 := vss2.cell 0 rfl; clear rs1 hg vss1))
  have hF : Hid (∀ wx, w2.grownBy wx none → wx.cell? ⟨Vs, 0, none⟩ = some (.func (.func 30) #[] #[])) := Hid.mk' (fun wx hgx => (vss2.kept0 hgx).cell 0 rfl)
  have hS : Hid (∀ wx, w2.grownBy wx none → wx.cell? ⟨g, o, none⟩ = some (.int .u8 (c : Int)) ∧ wx.cell? ⟨Vs, 0, none⟩ = some (.func (.func 30) #[] #[])) := Hid.mk' (fun wx hgx => ⟨hy0.out _ (gt hG2.out hgx), hF.out _ hgx⟩)
  have hS0 := hS.out _ (grownBy_refl _ _)
  have hSd := hS.out _ (grownBy_drew (grownBy_refl _ _))
  go_region_held3 (fun w' => w'.cell? ⟨g, o, none⟩ = some (.int .u8 (c : Int)) ∧ w'.cell? ⟨Vs, 0, none⟩ = some (.func (.func 30) #[] #[])) (first | assumption | exact hS0) (first
    | (go_at_call 30; refine (C15.pScalar x y (by unfold C15.I64; omega) _ none hR).mono ?_; rintro e w3 ⟨rfl, hg⟩; have hrs3 : Hid (CA w3 B 28 (gZ 0 0 0 0)) := Hid.mk' (rs2.kept0 (by (repeat (first | with_reducible exact grownBy_refl _ _ | (with_reducible refine gs ?_ ?_; first | omega | (simp; omega)) | with_reducible refine ga ?_ | with_reducible refine gd ?_ | with_reducible refine gdn ?_ | with_reducible refine gt ?_ (by assumption))))); have hvss3 : Hid (CA w3 Vs 46 ((sK 30 31 false))) := Hid.mk' (vss2.kept0 (by (repeat (first | with_reducible exact grownBy_refl _ _ | (with_reducible refine gs ?_ ?_; first | omega | (simp; omega)) | with_reducible refine ga ?_ | with_reducible refine gd ?_ | with_reducible refine gdn ?_ | with_reducible refine gt ?_ (by assumption))))); have hG3 : Hid (w.grownBy w3 none) := Hid.mk' (gt hG2.out (by (repeat (first | with_reducible exact grownBy_refl _ _ | (with_reducible refine gs ?_ ?_; first | omega | (simp; omega)) | with_reducible refine ga ?_ | with_reducible refine gd ?_ | with_reducible refine gdn ?_ | with_reducible refine gt ?_ (by assumption))))); have hS3 := hS.out w3 (by (repeat (first | with_reducible exact grownBy_refl _ _ | (with_reducible refine gs ?_ ?_; first | omega | (simp; omega)) | with_reducible refine ga ?_ | with_reducible refine gd ?_ | with_reducible refine gdn ?_ | with_reducible refine gt ?_ (by assumption))))))
  have rs3 := hrs3.out
  have vss3 := hvss3.out
  go_wp2_with (first
    | (refine wpList_storeC _ rfl 28 _ _ rfl B (gZ 0 0 0 0) (gZ 10 2 0 0) infoG rfl (gC_one _ _ _ _ _ _ _ _ _) rfl rfl rs3 ?_; intro wz rsz hgz))
  refine bodyPost_ret (v := .agg (gZ 10 2 0 0)) (results_cell_row Try.results19 _ wz B 28 _ (0, 0) _ rfl rsz Try.underlying28 rfl infoG) rfl ⟨rfl, ?_⟩
  exact grownBy_new hG3.out hgz (fun k hk => by have h5 := Option.some.inj hk; have h6 := hB2.out; omega)
set_option maxRecDepth 100000 in
set_option maxHeartbeats 1000000 in
theorem gp_some84 (w : World) (b : Nat) (g o : Nat) (c : Nat) (hy0 : Hid (∀ wx, w.grownBy wx none → wx.cell? ⟨g, o, none⟩ = some (.int .u8 (c : Int)))) (len cap : Nat) (hl2 : len ≤ cap) (hl3 : cap ≤ 9223372036854775807) (hl1 : 0 < len) (h1 : 161 ≤ b) (hh2 : b ≤ 254) (h3 : 161 ≤ c) (h4 : c ≤ 254) (x y : Int) (hx : (b : Int) - 160 = x) (hyy : (c : Int) - 160 = y) (m : Nat) (hR : Hid (C15.scP x y = (some m))) : Calls Try.prog 19 #[.agg (sK 30 31 false), .int .u8 (b : Int), .slice (some ⟨g, o, none⟩) len cap] w fun e w' => e = .returned (.agg (gZ 0 2 1 (m : Int))) ∧ w.grownBy w' none := by
  have hl8 : (0 : Int) < (len : Int) := by omega
  have hl9 : ((len : Int) == 0) = false := by simp; omega
  have e1 : (b : Int) - 160 = x := hx
  have e2 : (c : Int) - 160 = y := hyy
  have e5 : IntKind.i64.wrap (b : Int) = (b : Int) := by rw [IntKind.wrap_i64]; omega
  have e6 : IntKind.i64.wrap (c : Int) = (c : Int) := by rw [IntKind.wrap_i64]; omega
  have e3 : IntKind.i64.wrap x = x := by rw [IntKind.wrap_i64]; omega
  have e4 : IntKind.i64.wrap y = y := by rw [IntKind.wrap_i64]; omega
  go_enter Try.func19, Try.ntmps19
  go_upto_region 1 with (first
    | (refine wpList_boxC _ rfl 46 _ rfl ((sK 30 31 false)) rfl ?_; intro x0 vbs hx0)
    | (refine wpList_allocC _ rfl 28 rfl (gZ 0 0 0 0) (zeroG _) ?_; intro w1 rs1 hgr))
  have hG1 : Hid (w.grownBy w1 none) := Hid.mk' (gt hx0 hgr)
  have vss1 := vbs.kept0 hgr
  have hB2 : Hid (w.heap.size ≤ x0.heap.size) := Hid.mk' (hx0.size)
  obtain ⟨Vs, hVs⟩ : ∃ V, Hid (w.heap.size = V) := ⟨_, Hid.mk' rfl⟩
  rw [hVs.out] at vss1
  rw [hVs.out]
  obtain ⟨B, hBe⟩ : ∃ B, Hid (x0.heap.size = B) := ⟨_, Hid.mk' rfl⟩
  replace hB2 : Hid (w.heap.size ≤ B) := Hid.mk' (by rw [← hBe.out]; exact hB2.out)
  rw [hBe.out] at rs1
  first | rw [hBe.out] | skip
  clear hx0 vbs hgr
  have y0 := hy0.out _ hG1.out; have cs0 := vss1.cell 0 rfl
  go_upto_region 5 with (first
    | (go_at_call 18; refine (high_yes c h3 h4 _).mono ?_; rintro e w2 ⟨rfl, hg⟩; have rs2 := rs1.kept0 hg; have vss2 := vss1.kept0 hg; have hG2 : Hid (w.grownBy w2 none) := Hid.mk' (gt hG1.out hg); clear y0 cs0; have y0 := hy0.out _ hG2.out; have cs0 := vss2.cell 0 rfl; clear rs1 hg vss1))
  have hF : Hid (∀ wx, w2.grownBy wx none → wx.cell? ⟨Vs, 0, none⟩ = some (.func (.func 30) #[] #[])) := Hid.mk' (fun wx hgx => (vss2.kept0 hgx).cell 0 rfl)
  have hS : Hid (∀ wx, w2.grownBy wx none → wx.cell? ⟨g, o, none⟩ = some (.int .u8 (c : Int)) ∧ wx.cell? ⟨Vs, 0, none⟩ = some (.func (.func 30) #[] #[])) := Hid.mk' (fun wx hgx => ⟨hy0.out _ (gt hG2.out hgx), hF.out _ hgx⟩)
  have hS0 := hS.out _ (grownBy_refl _ _)
  have hSd := hS.out _ (grownBy_drew (grownBy_refl _ _))
  go_region_held3 (fun w' => w'.cell? ⟨g, o, none⟩ = some (.int .u8 (c : Int)) ∧ w'.cell? ⟨Vs, 0, none⟩ = some (.func (.func 30) #[] #[])) (first | assumption | exact hS0) (first
    | (go_at_call 30; refine (C15.pScalar x y (by unfold C15.I64; omega) _ (some m) hR).mono ?_; rintro e w3 ⟨rfl, hg⟩; have hrs3 : Hid (CA w3 B 28 (gZ 0 0 0 0)) := Hid.mk' (rs2.kept0 (by (repeat (first | with_reducible exact grownBy_refl _ _ | (with_reducible refine gs ?_ ?_; first | omega | (simp; omega)) | with_reducible refine ga ?_ | with_reducible refine gd ?_ | with_reducible refine gdn ?_ | with_reducible refine gt ?_ (by assumption))))); have hvss3 : Hid (CA w3 Vs 46 ((sK 30 31 false))) := Hid.mk' (vss2.kept0 (by (repeat (first | with_reducible exact grownBy_refl _ _ | (with_reducible refine gs ?_ ?_; first | omega | (simp; omega)) | with_reducible refine ga ?_ | with_reducible refine gd ?_ | with_reducible refine gdn ?_ | with_reducible refine gt ?_ (by assumption))))); have hG3 : Hid (w.grownBy w3 none) := Hid.mk' (gt hG2.out (by (repeat (first | with_reducible exact grownBy_refl _ _ | (with_reducible refine gs ?_ ?_; first | omega | (simp; omega)) | with_reducible refine ga ?_ | with_reducible refine gd ?_ | with_reducible refine gdn ?_ | with_reducible refine gt ?_ (by assumption))))); have hS3 := hS.out w3 (by (repeat (first | with_reducible exact grownBy_refl _ _ | (with_reducible refine gs ?_ ?_; first | omega | (simp; omega)) | with_reducible refine ga ?_ | with_reducible refine gd ?_ | with_reducible refine gdn ?_ | with_reducible refine gt ?_ (by assumption))))))
  have rs3 := hrs3.out
  have vss3 := hvss3.out
  go_wp2_with (first
    | (refine wpList_storeC _ rfl 28 _ _ rfl B (gZ 0 0 0 0) (gZ 0 2 1 (m : Int)) infoG rfl (gC_one _ _ _ _ _ _ _ _ _) rfl rfl rs3 ?_; intro wz rsz hgz))
  refine bodyPost_ret (v := .agg (gZ 0 2 1 (m : Int))) (results_cell_row Try.results19 _ wz B 28 _ (0, 0) _ rfl rsz Try.underlying28 rfl infoG) rfl ⟨rfl, ?_⟩
  exact grownBy_new hG3.out hgz (fun k hk => by have h5 := Option.some.inj hk; have h6 := hB2.out; omega)
set_option maxRecDepth 100000 in
set_option maxHeartbeats 1000000 in
theorem gp_one86 (w : World) (b : Nat) (ao : Option Addr) (cap : Nat) : Calls Try.prog 19 #[.agg (sK 32 33 false), .int .u8 (b : Int), .slice ao 0 cap] w fun e w' => e = .returned (.agg (gZ 1 0 0 0)) ∧ w.grownBy w' none := by
  go_enter Try.func19, Try.ntmps19
  go_upto_region 1 with (first
    | (refine wpList_boxC _ rfl 46 _ rfl ((sK 32 33 false)) rfl ?_; intro x0 vbs hx0)
    | (refine wpList_allocC _ rfl 28 rfl (gZ 0 0 0 0) (zeroG _) ?_; intro w1 rs1 hgr))
  have hG1 : Hid (w.grownBy w1 none) := Hid.mk' (gt hx0 hgr)
  have vss1 := vbs.kept0 hgr
  have hB2 : Hid (w.heap.size ≤ x0.heap.size) := Hid.mk' (hx0.size)
  obtain ⟨Vs, hVs⟩ : ∃ V, Hid (w.heap.size = V) := ⟨_, Hid.mk' rfl⟩
  rw [hVs.out] at vss1
  rw [hVs.out]
  obtain ⟨B, hBe⟩ : ∃ B, Hid (x0.heap.size = B) := ⟨_, Hid.mk' rfl⟩
  replace hB2 : Hid (w.heap.size ≤ B) := Hid.mk' (by rw [← hBe.out]; exact hB2.out)
  rw [hBe.out] at rs1
  first | rw [hBe.out] | skip
  clear hx0 vbs hgr
  have cs0 := vss1.cell 0 rfl
  go_wp2_with (first
    | (refine wpList_storeC _ rfl 28 _ _ rfl B (gZ 0 0 0 0) (gZ 1 0 0 0) infoG rfl (gC_one _ _ _ _ _ _ _ _ _) rfl rfl rs1 ?_; intro wz rsz hgz))
  refine bodyPost_ret (v := .agg (gZ 1 0 0 0)) (results_cell_row Try.results19 _ wz B 28 _ (0, 0) _ rfl rsz Try.underlying28 rfl infoG) rfl ⟨rfl, ?_⟩
  exact grownBy_new hG1.out hgz (fun k hk => by have h5 := Option.some.inj hk; have h6 := hB2.out; omega)
set_option maxRecDepth 100000 in
set_option maxHeartbeats 1000000 in
theorem gp_bad86 (w : World) (b : Nat) (g o : Nat) (c : Nat) (hy0 : Hid (∀ wx, w.grownBy wx none → wx.cell? ⟨g, o, none⟩ = some (.int .u8 (c : Int)))) (len cap : Nat) (hl2 : len ≤ cap) (hl3 : cap ≤ 9223372036854775807) (hl1 : 0 < len) (h1 : c < 161 ∨ 254 < c) : Calls Try.prog 19 #[.agg (sK 32 33 false), .int .u8 (b : Int), .slice (some ⟨g, o, none⟩) len cap] w fun e w' => e = .returned (.agg (gZ 10 1 0 0)) ∧ w.grownBy w' none := by
  have hl8 : (0 : Int) < (len : Int) := by omega
  have hl9 : ((len : Int) == 0) = false := by simp; omega
  go_enter Try.func19, Try.ntmps19
  go_upto_region 1 with (first
    | (refine wpList_boxC _ rfl 46 _ rfl ((sK 32 33 false)) rfl ?_; intro x0 vbs hx0)
    | (refine wpList_allocC _ rfl 28 rfl (gZ 0 0 0 0) (zeroG _) ?_; intro w1 rs1 hgr))
  have hG1 : Hid (w.grownBy w1 none) := Hid.mk' (gt hx0 hgr)
  have vss1 := vbs.kept0 hgr
  have hB2 : Hid (w.heap.size ≤ x0.heap.size) := Hid.mk' (hx0.size)
  obtain ⟨Vs, hVs⟩ : ∃ V, Hid (w.heap.size = V) := ⟨_, Hid.mk' rfl⟩
  rw [hVs.out] at vss1
  rw [hVs.out]
  obtain ⟨B, hBe⟩ : ∃ B, Hid (x0.heap.size = B) := ⟨_, Hid.mk' rfl⟩
  replace hB2 : Hid (w.heap.size ≤ B) := Hid.mk' (by rw [← hBe.out]; exact hB2.out)
  rw [hBe.out] at rs1
  first | rw [hBe.out] | skip
  clear hx0 vbs hgr
  have y0 := hy0.out _ hG1.out; have cs0 := vss1.cell 0 rfl
  go_wp2_with (first
    | (go_at_call 18; refine (high_no c h1 _).mono ?_; rintro e w2 ⟨rfl, hg⟩; have rs2 := rs1.kept0 hg; have vss2 := vss1.kept0 hg; have hG2 : Hid (w.grownBy w2 none) := Hid.mk' (gt hG1.out hg); clear y0 cs0; have y0 := hy0.out _ hG2.out; have cs0 := vss2.cell 0 rfl; clear rs1 hg vss1)
    | (refine wpList_storeC _ rfl 28 _ _ rfl B (gZ 0 0 0 0) (gZ 10 1 0 0) infoG rfl (gC_one _ _ _ _ _ _ _ _ _) rfl rfl rs2 ?_; intro wz rsz hgz))
  refine bodyPost_ret (v := .agg (gZ 10 1 0 0)) (results_cell_row Try.results19 _ wz B 28 _ (0, 0) _ rfl rsz Try.underlying28 rfl infoG) rfl ⟨rfl, ?_⟩
  exact grownBy_new hG2.out hgz (fun k hk => by have h5 := Option.some.inj hk; have h6 := hB2.out; omega)
set_option maxRecDepth 100000 in
set_option maxHeartbeats 1000000 in
theorem gp_none86 (w : World) (b : Nat) (g o : Nat) (c : Nat) (hy0 : Hid (∀ wx, w.grownBy wx none → wx.cell? ⟨g, o, none⟩ = some (.int .u8 (c : Int)))) (len cap : Nat) (hl2 : len ≤ cap) (hl3 : cap ≤ 9223372036854775807) (hl1 : 0 < len) (h1 : 161 ≤ b) (hh2 : b ≤ 254) (h3 : 161 ≤ c) (h4 : c ≤ 254) (x y : Int) (hx : (b : Int) - 160 = x) (hyy : (c : Int) - 160 = y) (hR : Hid (C16.scP x y = none)) : Calls Try.prog 19 #[.agg (sK 32 33 false), .int .u8 (b : Int), .slice (some ⟨g, o, none⟩) len cap] w fun e w' => e = .returned (.agg (gZ 10 2 0 0)) ∧ w.grownBy w' none := by
  have hl8 : (0 : Int) < (len : Int) := by omega
  have hl9 : ((len : Int) == 0) = false := by simp; omega
  have e1 : (b : Int) - 160 = x := hx
  have e2 : (c : Int) - 160 = y := hyy
  have e5 : IntKind.i64.wrap (b : Int) = (b : Int) := by rw [IntKind.wrap_i64]; omega
  have e6 : IntKind.i64.wrap (c : Int) = (c : Int) := by rw [IntKind.wrap_i64]; omega
  have e3 : IntKind.i64.wrap x = x := by rw [IntKind.wrap_i64]; omega
  have e4 : IntKind.i64.wrap y = y := by rw [IntKind.wrap_i64]; omega
  go_enter Try.func19, Try.ntmps19
  go_upto_region 1 with (first
    | (refine wpList_boxC _ rfl 46 _ rfl ((sK 32 33 false)) rfl ?_; intro x0 vbs hx0)
    | (refine wpList_allocC _ rfl 28 rfl (gZ 0 0 0 0) (zeroG _) ?_; intro w1 rs1 hgr))
  have hG1 : Hid (w.grownBy w1 none) := Hid.mk' (gt hx0 hgr)
  have vss1 := vbs.kept0 hgr
  have hB2 : Hid (w.heap.size ≤ x0.heap.size) := Hid.mk' (hx0.size)
  obtain ⟨Vs, hVs⟩ : ∃ V, Hid (w.heap.size = V) := ⟨_, Hid.mk' rfl⟩
  rw [hVs.out] at vss1
  rw [hVs.out]
  obtain ⟨B, hBe⟩ : ∃ B, Hid (x0.heap.size = B) := ⟨_, Hid.mk' rfl⟩
  replace hB2 : Hid (w.heap.size ≤ B) := Hid.mk' (by rw [← hBe.out]; exact hB2.out)
  rw [hBe.out] at rs1
  first | rw [hBe.out] | skip
  clear hx0 vbs hgr
  have y0 := hy0.out _ hG1.out; have cs0 := vss1.cell 0 rfl
  go_upto_region 5 with (first
    | (go_at_call 18; refine (high_yes c h3 h4 _).mono ?_; rintro e w2 ⟨rfl, hg⟩; have rs2 := rs1.kept0 hg; have vss2 := vss1.kept0 hg; have hG2 : Hid (w.grownBy w2 none) := Hid.mk' (gt hG1.out hg); clear y0 cs0; have y0 := hy0.out _ hG2.out; have cs0 := vss2.cell 0 rfl; clear rs1 hg vss1))
  have hF : Hid (∀ wx, w2.grownBy wx none → wx.cell? ⟨Vs, 0, none⟩ = some (.func (.func 32) #[] #[])) := Hid.mk' (fun wx hgx => (vss2.kept0 hgx).cell 0 rfl)
  have hS : Hid (∀ wx, w2.grownBy wx none → wx.cell? ⟨g, o, none⟩ = some (.int .u8 (c : Int)) ∧ wx.cell? ⟨Vs, 0, none⟩ = some (.func (.func 32) #[] #[])) := Hid.mk' (fun wx hgx => ⟨hy0.out _ (gt hG2.out hgx), hF.out _ hgx⟩)
  have hS0 := hS.out _ (grownBy_refl _ _)
  have hSd := hS.out _ (grownBy_drew (grownBy_refl _ _))
  go_region_held3 (fun w' => w'.cell? ⟨g, o, none⟩ = some (.int .u8 (c : Int)) ∧ w'.cell? ⟨Vs, 0, none⟩ = some (.func (.func 32) #[] #[])) (first | assumption | exact hS0) (first
    | (go_at_call 32; refine (C16.pScalar x y (by unfold C16.I64; omega) _ none hR).mono ?_; rintro e w3 ⟨rfl, hg⟩; have hrs3 : Hid (CA w3 B 28 (gZ 0 0 0 0)) := Hid.mk' (rs2.kept0 (by (repeat (first | with_reducible exact grownBy_refl _ _ | (with_reducible refine gs ?_ ?_; first | omega | (simp; omega)) | with_reducible refine ga ?_ | with_reducible refine gd ?_ | with_reducible refine gdn ?_ | with_reducible refine gt ?_ (by assumption))))); have hvss3 : Hid (CA w3 Vs 46 ((sK 32 33 false))) := Hid.mk' (vss2.kept0 (by (repeat (first | with_reducible exact grownBy_refl _ _ | (with_reducible refine gs ?_ ?_; first | omega | (simp; omega)) | with_reducible refine ga ?_ | with_reducible refine gd ?_ | with_reducible refine gdn ?_ | with_reducible refine gt ?_ (by assumption))))); have hG3 : Hid (w.grownBy w3 none) := Hid.mk' (gt hG2.out (by (repeat (first | with_reducible exact grownBy_refl _ _ | (with_reducible refine gs ?_ ?_; first | omega | (simp; omega)) | with_reducible refine ga ?_ | with_reducible refine gd ?_ | with_reducible refine gdn ?_ | with_reducible refine gt ?_ (by assumption))))); have hS3 := hS.out w3 (by (repeat (first | with_reducible exact grownBy_refl _ _ | (with_reducible refine gs ?_ ?_; first | omega | (simp; omega)) | with_reducible refine ga ?_ | with_reducible refine gd ?_ | with_reducible refine gdn ?_ | with_reducible refine gt ?_ (by assumption))))))
  have rs3 := hrs3.out
  have vss3 := hvss3.out
  go_wp2_with (first
    | (refine wpList_storeC _ rfl 28 _ _ rfl B (gZ 0 0 0 0) (gZ 10 2 0 0) infoG rfl (gC_one _ _ _ _ _ _ _ _ _) rfl rfl rs3 ?_; intro wz rsz hgz))
  refine bodyPost_ret (v := .agg (gZ 10 2 0 0)) (results_cell_row Try.results19 _ wz B 28 _ (0, 0) _ rfl rsz Try.underlying28 rfl infoG) rfl ⟨rfl, ?_⟩
  exact grownBy_new hG3.out hgz (fun k hk => by have h5 := Option.some.inj hk; have h6 := hB2.out; omega)
set_option maxRecDepth 100000 in
set_option maxHeartbeats 1000000 in
theorem gp_some86 (w : World) (b : Nat) (g o : Nat) (c : Nat) (hy0 : Hid (∀ wx, w.grownBy wx none → wx.cell? ⟨g, o, none⟩ = some (.int .u8 (c : Int)))) (len cap : Nat) (hl2 : len ≤ cap) (hl3 : cap ≤ 9223372036854775807) (hl1 : 0 < len) (h1 : 161 ≤ b) (hh2 : b ≤ 254) (h3 : 161 ≤ c) (h4 : c ≤ 254) (x y : Int) (hx : (b : Int) - 160 = x) (hyy : (c : Int) - 160 = y) (m : Nat) (hR : Hid (C16.scP x y = (some m))) : Calls Try.prog 19 #[.agg (sK 32 33 false), .int .u8 (b : Int), .slice (some ⟨g, o, none⟩) len cap] w fun e w' => e = .returned (.agg (gZ 0 2 1 (m : Int))) ∧ w.grownBy w' none := by
  have hl8 : (0 : Int) < (len : Int) := by omega
  have hl9 : ((len : Int) == 0) = false := by simp; omega
  have e1 : (b : Int) - 160 = x := hx
  have e2 : (c : Int) - 160 = y := hyy
  have e5 : IntKind.i64.wrap (b : Int) = (b : Int) := by rw [IntKind.wrap_i64]; omega
  have e6 : IntKind.i64.wrap (c : Int) = (c : Int) := by rw [IntKind.wrap_i64]; omega
  have e3 : IntKind.i64.wrap x = x := by rw [IntKind.wrap_i64]; omega
  have e4 : IntKind.i64.wrap y = y := by rw [IntKind.wrap_i64]; omega
  go_enter Try.func19, Try.ntmps19
  go_upto_region 1 with (first
    | (refine wpList_boxC _ rfl 46 _ rfl ((sK 32 33 false)) rfl ?_; intro x0 vbs hx0)
    | (refine wpList_allocC _ rfl 28 rfl (gZ 0 0 0 0) (zeroG _) ?_; intro w1 rs1 hgr))
  have hG1 : Hid (w.grownBy w1 none) := Hid.mk' (gt hx0 hgr)
  have vss1 := vbs.kept0 hgr
  have hB2 : Hid (w.heap.size ≤ x0.heap.size) := Hid.mk' (hx0.size)
  obtain ⟨Vs, hVs⟩ : ∃ V, Hid (w.heap.size = V) := ⟨_, Hid.mk' rfl⟩
  rw [hVs.out] at vss1
  rw [hVs.out]
  obtain ⟨B, hBe⟩ : ∃ B, Hid (x0.heap.size = B) := ⟨_, Hid.mk' rfl⟩
  replace hB2 : Hid (w.heap.size ≤ B) := Hid.mk' (by rw [← hBe.out]; exact hB2.out)
  rw [hBe.out] at rs1
  first | rw [hBe.out] | skip
  clear hx0 vbs hgr
  have y0 := hy0.out _ hG1.out; have cs0 := vss1.cell 0 rfl
  go_upto_region 5 with (first
    | (go_at_call 18; refine (high_yes c h3 h4 _).mono ?_; rintro e w2 ⟨rfl, hg⟩; have rs2 := rs1.kept0 hg; have vss2 := vss1.kept0 hg; have hG2 : Hid (w.grownBy w2 none) := Hid.mk' (gt hG1.out hg); clear y0 cs0; have y0 := hy0.out _ hG2.out; have cs0 := vss2.cell 0 rfl; clear rs1 hg vss1))
  have hF : Hid (∀ wx, w2.grownBy wx none → wx.cell? ⟨Vs, 0, none⟩ = some (.func (.func 32) #[] #[])) := Hid.mk' (fun wx hgx => (vss2.kept0 hgx).cell 0 rfl)
  have hS : Hid (∀ wx, w2.grownBy wx none → wx.cell? ⟨g, o, none⟩ = some (.int .u8 (c : Int)) ∧ wx.cell? ⟨Vs, 0, none⟩ = some (.func (.func 32) #[] #[])) := Hid.mk' (fun wx hgx => ⟨hy0.out _ (gt hG2.out hgx), hF.out _ hgx⟩)
  have hS0 := hS.out _ (grownBy_refl _ _)
  have hSd := hS.out _ (grownBy_drew (grownBy_refl _ _))
  go_region_held3 (fun w' => w'.cell? ⟨g, o, none⟩ = some (.int .u8 (c : Int)) ∧ w'.cell? ⟨Vs, 0, none⟩ = some (.func (.func 32) #[] #[])) (first | assumption | exact hS0) (first
    | (go_at_call 32; refine (C16.pScalar x y (by unfold C16.I64; omega) _ (some m) hR).mono ?_; rintro e w3 ⟨rfl, hg⟩; have hrs3 : Hid (CA w3 B 28 (gZ 0 0 0 0)) := Hid.mk' (rs2.kept0 (by (repeat (first | with_reducible exact grownBy_refl _ _ | (with_reducible refine gs ?_ ?_; first | omega | (simp; omega)) | with_reducible refine ga ?_ | with_reducible refine gd ?_ | with_reducible refine gdn ?_ | with_reducible refine gt ?_ (by assumption))))); have hvss3 : Hid (CA w3 Vs 46 ((sK 32 33 false))) := Hid.mk' (vss2.kept0 (by (repeat (first | with_reducible exact grownBy_refl _ _ | (with_reducible refine gs ?_ ?_; first | omega | (simp; omega)) | with_reducible refine ga ?_ | with_reducible refine gd ?_ | with_reducible refine gdn ?_ | with_reducible refine gt ?_ (by assumption))))); have hG3 : Hid (w.grownBy w3 none) := Hid.mk' (gt hG2.out (by (repeat (first | with_reducible exact grownBy_refl _ _ | (with_reducible refine gs ?_ ?_; first | omega | (simp; omega)) | with_reducible refine ga ?_ | with_reducible refine gd ?_ | with_reducible refine gdn ?_ | with_reducible refine gt ?_ (by assumption))))); have hS3 := hS.out w3 (by (repeat (first | with_reducible exact grownBy_refl _ _ | (with_reducible refine gs ?_ ?_; first | omega | (simp; omega)) | with_reducible refine ga ?_ | with_reducible refine gd ?_ | with_reducible refine gdn ?_ | with_reducible refine gt ?_ (by assumption))))))
  have rs3 := hrs3.out
  have vss3 := hvss3.out
  go_wp2_with (first
    | (refine wpList_storeC _ rfl 28 _ _ rfl B (gZ 0 0 0 0) (gZ 0 2 1 (m : Int)) infoG rfl (gC_one _ _ _ _ _ _ _ _ _) rfl rfl rs3 ?_; intro wz rsz hgz))
  refine bodyPost_ret (v := .agg (gZ 0 2 1 (m : Int))) (results_cell_row Try.results19 _ wz B 28 _ (0, 0) _ rfl rsz Try.underlying28 rfl infoG) rfl ⟨rfl, ?_⟩
  exact grownBy_new hG3.out hgz (fun k hk => by have h5 := Option.some.inj hk; have h6 := hB2.out; omega)
end Go.Proofs.Ytcbjkamjkaiofaa.C17

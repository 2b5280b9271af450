/- IRg21, IQ21, IZ21, joined. -/
import Derived.Test.YtdobjijebalkkaaIRa21
import Derived.Test.YtdobjijebalkkaaIR21
import Derived.Test.YtdobjijebalkkaaIRs21
import Derived.Test.YtdobjijebalkkaaGf21
import Derived.Test.YtdobjijebalkkaaIW21
import Derived.Test.YtdobjijebalkkaaIJ21
import Derived.Test.YtdobjijebalkkaaIBj21
import Derived.Test.YtdobjijebalkkaaIBk21
import Derived.Test.YtdobjijebalkkaaGi21
import Derived.Test.YtdobjijebalkkaaIL21
import Derived.Test.YtdobjijebalkkaaArgs
import Derived.Below
import Derived.Lib.SmallJoins
/- The program's itself, illegal, getOfRows, getJP and getKR of layer 21: walks. -/
namespace Go.Proofs.Ytdobjijebalkkaa.C21
open Go.ChangeShapes Go.WideShapes Go.ChangeAt Go.RowKit Go.Proofs.Ytdobjijebalkkaa.Mem Go.Proofs.Ytdobjijebalkkaa.Cb Go.Proofs.Ytdobjijebalkkaa.Sp
set_option linter.unusedVariables false
set_option linter.unusedSimpArgs false

set_option maxRecDepth 100000 in
set_option maxHeartbeats 1000000 in
theorem it_any (b : Nat) (hb : b < 256) (m : Int) (w : World) : Calls Try.prog 37 #[.int .u8 (b : Int), stV m 0 0 0] w fun e w' => e = .returned (.agg (gM 0 1 1 (b : Int) m)) ∧ w.grownBy w' none := by
  have p2 : IntKind.i32.wrap (b : Int) = (b : Int) := by rw [IntKind.wrap_i32]; omega
  go_enter Try.func37, Try.ntmps37
  go_upto_region 1 with (first
    | (refine wpList_boxC _ rfl 24 _ rfl (sC m 0 0 0) rfl ?_; intro w1 ss1 hg1)
    | (refine wpList_allocC _ rfl 28 rfl (gZ 0 0 0 0) (zeroG _) ?_; intro w2 rs2 hg2))
  have hG2 : Hid (w.grownBy w2 none) := Hid.mk' (gt hg1 hg2)
  have ss2 := ss1.kept0 hg2
  have hB2 : Hid (w.heap.size ≤ w1.heap.size) := Hid.mk' hg1.size
  clear hg1 hg2 ss1
  generalize w1.heap.size = B at *
  obtain ⟨SB, hSB⟩ : ∃ SB, Hid (w.heap.size = SB) := ⟨_, Hid.mk' rfl⟩
  rw [hSB.out] at ss2
  rw [hSB.out]
  have s0 := ss2.cell 0 rfl
  go_wp2_with (first
    | (refine wpList_loadC _ rfl 24 _ rfl _ Try.underlying24 rfl SB (sC m 0 0 0) infoS rfl ss2 ?_)
    | (refine wpList_storeC _ rfl 28 _ _ rfl B (gZ 0 0 0 0) (gM 0 1 1 (b : Int) m) infoG rfl (gC_one _ _ _ _ _ _ _ _ _) rfl rfl rs2 ?_; intro wz rsz hgz))
  refine bodyPost_ret (v := .agg (gM 0 1 1 (b : Int) m)) (results_cell_row Try.results37 _ wz B 28 _ (0, 0) _ rfl rsz Try.underlying28 rfl infoG) rfl ⟨rfl, ?_⟩
  exact grownBy_new hG2.out hgz (fun k hk => by have h5 := Option.some.inj hk; have h6 := hB2.out; omega)
set_option maxRecDepth 100000 in
set_option maxHeartbeats 1000000 in
theorem il_any (n m : Int) (w : World) : Calls Try.prog 21 #[.int .i64 n, stV m 0 0 0] w fun e w' => e = .returned (.agg (gM 10 n 0 0 m)) ∧ w.grownBy w' none := by
  go_enter Try.func21, Try.ntmps21
  go_upto_region 1 with (first
    | (refine wpList_boxC _ rfl 24 _ rfl (sC m 0 0 0) rfl ?_; intro w1 ss1 hg1)
    | (refine wpList_allocC _ rfl 28 rfl (gZ 0 0 0 0) (zeroG _) ?_; intro w2 rs2 hg2))
  have hG2 : Hid (w.grownBy w2 none) := Hid.mk' (gt hg1 hg2)
  have ss2 := ss1.kept0 hg2
  have hB2 : Hid (w.heap.size ≤ w1.heap.size) := Hid.mk' hg1.size
  clear hg1 hg2 ss1
  generalize w1.heap.size = B at *
  obtain ⟨SB, hSB⟩ : ∃ SB, Hid (w.heap.size = SB) := ⟨_, Hid.mk' rfl⟩
  rw [hSB.out] at ss2
  rw [hSB.out]
  have s0 := ss2.cell 0 rfl
  go_wp2_with (first
    | (refine wpList_loadC _ rfl 24 _ rfl _ Try.underlying24 rfl SB (sC m 0 0 0) infoS rfl ss2 ?_)
    | (refine wpList_storeC _ rfl 28 _ _ rfl B (gZ 0 0 0 0) (gM 10 n 0 0 m) infoG rfl (gC_one _ _ _ _ _ _ _ _ _) rfl rfl rs2 ?_; intro wz rsz hgz))
  refine bodyPost_ret (v := .agg (gM 10 n 0 0 m)) (results_cell_row Try.results21 _ wz B 28 _ (0, 0) _ rfl rsz Try.underlying28 rfl infoG) rfl ⟨rfl, ?_⟩
  exact grownBy_new hG2.out hgz (fun k hk => by have h5 := Option.some.inj hk; have h6 := hB2.out; omega)
set_option maxRecDepth 100000 in
set_option maxHeartbeats 1000000 in
theorem gr_itj (m : Int) (w : World) (g o : Nat) (b : Nat) (hb : b < 256) (hy0 : Hid (∀ wx, w.grownBy wx none → wx.cell? ⟨g, o, none⟩ = some (.int .u8 (b : Int)))) (len cap : Nat) (hl2 : len ≤ cap) (hl3 : cap ≤ 9223372036854775807) (hl1 : 0 < len) (h1 : b < 33 ∨ 126 < b) : Calls Try.prog 34 #[stV m 0 0 0, .slice (some ⟨g, o, none⟩) len cap, .func (.func 35) #[] #[]] w fun e w' => e = .returned (.agg (gM 0 1 1 (b : Int) m)) ∧ w.grownBy w' none := by
  have hl8 : (0 : Int) < (len : Int) := by omega
  go_enter Try.func34, Try.ntmps34
  go_upto_region 1 with (first
    | (refine wpList_boxC _ rfl 24 _ rfl (sC m 0 0 0) rfl ?_; intro x0 vbs hx0)
    | (refine wpList_allocC _ rfl 28 rfl (gZ 0 0 0 0) (zeroG _) ?_; intro w1 rs1 hgr))
  have hG1 : Hid (w.grownBy w1 none) := Hid.mk' (gt hx0 hgr)
  have vss1 := vbs.kept0 hgr
  have hB2 : Hid (w.heap.size ≤ x0.heap.size) := Hid.mk' (hx0.size)
  obtain ⟨Vs, hVs⟩ : ∃ V, Hid (w.heap.size = V) := ⟨_, Hid.mk' rfl⟩
  rw [hVs.out] at vss1
  rw [hVs.out]
  have hVB : Hid (Vs < x0.heap.size) := Hid.mk' (by rw [← hVs.out]; exact vbs.lt)
  obtain ⟨B, hBe⟩ : ∃ B, Hid (x0.heap.size = B) := ⟨_, Hid.mk' rfl⟩
  replace hB2 : Hid (w.heap.size ≤ B) := Hid.mk' (by rw [← hBe.out]; exact hB2.out)
  rw [hBe.out] at rs1 hVB
  first | rw [hBe.out] | skip
  clear hx0 vbs hgr
  have y0 := hy0.out _ hG1.out; have cs0 := vss1.cell 0 rfl
  go_upto_region 2 with (first
    | (go_at_call 50; refine (op_no b h1 _).mono ?_; rintro e w2 ⟨rfl, hg⟩; have rs2 := rs1.kept0 hg; have vss2 := vss1.kept0 hg; have hG2 : Hid (w.grownBy w2 none) := Hid.mk' (gt hG1.out hg); clear y0 cs0; have y0 := hy0.out _ hG2.out; have cs0 := vss2.cell 0 rfl; clear rs1 hg vss1))
  have hS : Hid (∀ wx, w2.grownBy wx none → wx.cell? ⟨g, o, none⟩ = some (.int .u8 (b : Int)) ∧ wx.cell? ⟨Vs, 0, none⟩ = some (.int .i64 m) ∧ wx.cell? ⟨Vs, 1, none⟩ = some (.int .i64 0) ∧ wx.cell? ⟨Vs, 2, none⟩ = some (.int .u32 0) ∧ wx.cell? ⟨Vs, 3, none⟩ = some (.int .i32 0)) := Hid.mk' (fun wx hgx => ⟨hy0.out _ (gt hG2.out hgx), (vss2.kept0 hgx).cell 0 rfl, (vss2.kept0 hgx).cell 1 rfl, (vss2.kept0 hgx).cell 2 rfl, (vss2.kept0 hgx).cell 3 rfl⟩)
  have hD2 : w2.grownBy w2.drew none := gd (grownBy_refl w2 none)
  refine wp_region_held_drew (S := fun wx => wx.cell? ⟨g, o, none⟩ = some (.int .u8 (b : Int)) ∧ wx.cell? ⟨Vs, 0, none⟩ = some (.int .i64 m) ∧ wx.cell? ⟨Vs, 1, none⟩ = some (.int .i64 0) ∧ wx.cell? ⟨Vs, 2, none⟩ = some (.int .u32 0) ∧ wx.cell? ⟨Vs, 3, none⟩ = some (.int .i32 0)) (by kernel_rfl) (hS.out _ hD2) (fun hHeld => ?_)
  refine wpAnyH_take (i := 0) (v := ?_) rfl (by kernel_rfl) (by kernel_rfl) (by kernel_rfl) (fun _ _ _ h => h) (Or.inl ⟨by rfl, ?_⟩) (by assumption) ?_; rotate_left
  · (intro w hSw; (try dsimp only at hSw); go_simp; try with_reducible rfl)
  try simp only [List.getElem_toArray, List.getElem_cons_zero, Act.put, List.setIfInBounds_toArray, List.set_cons_zero, List.set_cons_succ]
  refine wpAnyH_take (i := 1) (v := ?_) rfl (by kernel_rfl) (by kernel_rfl) (by kernel_rfl) (fun _ _ _ h => h) (Or.inl ⟨by rfl, ?_⟩) (by assumption) ?_; rotate_left
  · (intro w hSw; (try dsimp only at hSw); go_simp; try with_reducible rfl)
  try simp only [List.getElem_toArray, List.getElem_cons_zero, List.getElem_cons_succ, Act.put, List.setIfInBounds_toArray, List.set_cons_zero, List.set_cons_succ]
  refine wpAnyH_take (i := 2) (v := ?_) rfl (by kernel_rfl) (by kernel_rfl) (by kernel_rfl) (fun _ _ _ h => h) (Or.inl ⟨by rfl, ?_⟩) (by assumption) ?_; rotate_left
  · (intro w hSw; (try dsimp only at hSw); go_simp; try with_reducible rfl)
  try simp only [List.getElem_toArray, List.getElem_cons_zero, List.getElem_cons_succ, Act.put, List.setIfInBounds_toArray, List.set_cons_zero, List.set_cons_succ]
  refine wpAnyH_take (i := 3) (v := ?_) rfl (by kernel_rfl) (by kernel_rfl) (by kernel_rfl) (fun _ _ _ h => h) (Or.inl ⟨by rfl, ?_⟩) (by assumption) ?_; rotate_left
  · (intro w hSw; (try dsimp only at hSw); go_simp; try with_reducible rfl)
  try simp only [List.getElem_toArray, List.getElem_cons_zero, List.getElem_cons_succ, Act.put, List.setIfInBounds_toArray, List.set_cons_zero, List.set_cons_succ]
  refine wpAnyH_ready (rs := [4]) (by kernel_rfl) (by simp) ?_
  refine AllReadyH.cons rfl (fun K hK => ?_) AllReadyH.nil
  go_simp
  go_at_call 37; refine (it_any b hb m _).mono ?_; rintro e x4 ⟨rfl, hg⟩; have hx4 : w2.grownBy x4 none := gt hD2 hg
  refine hK.out _ _ (hS.out _ hx4) (fun hHeld => ?_)
  clear hK K
  try simp only [List.getElem_toArray, List.getElem_cons_zero, List.getElem_cons_succ, Act.put, List.setIfInBounds_toArray, List.set_cons_zero, List.set_cons_succ]
  refine wpAnyH_ready (rs := [5]) (by kernel_rfl) (by simp) ?_
  refine AllReadyH.cons rfl (fun K hK => ?_) AllReadyH.nil
  refine step_storeC (by rfl) 28 _ _ rfl B (gZ 0 0 0 0) (gM 0 1 1 (b : Int) m) infoG rfl (gC_one _ _ _ _ _ _ _ _ _) rfl rfl (rs2.kept0 hx4) ?_; intro wz rsz hgz; have vsz := (vss2.kept0 hx4).kept hgz (by intro e; have h5 := Option.some.inj e; have h6 := rs2.lt; have h7 := hVB.out; omega); have hb1 := World.block_lt_of_cell? w ⟨g, o, none⟩ (hy0.out _ (grownBy_refl _ _)); have hyz := hgz.cell (hy0.out _ (gt hG2.out hx4)) (by intro e; have h5 := Option.some.inj e; have h6 := hB2.out; have h7 : g < w.heap.size := hb1; have h8 : g = B := h5; omega)
  refine hK.out _ _ ⟨hyz, vsz.cell 0 rfl, vsz.cell 1 rfl, vsz.cell 2 rfl, vsz.cell 3 rfl⟩ (fun hHeld => ?_)
  clear hK K
  try simp only [List.getElem_toArray, List.getElem_cons_zero, List.getElem_cons_succ, Act.put, List.setIfInBounds_toArray, List.set_cons_zero, List.set_cons_succ]
  refine wpAnyH_done (by kernel_rfl) ?_ _
  (try go_wp2)
  refine bodyPost_ret (v := .agg (gM 0 1 1 (b : Int) m)) (results_cell_row Try.results34 _ wz B 28 _ (0, 0) _ rfl rsz Try.underlying28 rfl infoG) rfl ⟨rfl, ?_⟩
  exact grownBy_new (gt hG2.out hx4) hgz (fun k hk => by have h5 := Option.some.inj hk; have h6 := hB2.out; omega)
set_option maxRecDepth 100000 in
set_option maxHeartbeats 1000000 in
theorem gr_onej (m : Int) (w : World) (g o : Nat) (b : Nat) (hb : b < 256) (hy0 : Hid (∀ wx, w.grownBy wx none → wx.cell? ⟨g, o, none⟩ = some (.int .u8 (b : Int)))) (cap : Nat) (h0 : 1 ≤ cap) (hl3 : cap ≤ 9223372036854775807) (h1 : 33 ≤ b) (h2 : b ≤ 126) : Calls Try.prog 34 #[stV m 0 0 0, .slice (some ⟨g, o, none⟩) 1 cap, .func (.func 35) #[] #[]] w fun e w' => e = .returned (.agg (gM 1 0 0 0 0)) ∧ w.grownBy w' none := by
  go_enter Try.func34, Try.ntmps34
  go_upto_region 1 with (first
    | (refine wpList_boxC _ rfl 24 _ rfl (sC m 0 0 0) rfl ?_; intro x0 vbs hx0)
    | (refine wpList_allocC _ rfl 28 rfl (gZ 0 0 0 0) (zeroG _) ?_; intro w1 rs1 hgr))
  have hG1 : Hid (w.grownBy w1 none) := Hid.mk' (gt hx0 hgr)
  have vss1 := vbs.kept0 hgr
  have hB2 : Hid (w.heap.size ≤ x0.heap.size) := Hid.mk' (hx0.size)
  obtain ⟨Vs, hVs⟩ : ∃ V, Hid (w.heap.size = V) := ⟨_, Hid.mk' rfl⟩
  rw [hVs.out] at vss1
  rw [hVs.out]
  obtain ⟨B, hBe⟩ : ∃ B, Hid (x0.heap.size = B) := ⟨_, Hid.mk' rfl⟩
  replace hB2 : Hid (w.heap.size ≤ B) := Hid.mk' (by rw [← hBe.out]; exact hB2.out)
  rw [hBe.out] at rs1
  first | rw [hBe.out] | skip
  clear hx0 vbs hgr
  have y0 := hy0.out _ hG1.out
  go_wp2_with (first
    | (go_at_call 50; refine (op_yes b h1 h2 _).mono ?_; rintro e w2 ⟨rfl, hg⟩; have rs2 := rs1.kept0 hg; have vss2 := vss1.kept0 hg; have hG2 : Hid (w.grownBy w2 none) := Hid.mk' (gt hG1.out hg); clear y0; have y0 := hy0.out _ hG2.out; clear rs1 hg vss1)
    | (refine wpList_storeC _ rfl 28 _ _ rfl B (gZ 0 0 0 0) (gM 1 0 0 0 0) infoG rfl (gC_one _ _ _ _ _ _ _ _ _) rfl rfl rs2 ?_; intro wz rsz hgz))
  refine bodyPost_ret (v := .agg (gM 1 0 0 0 0)) (results_cell_row Try.results34 _ wz B 28 _ (0, 0) _ rfl rsz Try.underlying28 rfl infoG) rfl ⟨rfl, ?_⟩
  exact grownBy_new hG2.out hgz (fun k hk => by have h5 := Option.some.inj hk; have h6 := hB2.out; omega)
set_option maxRecDepth 100000 in
set_option maxHeartbeats 1000000 in
theorem gr_badj (m : Int) (w : World) (g o : Nat) (b : Nat) (hb : b < 256) (hy0 : Hid (∀ wx, w.grownBy wx none → wx.cell? ⟨g, o, none⟩ = some (.int .u8 (b : Int)))) (c : Nat) (hc : c < 256) (hy1 : Hid (∀ wx, w.grownBy wx none → wx.cell? ⟨g, o + 1, none⟩ = some (.int .u8 (c : Int)))) (len cap : Nat) (hl2 : len ≤ cap) (hl3 : cap ≤ 9223372036854775807) (hl1 : 0 < len) (hl4 : 1 < len) (h1 : 33 ≤ b) (h2 : b ≤ 126) (h3 : c < 33 ∨ 126 < c) : Calls Try.prog 34 #[stV m 0 0 0, .slice (some ⟨g, o, none⟩) len cap, .func (.func 35) #[] #[]] w fun e w' => e = .returned (.agg (gM 10 1 0 0 m)) ∧ w.grownBy w' none := by
  have hl8 : (0 : Int) < (len : Int) := by omega
  have hl9 : (1 : Int) < (len : Int) := by omega
  have hl10 : ((len : Int) == 1) = false := by simp; omega
  go_enter Try.func34, Try.ntmps34
  go_upto_region 1 with (first
    | (refine wpList_boxC _ rfl 24 _ rfl (sC m 0 0 0) rfl ?_; intro x0 vbs hx0)
    | (refine wpList_allocC _ rfl 28 rfl (gZ 0 0 0 0) (zeroG _) ?_; intro w1 rs1 hgr))
  have hG1 : Hid (w.grownBy w1 none) := Hid.mk' (gt hx0 hgr)
  have vss1 := vbs.kept0 hgr
  have hB2 : Hid (w.heap.size ≤ x0.heap.size) := Hid.mk' (hx0.size)
  obtain ⟨Vs, hVs⟩ : ∃ V, Hid (w.heap.size = V) := ⟨_, Hid.mk' rfl⟩
  rw [hVs.out] at vss1
  rw [hVs.out]
  obtain ⟨B, hBe⟩ : ∃ B, Hid (x0.heap.size = B) := ⟨_, Hid.mk' rfl⟩
  replace hB2 : Hid (w.heap.size ≤ B) := Hid.mk' (by rw [← hBe.out]; exact hB2.out)
  rw [hBe.out] at rs1
  first | rw [hBe.out] | skip
  clear hx0 vbs hgr
  have y0 := hy0.out _ hG1.out; have y1 := hy1.out _ hG1.out
  go_upto_region 3 with (first
    | (go_at_call 50; refine (op_yes b h1 h2 _).mono ?_; rintro e w2 ⟨rfl, hg⟩; have rs2 := rs1.kept0 hg; have vss2 := vss1.kept0 hg; have hG2 : Hid (w.grownBy w2 none) := Hid.mk' (gt hG1.out hg); clear y0 y1; have y0 := hy0.out _ hG2.out; have y1 := hy1.out _ hG2.out; clear rs1 hg vss1))
  go_upto_region 6 with (first
    | (go_at_call 50; refine (op_no c h3 _).mono ?_; rintro e w3 ⟨rfl, hg⟩; have rs3 := rs2.kept0 hg; have vss3 := vss2.kept0 hg; have hG3 : Hid (w.grownBy w3 none) := Hid.mk' (gt hG2.out hg); clear y0 y1; have y0 := hy0.out _ hG3.out; have y1 := hy1.out _ hG3.out; clear rs2 hg vss2))
  go_wp2_with (first
    | (go_at_call 21; refine (il_any 1 m _).mono ?_; rintro e w4 ⟨rfl, hg⟩; have rs4 := rs3.kept0 hg; have vss4 := vss3.kept0 hg; have hG4 : Hid (w.grownBy w4 none) := Hid.mk' (gt hG3.out hg); clear y0 y1; have y0 := hy0.out _ hG4.out; have y1 := hy1.out _ hG4.out; clear rs3 hg vss3)
    | (refine wpList_loadC _ rfl 24 _ rfl _ Try.underlying24 rfl Vs (sC m 0 0 0) infoS rfl (by assumption) ?_)
    | (refine wpList_storeC _ rfl 28 _ _ rfl B (gZ 0 0 0 0) (gM 10 1 0 0 m) infoG rfl (gC_one _ _ _ _ _ _ _ _ _) rfl rfl rs4 ?_; intro wz rsz hgz))
  refine bodyPost_ret (v := .agg (gM 10 1 0 0 m)) (results_cell_row Try.results34 _ wz B 28 _ (0, 0) _ rfl rsz Try.underlying28 rfl infoG) rfl ⟨rfl, ?_⟩
  exact grownBy_new hG4.out hgz (fun k hk => by have h5 := Option.some.inj hk; have h6 := hB2.out; omega)
set_option maxRecDepth 100000 in
set_option maxHeartbeats 1000000 in
theorem gr_nonej (m : Int) (w : World) (g o : Nat) (b : Nat) (hb : b < 256) (hy0 : Hid (∀ wx, w.grownBy wx none → wx.cell? ⟨g, o, none⟩ = some (.int .u8 (b : Int)))) (c : Nat) (hc : c < 256) (hy1 : Hid (∀ wx, w.grownBy wx none → wx.cell? ⟨g, o + 1, none⟩ = some (.int .u8 (c : Int)))) (len cap : Nat) (hl2 : len ≤ cap) (hl3 : cap ≤ 9223372036854775807) (hl1 : 0 < len) (hl4 : 1 < len) (h1 : 33 ≤ b) (h2 : b ≤ 126) (h3 : 33 ≤ c) (h4 : c ≤ 126) (x y : Int) (hx : (b : Int) - 32 = x) (hyy : (c : Int) - 32 = y) (hR : Hid (C14.scP x y = none)) : Calls Try.prog 34 #[stV m 0 0 0, .slice (some ⟨g, o, none⟩) len cap, .func (.func 35) #[] #[]] w fun e w' => e = .returned (.agg (gM 10 2 0 0 m)) ∧ w.grownBy w' none := by
  have hl8 : (0 : Int) < (len : Int) := by omega
  have hl9 : (1 : Int) < (len : Int) := by omega
  have hl10 : ((len : Int) == 1) = false := by simp; omega
  have e1 : (b : Int) - 32 = x := hx
  have e2 : (c : Int) - 32 = y := hyy
  have e5 : IntKind.i64.wrap (b : Int) = (b : Int) := by rw [IntKind.wrap_i64]; omega
  have e6 : IntKind.i64.wrap (c : Int) = (c : Int) := by rw [IntKind.wrap_i64]; omega
  have e3 : IntKind.i64.wrap x = x := by rw [IntKind.wrap_i64]; omega
  have e4 : IntKind.i64.wrap y = y := by rw [IntKind.wrap_i64]; omega
  go_enter Try.func34, Try.ntmps34
  go_upto_region 1 with (first
    | (refine wpList_boxC _ rfl 24 _ rfl (sC m 0 0 0) rfl ?_; intro x0 vbs hx0)
    | (refine wpList_allocC _ rfl 28 rfl (gZ 0 0 0 0) (zeroG _) ?_; intro w1 rs1 hgr))
  have hG1 : Hid (w.grownBy w1 none) := Hid.mk' (gt hx0 hgr)
  have vss1 := vbs.kept0 hgr
  have hB2 : Hid (w.heap.size ≤ x0.heap.size) := Hid.mk' (hx0.size)
  obtain ⟨Vs, hVs⟩ : ∃ V, Hid (w.heap.size = V) := ⟨_, Hid.mk' rfl⟩
  rw [hVs.out] at vss1
  rw [hVs.out]
  obtain ⟨B, hBe⟩ : ∃ B, Hid (x0.heap.size = B) := ⟨_, Hid.mk' rfl⟩
  replace hB2 : Hid (w.heap.size ≤ B) := Hid.mk' (by rw [← hBe.out]; exact hB2.out)
  rw [hBe.out] at rs1
  first | rw [hBe.out] | skip
  clear hx0 vbs hgr
  have y0 := hy0.out _ hG1.out; have y1 := hy1.out _ hG1.out
  go_upto_region 3 with (first
    | (go_at_call 50; refine (op_yes b h1 h2 _).mono ?_; rintro e w2 ⟨rfl, hg⟩; have rs2 := rs1.kept0 hg; have vss2 := vss1.kept0 hg; have hG2 : Hid (w.grownBy w2 none) := Hid.mk' (gt hG1.out hg); clear y0 y1; have y0 := hy0.out _ hG2.out; have y1 := hy1.out _ hG2.out; clear rs1 hg vss1))
  go_upto_region 7 with (first
    | (go_at_call 50; refine (op_yes c h3 h4 _).mono ?_; rintro e w3 ⟨rfl, hg⟩; have rs3 := rs2.kept0 hg; have vss3 := vss2.kept0 hg; have hG3 : Hid (w.grownBy w3 none) := Hid.mk' (gt hG2.out hg); clear y0 y1; have y0 := hy0.out _ hG3.out; have y1 := hy1.out _ hG3.out; clear rs2 hg vss2))
  have hS : Hid (∀ wx, w3.grownBy wx none → wx.cell? ⟨g, o, none⟩ = some (.int .u8 (b : Int)) ∧ wx.cell? ⟨g, o + 1, none⟩ = some (.int .u8 (c : Int))) := Hid.mk' (fun wx hgx => ⟨hy0.out _ (gt hG3.out hgx), hy1.out _ (gt hG3.out hgx)⟩)
  have hD : w3.grownBy w3.drew none := gd (grownBy_refl w3 none)
  refine wp_region_held_drew (S := fun wx => wx.cell? ⟨g, o, none⟩ = some (.int .u8 (b : Int)) ∧ wx.cell? ⟨g, o + 1, none⟩ = some (.int .u8 (c : Int))) (by kernel_rfl) (hS.out _ hD) (fun hHeld => ?_)
  refine wpAnyH_take (i := 0) (v := ?_) rfl (by kernel_rfl) (by kernel_rfl) (by kernel_rfl) (fun _ _ _ h => h) (Or.inl ⟨by rfl, ?_⟩) (by assumption) ?_; rotate_left
  · (intro w hSw; (try dsimp only at hSw); go_simp; try with_reducible rfl)
  try simp only [List.getElem_toArray, List.getElem_cons_zero, Act.put, List.setIfInBounds_toArray, List.set_cons_zero, List.set_cons_succ]
  refine wpAnyH_take (i := 1) (v := ?_) rfl (by kernel_rfl) (by kernel_rfl) (by kernel_rfl) (fun _ _ _ h => h) (Or.inl ⟨by rfl, ?_⟩) (by assumption) ?_; rotate_left
  · (intro w hSw; (try dsimp only at hSw); go_simp; try with_reducible rfl)
  try simp only [List.getElem_toArray, List.getElem_cons_zero, List.getElem_cons_succ, Act.put, List.setIfInBounds_toArray, List.set_cons_zero, List.set_cons_succ]
  refine wpAnyH_take (i := 2) (v := ?_) rfl (by kernel_rfl) (by kernel_rfl) (by kernel_rfl) (fun _ _ _ h => h) (Or.inl ⟨by rfl, ?_⟩) (by assumption) ?_; rotate_left
  · (intro w hSw; (try dsimp only at hSw); go_simp; try with_reducible rfl)
  try simp only [List.getElem_toArray, List.getElem_cons_zero, List.getElem_cons_succ, Act.put, List.setIfInBounds_toArray, List.set_cons_zero, List.set_cons_succ]
  refine wpAnyH_take (i := 3) (v := ?_) rfl (by kernel_rfl) (by kernel_rfl) (by kernel_rfl) (fun _ _ _ h => h) (Or.inl ⟨by rfl, ?_⟩) (by assumption) ?_; rotate_left
  · (intro w hSw; (try dsimp only at hSw); go_simp; try with_reducible rfl)
  try simp only [List.getElem_toArray, List.getElem_cons_zero, List.getElem_cons_succ, Act.put, List.setIfInBounds_toArray, List.set_cons_zero, List.set_cons_succ]
  refine wpAnyH_take (i := 4) (v := ?_) rfl (by kernel_rfl) (by kernel_rfl) (by kernel_rfl) (fun _ _ _ h => h) (Or.inl ⟨by rfl, ?_⟩) (by assumption) ?_; rotate_left
  · (intro w hSw; (try dsimp only at hSw); go_simp; try with_reducible rfl)
  try simp only [List.getElem_toArray, List.getElem_cons_zero, List.getElem_cons_succ, Act.put, List.setIfInBounds_toArray, List.set_cons_zero, List.set_cons_succ]
  refine wpAnyH_take (i := 5) (v := ?_) rfl (by kernel_rfl) (by kernel_rfl) (by kernel_rfl) (fun _ _ _ h => h) (Or.inl ⟨by rfl, ?_⟩) (by assumption) ?_; rotate_left
  · (intro w hSw; (try dsimp only at hSw); go_simp; try with_reducible rfl)
  try simp only [List.getElem_toArray, List.getElem_cons_zero, List.getElem_cons_succ, Act.put, List.setIfInBounds_toArray, List.set_cons_zero, List.set_cons_succ]
  refine wpAnyH_take (i := 6) (v := ?_) rfl (by kernel_rfl) (by kernel_rfl) (by kernel_rfl) (fun _ _ _ h => h) (Or.inl ⟨by rfl, ?_⟩) (by assumption) ?_; rotate_left
  · (intro w hSw; (try dsimp only at hSw); go_simp; try with_reducible rfl)
  try simp only [List.getElem_toArray, List.getElem_cons_zero, List.getElem_cons_succ, Act.put, List.setIfInBounds_toArray, List.set_cons_zero, List.set_cons_succ]
  refine wpAnyH_take (i := 7) (v := ?_) rfl (by kernel_rfl) (by kernel_rfl) (by kernel_rfl) (fun _ _ _ h => h) (Or.inl ⟨by rfl, ?_⟩) (by assumption) ?_; rotate_left
  · (intro w hSw; (try dsimp only at hSw); go_simp; try with_reducible rfl)
  try simp only [List.getElem_toArray, List.getElem_cons_zero, List.getElem_cons_succ, Act.put, List.setIfInBounds_toArray, List.set_cons_zero, List.set_cons_succ]
  refine wpAnyH_take (i := 8) (v := ?_) rfl (by kernel_rfl) (by kernel_rfl) (by kernel_rfl) (fun _ _ _ h => h) (Or.inl ⟨by rfl, ?_⟩) (by assumption) ?_; rotate_left
  · (intro w hSw; (try dsimp only at hSw); go_simp; try with_reducible rfl)
  try simp only [List.getElem_toArray, List.getElem_cons_zero, List.getElem_cons_succ, Act.put, List.setIfInBounds_toArray, List.set_cons_zero, List.set_cons_succ]
  refine wpAnyH_take (i := 9) (v := ?_) rfl (by kernel_rfl) (by kernel_rfl) (by kernel_rfl) (fun _ _ _ h => h) (Or.inl ⟨by rfl, ?_⟩) (by assumption) ?_; rotate_left
  · (intro w hSw; (try dsimp only at hSw); go_simp; try with_reducible rfl)
  try simp only [List.getElem_toArray, List.getElem_cons_zero, List.getElem_cons_succ, Act.put, List.setIfInBounds_toArray, List.set_cons_zero, List.set_cons_succ]
  refine wpAnyH_take (i := 10) (v := ?_) rfl (by kernel_rfl) (by kernel_rfl) (by kernel_rfl) (fun _ _ _ h => h) (Or.inl ⟨by rfl, ?_⟩) (by assumption) ?_; rotate_left
  · (intro w hSw; (try dsimp only at hSw); go_simp; try with_reducible rfl)
  try simp only [List.getElem_toArray, List.getElem_cons_zero, List.getElem_cons_succ, Act.put, List.setIfInBounds_toArray, List.set_cons_zero, List.set_cons_succ]
  refine wpAnyH_ready (rs := [11]) (by kernel_rfl) (by simp) ?_
  refine AllReadyH.cons rfl (fun K hK => ?_) AllReadyH.nil
  go_simp
  go_at_call 35; refine (C14.pScalar x y (by unfold C14.I64; omega) _ none hR).mono ?_; rintro e w4 ⟨rfl, hg⟩; have hg4 : w3.grownBy w4 none := gt hD hg
  refine hK.out _ _ (hS.out _ hg4) (fun hHeld => ?_)
  clear hK K
  try simp only [List.getElem_toArray, List.getElem_cons_zero, List.getElem_cons_succ, Act.put, List.setIfInBounds_toArray, List.set_cons_zero, List.set_cons_succ]
  refine wpAnyH_take (i := 12) (v := ?_) rfl (by kernel_rfl) (by kernel_rfl) (by kernel_rfl) (fun _ _ _ h => h) (Or.inl ⟨by rfl, ?_⟩) (by assumption) ?_; rotate_left
  · (intro w hSw; (try dsimp only at hSw); go_simp; try with_reducible rfl)
  try simp only [List.getElem_toArray, List.getElem_cons_zero, List.getElem_cons_succ, Act.put, List.setIfInBounds_toArray, List.set_cons_zero, List.set_cons_succ]
  refine wpAnyH_take (i := 13) (v := ?_) rfl (by kernel_rfl) (by kernel_rfl) (by kernel_rfl) (fun _ _ _ h => h) (Or.inl ⟨by rfl, ?_⟩) (by assumption) ?_; rotate_left
  · (intro w hSw; (try dsimp only at hSw); go_simp; try with_reducible rfl)
  try simp only [List.getElem_toArray, List.getElem_cons_zero, List.getElem_cons_succ, Act.put, List.setIfInBounds_toArray, List.set_cons_zero, List.set_cons_succ]
  refine wpAnyH_take (i := 14) (v := ?_) rfl (by kernel_rfl) (by kernel_rfl) (by kernel_rfl) (fun _ _ _ h => h) (Or.inl ⟨by rfl, ?_⟩) (by assumption) ?_; rotate_left
  · (intro w hSw; (try dsimp only at hSw); go_simp; try with_reducible rfl)
  try simp only [List.getElem_toArray, List.getElem_cons_zero, List.getElem_cons_succ, Act.put, List.setIfInBounds_toArray, List.set_cons_zero, List.set_cons_succ]
  refine wpAnyH_take (i := 15) (v := ?_) rfl (by kernel_rfl) (by kernel_rfl) (by kernel_rfl) (fun _ _ _ h => h) (Or.inl ⟨by rfl, ?_⟩) (by assumption) ?_; rotate_left
  · (intro w hSw; (try dsimp only at hSw); go_simp; try with_reducible rfl)
  try simp only [List.getElem_toArray, List.getElem_cons_zero, List.getElem_cons_succ, Act.put, List.setIfInBounds_toArray, List.set_cons_zero, List.set_cons_succ]
  refine wpAnyH_take (i := 16) (v := ?_) rfl (by kernel_rfl) (by kernel_rfl) (by kernel_rfl) (fun _ _ _ h => h) (Or.inl ⟨by rfl, ?_⟩) (by assumption) ?_; rotate_left
  · (intro w hSw; (try dsimp only at hSw); go_simp; try with_reducible rfl)
  try simp only [List.getElem_toArray, List.getElem_cons_zero, List.getElem_cons_succ, Act.put, List.setIfInBounds_toArray, List.set_cons_zero, List.set_cons_succ]
  refine wpAnyH_done (by kernel_rfl) ?_ _
  have rs4 := rs3.kept0 hg4
  have vss4 := vss3.kept0 hg4
  have hG4 : Hid (w.grownBy w4 none) := Hid.mk' (gt hG3.out hg4)
  clear rs3 vss3 hg4 y0 y1
  have y0 := hy0.out _ hG4.out
  have y1 := hy1.out _ hG4.out
  go_wp2_with (first
    | (fail)
    | (go_at_call 21; refine (il_any 2 m _).mono ?_; rintro e w5 ⟨rfl, hg⟩; have rs5 := rs4.kept0 hg; have vss5 := vss4.kept0 hg; have hG5 : Hid (w.grownBy w5 none) := Hid.mk' (gt hG4.out hg); clear y0 y1; have y0 := hy0.out _ hG5.out; have y1 := hy1.out _ hG5.out; clear rs4 hg vss4)
    | (refine wpList_loadC _ rfl 24 _ rfl _ Try.underlying24 rfl Vs (sC m 0 0 0) infoS rfl (by assumption) ?_)
    | (refine wpList_storeC _ rfl 28 _ _ rfl B (gZ 0 0 0 0) (gM 10 2 0 0 m) infoG rfl (gC_one _ _ _ _ _ _ _ _ _) rfl rfl rs5 ?_; intro wz rsz hgz))
  refine bodyPost_ret (v := .agg (gM 10 2 0 0 m)) (results_cell_row Try.results34 _ wz B 28 _ (0, 0) _ rfl rsz Try.underlying28 rfl infoG) rfl ⟨rfl, ?_⟩
  exact grownBy_new hG5.out hgz (fun k hk => by have h5 := Option.some.inj hk; have h6 := hB2.out; omega)
set_option maxRecDepth 100000 in
set_option maxHeartbeats 1000000 in
theorem gr_somej (m : Int) (w : World) (g o : Nat) (b : Nat) (hb : b < 256) (hy0 : Hid (∀ wx, w.grownBy wx none → wx.cell? ⟨g, o, none⟩ = some (.int .u8 (b : Int)))) (c : Nat) (hc : c < 256) (hy1 : Hid (∀ wx, w.grownBy wx none → wx.cell? ⟨g, o + 1, none⟩ = some (.int .u8 (c : Int)))) (len cap : Nat) (hl2 : len ≤ cap) (hl3 : cap ≤ 9223372036854775807) (hl1 : 0 < len) (hl4 : 1 < len) (h1 : 33 ≤ b) (h2 : b ≤ 126) (h3 : 33 ≤ c) (h4 : c ≤ 126) (x y : Int) (hx : (b : Int) - 32 = x) (hyy : (c : Int) - 32 = y) (v : Nat) (hR : Hid (C14.scP x y = (some v))) : Calls Try.prog 34 #[stV m 0 0 0, .slice (some ⟨g, o, none⟩) len cap, .func (.func 35) #[] #[]] w fun e w' => e = .returned (.agg (gM 0 2 1 (v : Int) m)) ∧ w.grownBy w' none := by
  have hl8 : (0 : Int) < (len : Int) := by omega
  have hl9 : (1 : Int) < (len : Int) := by omega
  have hl10 : ((len : Int) == 1) = false := by simp; omega
  have e1 : (b : Int) - 32 = x := hx
  have e2 : (c : Int) - 32 = y := hyy
  have e5 : IntKind.i64.wrap (b : Int) = (b : Int) := by rw [IntKind.wrap_i64]; omega
  have e6 : IntKind.i64.wrap (c : Int) = (c : Int) := by rw [IntKind.wrap_i64]; omega
  have e3 : IntKind.i64.wrap x = x := by rw [IntKind.wrap_i64]; omega
  have e4 : IntKind.i64.wrap y = y := by rw [IntKind.wrap_i64]; omega
  go_enter Try.func34, Try.ntmps34
  go_upto_region 1 with (first
    | (refine wpList_boxC _ rfl 24 _ rfl (sC m 0 0 0) rfl ?_; intro x0 vbs hx0)
    | (refine wpList_allocC _ rfl 28 rfl (gZ 0 0 0 0) (zeroG _) ?_; intro w1 rs1 hgr))
  have hG1 : Hid (w.grownBy w1 none) := Hid.mk' (gt hx0 hgr)
  have vss1 := vbs.kept0 hgr
  have hB2 : Hid (w.heap.size ≤ x0.heap.size) := Hid.mk' (hx0.size)
  obtain ⟨Vs, hVs⟩ : ∃ V, Hid (w.heap.size = V) := ⟨_, Hid.mk' rfl⟩
  rw [hVs.out] at vss1
  rw [hVs.out]
  obtain ⟨B, hBe⟩ : ∃ B, Hid (x0.heap.size = B) := ⟨_, Hid.mk' rfl⟩
  replace hB2 : Hid (w.heap.size ≤ B) := Hid.mk' (by rw [← hBe.out]; exact hB2.out)
  rw [hBe.out] at rs1
  first | rw [hBe.out] | skip
  clear hx0 vbs hgr
  have y0 := hy0.out _ hG1.out; have y1 := hy1.out _ hG1.out
  go_upto_region 3 with (first
    | (go_at_call 50; refine (op_yes b h1 h2 _).mono ?_; rintro e w2 ⟨rfl, hg⟩; have rs2 := rs1.kept0 hg; have vss2 := vss1.kept0 hg; have hG2 : Hid (w.grownBy w2 none) := Hid.mk' (gt hG1.out hg); clear y0 y1; have y0 := hy0.out _ hG2.out; have y1 := hy1.out _ hG2.out; clear rs1 hg vss1))
  go_upto_region 7 with (first
    | (go_at_call 50; refine (op_yes c h3 h4 _).mono ?_; rintro e w3 ⟨rfl, hg⟩; have rs3 := rs2.kept0 hg; have vss3 := vss2.kept0 hg; have hG3 : Hid (w.grownBy w3 none) := Hid.mk' (gt hG2.out hg); clear y0 y1; have y0 := hy0.out _ hG3.out; have y1 := hy1.out _ hG3.out; clear rs2 hg vss2))
  have hS : Hid (∀ wx, w3.grownBy wx none → wx.cell? ⟨g, o, none⟩ = some (.int .u8 (b : Int)) ∧ wx.cell? ⟨g, o + 1, none⟩ = some (.int .u8 (c : Int))) := Hid.mk' (fun wx hgx => ⟨hy0.out _ (gt hG3.out hgx), hy1.out _ (gt hG3.out hgx)⟩)
  have hD : w3.grownBy w3.drew none := gd (grownBy_refl w3 none)
  refine wp_region_held_drew (S := fun wx => wx.cell? ⟨g, o, none⟩ = some (.int .u8 (b : Int)) ∧ wx.cell? ⟨g, o + 1, none⟩ = some (.int .u8 (c : Int))) (by kernel_rfl) (hS.out _ hD) (fun hHeld => ?_)
  refine wpAnyH_take (i := 0) (v := ?_) rfl (by kernel_rfl) (by kernel_rfl) (by kernel_rfl) (fun _ _ _ h => h) (Or.inl ⟨by rfl, ?_⟩) (by assumption) ?_; rotate_left
  · (intro w hSw; (try dsimp only at hSw); go_simp; try with_reducible rfl)
  try simp only [List.getElem_toArray, List.getElem_cons_zero, Act.put, List.setIfInBounds_toArray, List.set_cons_zero, List.set_cons_succ]
  refine wpAnyH_take (i := 1) (v := ?_) rfl (by kernel_rfl) (by kernel_rfl) (by kernel_rfl) (fun _ _ _ h => h) (Or.inl ⟨by rfl, ?_⟩) (by assumption) ?_; rotate_left
  · (intro w hSw; (try dsimp only at hSw); go_simp; try with_reducible rfl)
  try simp only [List.getElem_toArray, List.getElem_cons_zero, List.getElem_cons_succ, Act.put, List.setIfInBounds_toArray, List.set_cons_zero, List.set_cons_succ]
  refine wpAnyH_take (i := 2) (v := ?_) rfl (by kernel_rfl) (by kernel_rfl) (by kernel_rfl) (fun _ _ _ h => h) (Or.inl ⟨by rfl, ?_⟩) (by assumption) ?_; rotate_left
  · (intro w hSw; (try dsimp only at hSw); go_simp; try with_reducible rfl)
  try simp only [List.getElem_toArray, List.getElem_cons_zero, List.getElem_cons_succ, Act.put, List.setIfInBounds_toArray, List.set_cons_zero, List.set_cons_succ]
  refine wpAnyH_take (i := 3) (v := ?_) rfl (by kernel_rfl) (by kernel_rfl) (by kernel_rfl) (fun _ _ _ h => h) (Or.inl ⟨by rfl, ?_⟩) (by assumption) ?_; rotate_left
  · (intro w hSw; (try dsimp only at hSw); go_simp; try with_reducible rfl)
  try simp only [List.getElem_toArray, List.getElem_cons_zero, List.getElem_cons_succ, Act.put, List.setIfInBounds_toArray, List.set_cons_zero, List.set_cons_succ]
  refine wpAnyH_take (i := 4) (v := ?_) rfl (by kernel_rfl) (by kernel_rfl) (by kernel_rfl) (fun _ _ _ h => h) (Or.inl ⟨by rfl, ?_⟩) (by assumption) ?_; rotate_left
  · (intro w hSw; (try dsimp only at hSw); go_simp; try with_reducible rfl)
  try simp only [List.getElem_toArray, List.getElem_cons_zero, List.getElem_cons_succ, Act.put, List.setIfInBounds_toArray, List.set_cons_zero, List.set_cons_succ]
  refine wpAnyH_take (i := 5) (v := ?_) rfl (by kernel_rfl) (by kernel_rfl) (by kernel_rfl) (fun _ _ _ h => h) (Or.inl ⟨by rfl, ?_⟩) (by assumption) ?_; rotate_left
  · (intro w hSw; (try dsimp only at hSw); go_simp; try with_reducible rfl)
  try simp only [List.getElem_toArray, List.getElem_cons_zero, List.getElem_cons_succ, Act.put, List.setIfInBounds_toArray, List.set_cons_zero, List.set_cons_succ]
  refine wpAnyH_take (i := 6) (v := ?_) rfl (by kernel_rfl) (by kernel_rfl) (by kernel_rfl) (fun _ _ _ h => h) (Or.inl ⟨by rfl, ?_⟩) (by assumption) ?_; rotate_left
  · (intro w hSw; (try dsimp only at hSw); go_simp; try with_reducible rfl)
  try simp only [List.getElem_toArray, List.getElem_cons_zero, List.getElem_cons_succ, Act.put, List.setIfInBounds_toArray, List.set_cons_zero, List.set_cons_succ]
  refine wpAnyH_take (i := 7) (v := ?_) rfl (by kernel_rfl) (by kernel_rfl) (by kernel_rfl) (fun _ _ _ h => h) (Or.inl ⟨by rfl, ?_⟩) (by assumption) ?_; rotate_left
  · (intro w hSw; (try dsimp only at hSw); go_simp; try with_reducible rfl)
  try simp only [List.getElem_toArray, List.getElem_cons_zero, List.getElem_cons_succ, Act.put, List.setIfInBounds_toArray, List.set_cons_zero, List.set_cons_succ]
  refine wpAnyH_take (i := 8) (v := ?_) rfl (by kernel_rfl) (by kernel_rfl) (by kernel_rfl) (fun _ _ _ h => h) (Or.inl ⟨by rfl, ?_⟩) (by assumption) ?_; rotate_left
  · (intro w hSw; (try dsimp only at hSw); go_simp; try with_reducible rfl)
  try simp only [List.getElem_toArray, List.getElem_cons_zero, List.getElem_cons_succ, Act.put, List.setIfInBounds_toArray, List.set_cons_zero, List.set_cons_succ]
  refine wpAnyH_take (i := 9) (v := ?_) rfl (by kernel_rfl) (by kernel_rfl) (by kernel_rfl) (fun _ _ _ h => h) (Or.inl ⟨by rfl, ?_⟩) (by assumption) ?_; rotate_left
  · (intro w hSw; (try dsimp only at hSw); go_simp; try with_reducible rfl)
  try simp only [List.getElem_toArray, List.getElem_cons_zero, List.getElem_cons_succ, Act.put, List.setIfInBounds_toArray, List.set_cons_zero, List.set_cons_succ]
  refine wpAnyH_take (i := 10) (v := ?_) rfl (by kernel_rfl) (by kernel_rfl) (by kernel_rfl) (fun _ _ _ h => h) (Or.inl ⟨by rfl, ?_⟩) (by assumption) ?_; rotate_left
  · (intro w hSw; (try dsimp only at hSw); go_simp; try with_reducible rfl)
  try simp only [List.getElem_toArray, List.getElem_cons_zero, List.getElem_cons_succ, Act.put, List.setIfInBounds_toArray, List.set_cons_zero, List.set_cons_succ]
  refine wpAnyH_ready (rs := [11]) (by kernel_rfl) (by simp) ?_
  refine AllReadyH.cons rfl (fun K hK => ?_) AllReadyH.nil
  go_simp
  go_at_call 35; refine (C14.pScalar x y (by unfold C14.I64; omega) _ (some v) hR).mono ?_; rintro e w4 ⟨rfl, hg⟩; have hg4 : w3.grownBy w4 none := gt hD hg
  refine hK.out _ _ (hS.out _ hg4) (fun hHeld => ?_)
  clear hK K
  try simp only [List.getElem_toArray, List.getElem_cons_zero, List.getElem_cons_succ, Act.put, List.setIfInBounds_toArray, List.set_cons_zero, List.set_cons_succ]
  refine wpAnyH_take (i := 12) (v := ?_) rfl (by kernel_rfl) (by kernel_rfl) (by kernel_rfl) (fun _ _ _ h => h) (Or.inl ⟨by rfl, ?_⟩) (by assumption) ?_; rotate_left
  · (intro w hSw; (try dsimp only at hSw); go_simp; try with_reducible rfl)
  try simp only [List.getElem_toArray, List.getElem_cons_zero, List.getElem_cons_succ, Act.put, List.setIfInBounds_toArray, List.set_cons_zero, List.set_cons_succ]
  refine wpAnyH_take (i := 13) (v := ?_) rfl (by kernel_rfl) (by kernel_rfl) (by kernel_rfl) (fun _ _ _ h => h) (Or.inl ⟨by rfl, ?_⟩) (by assumption) ?_; rotate_left
  · (intro w hSw; (try dsimp only at hSw); go_simp; try with_reducible rfl)
  try simp only [List.getElem_toArray, List.getElem_cons_zero, List.getElem_cons_succ, Act.put, List.setIfInBounds_toArray, List.set_cons_zero, List.set_cons_succ]
  refine wpAnyH_take (i := 14) (v := ?_) rfl (by kernel_rfl) (by kernel_rfl) (by kernel_rfl) (fun _ _ _ h => h) (Or.inl ⟨by rfl, ?_⟩) (by assumption) ?_; rotate_left
  · (intro w hSw; (try dsimp only at hSw); go_simp; try with_reducible rfl)
  try simp only [List.getElem_toArray, List.getElem_cons_zero, List.getElem_cons_succ, Act.put, List.setIfInBounds_toArray, List.set_cons_zero, List.set_cons_succ]
  refine wpAnyH_take (i := 15) (v := ?_) rfl (by kernel_rfl) (by kernel_rfl) (by kernel_rfl) (fun _ _ _ h => h) (Or.inl ⟨by rfl, ?_⟩) (by assumption) ?_; rotate_left
  · (intro w hSw; (try dsimp only at hSw); go_simp; try with_reducible rfl)
  try simp only [List.getElem_toArray, List.getElem_cons_zero, List.getElem_cons_succ, Act.put, List.setIfInBounds_toArray, List.set_cons_zero, List.set_cons_succ]
  refine wpAnyH_take (i := 16) (v := ?_) rfl (by kernel_rfl) (by kernel_rfl) (by kernel_rfl) (fun _ _ _ h => h) (Or.inl ⟨by rfl, ?_⟩) (by assumption) ?_; rotate_left
  · (intro w hSw; (try dsimp only at hSw); go_simp; try with_reducible rfl)
  try simp only [List.getElem_toArray, List.getElem_cons_zero, List.getElem_cons_succ, Act.put, List.setIfInBounds_toArray, List.set_cons_zero, List.set_cons_succ]
  refine wpAnyH_done (by kernel_rfl) ?_ _
  have rs4 := rs3.kept0 hg4
  have vss4 := vss3.kept0 hg4
  have hG4 : Hid (w.grownBy w4 none) := Hid.mk' (gt hG3.out hg4)
  clear rs3 vss3 hg4 y0 y1
  have y0 := hy0.out _ hG4.out
  have y1 := hy1.out _ hG4.out
  go_wp2_with (first
    | (fail)
    | (refine wpList_loadC _ rfl 24 _ rfl _ Try.underlying24 rfl Vs (sC m 0 0 0) infoS rfl (by assumption) ?_)
    | (refine wpList_storeC _ rfl 28 _ _ rfl B (gZ 0 0 0 0) (gM 0 2 1 (v : Int) m) infoG rfl (gC_one _ _ _ _ _ _ _ _ _) rfl rfl rs4 ?_; intro wz rsz hgz))
  refine bodyPost_ret (v := .agg (gM 0 2 1 (v : Int) m)) (results_cell_row Try.results34 _ wz B 28 _ (0, 0) _ rfl rsz Try.underlying28 rfl infoG) rfl ⟨rfl, ?_⟩
  exact grownBy_new hG4.out hgz (fun k hk => by have h5 := Option.some.inj hk; have h6 := hB2.out; omega)
set_option maxRecDepth 100000 in
set_option maxHeartbeats 1000000 in
theorem gr_itk (m : Int) (w : World) (g o : Nat) (b : Nat) (hb : b < 256) (hy0 : Hid (∀ wx, w.grownBy wx none → wx.cell? ⟨g, o, none⟩ = some (.int .u8 (b : Int)))) (len cap : Nat) (hl2 : len ≤ cap) (hl3 : cap ≤ 9223372036854775807) (hl1 : 0 < len) (h1 : b < 33 ∨ 126 < b) : Calls Try.prog 34 #[stV m 0 0 0, .slice (some ⟨g, o, none⟩) len cap, .func (.func 38) #[] #[]] w fun e w' => e = .returned (.agg (gM 0 1 1 (b : Int) m)) ∧ w.grownBy w' none := by
  have hl8 : (0 : Int) < (len : Int) := by omega
  go_enter Try.func34, Try.ntmps34
  go_upto_region 1 with (first
    | (refine wpList_boxC _ rfl 24 _ rfl (sC m 0 0 0) rfl ?_; intro x0 vbs hx0)
    | (refine wpList_allocC _ rfl 28 rfl (gZ 0 0 0 0) (zeroG _) ?_; intro w1 rs1 hgr))
  have hG1 : Hid (w.grownBy w1 none) := Hid.mk' (gt hx0 hgr)
  have vss1 := vbs.kept0 hgr
  have hB2 : Hid (w.heap.size ≤ x0.heap.size) := Hid.mk' (hx0.size)
  obtain ⟨Vs, hVs⟩ : ∃ V, Hid (w.heap.size = V) := ⟨_, Hid.mk' rfl⟩
  rw [hVs.out] at vss1
  rw [hVs.out]
  have hVB : Hid (Vs < x0.heap.size) := Hid.mk' (by rw [← hVs.out]; exact vbs.lt)
  obtain ⟨B, hBe⟩ : ∃ B, Hid (x0.heap.size = B) := ⟨_, Hid.mk' rfl⟩
  replace hB2 : Hid (w.heap.size ≤ B) := Hid.mk' (by rw [← hBe.out]; exact hB2.out)
  rw [hBe.out] at rs1 hVB
  first | rw [hBe.out] | skip
  clear hx0 vbs hgr
  have y0 := hy0.out _ hG1.out; have cs0 := vss1.cell 0 rfl
  go_upto_region 2 with (first
    | (go_at_call 50; refine (op_no b h1 _).mono ?_; rintro e w2 ⟨rfl, hg⟩; have rs2 := rs1.kept0 hg; have vss2 := vss1.kept0 hg; have hG2 : Hid (w.grownBy w2 none) := Hid.mk' (gt hG1.out hg); clear y0 cs0; have y0 := hy0.out _ hG2.out; have cs0 := vss2.cell 0 rfl; clear rs1 hg vss1))
  have hS : Hid (∀ wx, w2.grownBy wx none → wx.cell? ⟨g, o, none⟩ = some (.int .u8 (b : Int)) ∧ wx.cell? ⟨Vs, 0, none⟩ = some (.int .i64 m) ∧ wx.cell? ⟨Vs, 1, none⟩ = some (.int .i64 0) ∧ wx.cell? ⟨Vs, 2, none⟩ = some (.int .u32 0) ∧ wx.cell? ⟨Vs, 3, none⟩ = some (.int .i32 0)) := Hid.mk' (fun wx hgx => ⟨hy0.out _ (gt hG2.out hgx), (vss2.kept0 hgx).cell 0 rfl, (vss2.kept0 hgx).cell 1 rfl, (vss2.kept0 hgx).cell 2 rfl, (vss2.kept0 hgx).cell 3 rfl⟩)
  have hD2 : w2.grownBy w2.drew none := gd (grownBy_refl w2 none)
  refine wp_region_held_drew (S := fun wx => wx.cell? ⟨g, o, none⟩ = some (.int .u8 (b : Int)) ∧ wx.cell? ⟨Vs, 0, none⟩ = some (.int .i64 m) ∧ wx.cell? ⟨Vs, 1, none⟩ = some (.int .i64 0) ∧ wx.cell? ⟨Vs, 2, none⟩ = some (.int .u32 0) ∧ wx.cell? ⟨Vs, 3, none⟩ = some (.int .i32 0)) (by kernel_rfl) (hS.out _ hD2) (fun hHeld => ?_)
  refine wpAnyH_take (i := 0) (v := ?_) rfl (by kernel_rfl) (by kernel_rfl) (by kernel_rfl) (fun _ _ _ h => h) (Or.inl ⟨by rfl, ?_⟩) (by assumption) ?_; rotate_left
  · (intro w hSw; (try dsimp only at hSw); go_simp; try with_reducible rfl)
  try simp only [List.getElem_toArray, List.getElem_cons_zero, Act.put, List.setIfInBounds_toArray, List.set_cons_zero, List.set_cons_succ]
  refine wpAnyH_take (i := 1) (v := ?_) rfl (by kernel_rfl) (by kernel_rfl) (by kernel_rfl) (fun _ _ _ h => h) (Or.inl ⟨by rfl, ?_⟩) (by assumption) ?_; rotate_left
  · (intro w hSw; (try dsimp only at hSw); go_simp; try with_reducible rfl)
  try simp only [List.getElem_toArray, List.getElem_cons_zero, List.getElem_cons_succ, Act.put, List.setIfInBounds_toArray, List.set_cons_zero, List.set_cons_succ]
  refine wpAnyH_take (i := 2) (v := ?_) rfl (by kernel_rfl) (by kernel_rfl) (by kernel_rfl) (fun _ _ _ h => h) (Or.inl ⟨by rfl, ?_⟩) (by assumption) ?_; rotate_left
  · (intro w hSw; (try dsimp only at hSw); go_simp; try with_reducible rfl)
  try simp only [List.getElem_toArray, List.getElem_cons_zero, List.getElem_cons_succ, Act.put, List.setIfInBounds_toArray, List.set_cons_zero, List.set_cons_succ]
  refine wpAnyH_take (i := 3) (v := ?_) rfl (by kernel_rfl) (by kernel_rfl) (by kernel_rfl) (fun _ _ _ h => h) (Or.inl ⟨by rfl, ?_⟩) (by assumption) ?_; rotate_left
  · (intro w hSw; (try dsimp only at hSw); go_simp; try with_reducible rfl)
  try simp only [List.getElem_toArray, List.getElem_cons_zero, List.getElem_cons_succ, Act.put, List.setIfInBounds_toArray, List.set_cons_zero, List.set_cons_succ]
  refine wpAnyH_ready (rs := [4]) (by kernel_rfl) (by simp) ?_
  refine AllReadyH.cons rfl (fun K hK => ?_) AllReadyH.nil
  go_simp
  go_at_call 37; refine (it_any b hb m _).mono ?_; rintro e x4 ⟨rfl, hg⟩; have hx4 : w2.grownBy x4 none := gt hD2 hg
  refine hK.out _ _ (hS.out _ hx4) (fun hHeld => ?_)
  clear hK K
  try simp only [List.getElem_toArray, List.getElem_cons_zero, List.getElem_cons_succ, Act.put, List.setIfInBounds_toArray, List.set_cons_zero, List.set_cons_succ]
  refine wpAnyH_ready (rs := [5]) (by kernel_rfl) (by simp) ?_
  refine AllReadyH.cons rfl (fun K hK => ?_) AllReadyH.nil
  refine step_storeC (by rfl) 28 _ _ rfl B (gZ 0 0 0 0) (gM 0 1 1 (b : Int) m) infoG rfl (gC_one _ _ _ _ _ _ _ _ _) rfl rfl (rs2.kept0 hx4) ?_; intro wz rsz hgz; have vsz := (vss2.kept0 hx4).kept hgz (by intro e; have h5 := Option.some.inj e; have h6 := rs2.lt; have h7 := hVB.out; omega); have hb1 := World.block_lt_of_cell? w ⟨g, o, none⟩ (hy0.out _ (grownBy_refl _ _)); have hyz := hgz.cell (hy0.out _ (gt hG2.out hx4)) (by intro e; have h5 := Option.some.inj e; have h6 := hB2.out; have h7 : g < w.heap.size := hb1; have h8 : g = B := h5; omega)
  refine hK.out _ _ ⟨hyz, vsz.cell 0 rfl, vsz.cell 1 rfl, vsz.cell 2 rfl, vsz.cell 3 rfl⟩ (fun hHeld => ?_)
  clear hK K
  try simp only [List.getElem_toArray, List.getElem_cons_zero, List.getElem_cons_succ, Act.put, List.setIfInBounds_toArray, List.set_cons_zero, List.set_cons_succ]
  refine wpAnyH_done (by kernel_rfl) ?_ _
  (try go_wp2)
  refine bodyPost_ret (v := .agg (gM 0 1 1 (b : Int) m)) (results_cell_row Try.results34 _ wz B 28 _ (0, 0) _ rfl rsz Try.underlying28 rfl infoG) rfl ⟨rfl, ?_⟩
  exact grownBy_new (gt hG2.out hx4) hgz (fun k hk => by have h5 := Option.some.inj hk; have h6 := hB2.out; omega)
set_option maxRecDepth 100000 in
set_option maxHeartbeats 1000000 in
theorem gr_onek (m : Int) (w : World) (g o : Nat) (b : Nat) (hb : b < 256) (hy0 : Hid (∀ wx, w.grownBy wx none → wx.cell? ⟨g, o, none⟩ = some (.int .u8 (b : Int)))) (cap : Nat) (h0 : 1 ≤ cap) (hl3 : cap ≤ 9223372036854775807) (h1 : 33 ≤ b) (h2 : b ≤ 126) : Calls Try.prog 34 #[stV m 0 0 0, .slice (some ⟨g, o, none⟩) 1 cap, .func (.func 38) #[] #[]] w fun e w' => e = .returned (.agg (gM 1 0 0 0 0)) ∧ w.grownBy w' none := by
  go_enter Try.func34, Try.ntmps34
  go_upto_region 1 with (first
    | (refine wpList_boxC _ rfl 24 _ rfl (sC m 0 0 0) rfl ?_; intro x0 vbs hx0)
    | (refine wpList_allocC _ rfl 28 rfl (gZ 0 0 0 0) (zeroG _) ?_; intro w1 rs1 hgr))
  have hG1 : Hid (w.grownBy w1 none) := Hid.mk' (gt hx0 hgr)
  have vss1 := vbs.kept0 hgr
  have hB2 : Hid (w.heap.size ≤ x0.heap.size) := Hid.mk' (hx0.size)
  obtain ⟨Vs, hVs⟩ : ∃ V, Hid (w.heap.size = V) := ⟨_, Hid.mk' rfl⟩
  rw [hVs.out] at vss1
  rw [hVs.out]
  obtain ⟨B, hBe⟩ : ∃ B, Hid (x0.heap.size = B) := ⟨_, Hid.mk' rfl⟩
  replace hB2 : Hid (w.heap.size ≤ B) := Hid.mk' (by rw [← hBe.out]; exact hB2.out)
  rw [hBe.out] at rs1
  first | rw [hBe.out] | skip
  clear hx0 vbs hgr
  have y0 := hy0.out _ hG1.out
  go_wp2_with (first
    | (go_at_call 50; refine (op_yes b h1 h2 _).mono ?_; rintro e w2 ⟨rfl, hg⟩; have rs2 := rs1.kept0 hg; have vss2 := vss1.kept0 hg; have hG2 : Hid (w.grownBy w2 none) := Hid.mk' (gt hG1.out hg); clear y0; have y0 := hy0.out _ hG2.out; clear rs1 hg vss1)
    | (refine wpList_storeC _ rfl 28 _ _ rfl B (gZ 0 0 0 0) (gM 1 0 0 0 0) infoG rfl (gC_one _ _ _ _ _ _ _ _ _) rfl rfl rs2 ?_; intro wz rsz hgz))
  refine bodyPost_ret (v := .agg (gM 1 0 0 0 0)) (results_cell_row Try.results34 _ wz B 28 _ (0, 0) _ rfl rsz Try.underlying28 rfl infoG) rfl ⟨rfl, ?_⟩
  exact grownBy_new hG2.out hgz (fun k hk => by have h5 := Option.some.inj hk; have h6 := hB2.out; omega)
set_option maxRecDepth 100000 in
set_option maxHeartbeats 1000000 in
theorem gr_badk (m : Int) (w : World) (g o : Nat) (b : Nat) (hb : b < 256) (hy0 : Hid (∀ wx, w.grownBy wx none → wx.cell? ⟨g, o, none⟩ = some (.int .u8 (b : Int)))) (c : Nat) (hc : c < 256) (hy1 : Hid (∀ wx, w.grownBy wx none → wx.cell? ⟨g, o + 1, none⟩ = some (.int .u8 (c : Int)))) (len cap : Nat) (hl2 : len ≤ cap) (hl3 : cap ≤ 9223372036854775807) (hl1 : 0 < len) (hl4 : 1 < len) (h1 : 33 ≤ b) (h2 : b ≤ 126) (h3 : c < 33 ∨ 126 < c) : Calls Try.prog 34 #[stV m 0 0 0, .slice (some ⟨g, o, none⟩) len cap, .func (.func 38) #[] #[]] w fun e w' => e = .returned (.agg (gM 10 1 0 0 m)) ∧ w.grownBy w' none := by
  have hl8 : (0 : Int) < (len : Int) := by omega
  have hl9 : (1 : Int) < (len : Int) := by omega
  have hl10 : ((len : Int) == 1) = false := by simp; omega
  go_enter Try.func34, Try.ntmps34
  go_upto_region 1 with (first
    | (refine wpList_boxC _ rfl 24 _ rfl (sC m 0 0 0) rfl ?_; intro x0 vbs hx0)
    | (refine wpList_allocC _ rfl 28 rfl (gZ 0 0 0 0) (zeroG _) ?_; intro w1 rs1 hgr))
  have hG1 : Hid (w.grownBy w1 none) := Hid.mk' (gt hx0 hgr)
  have vss1 := vbs.kept0 hgr
  have hB2 : Hid (w.heap.size ≤ x0.heap.size) := Hid.mk' (hx0.size)
  obtain ⟨Vs, hVs⟩ : ∃ V, Hid (w.heap.size = V) := ⟨_, Hid.mk' rfl⟩
  rw [hVs.out] at vss1
  rw [hVs.out]
  obtain ⟨B, hBe⟩ : ∃ B, Hid (x0.heap.size = B) := ⟨_, Hid.mk' rfl⟩
  replace hB2 : Hid (w.heap.size ≤ B) := Hid.mk' (by rw [← hBe.out]; exact hB2.out)
  rw [hBe.out] at rs1
  first | rw [hBe.out] | skip
  clear hx0 vbs hgr
  have y0 := hy0.out _ hG1.out; have y1 := hy1.out _ hG1.out
  go_upto_region 3 with (first
    | (go_at_call 50; refine (op_yes b h1 h2 _).mono ?_; rintro e w2 ⟨rfl, hg⟩; have rs2 := rs1.kept0 hg; have vss2 := vss1.kept0 hg; have hG2 : Hid (w.grownBy w2 none) := Hid.mk' (gt hG1.out hg); clear y0 y1; have y0 := hy0.out _ hG2.out; have y1 := hy1.out _ hG2.out; clear rs1 hg vss1))
  go_upto_region 6 with (first
    | (go_at_call 50; refine (op_no c h3 _).mono ?_; rintro e w3 ⟨rfl, hg⟩; have rs3 := rs2.kept0 hg; have vss3 := vss2.kept0 hg; have hG3 : Hid (w.grownBy w3 none) := Hid.mk' (gt hG2.out hg); clear y0 y1; have y0 := hy0.out _ hG3.out; have y1 := hy1.out _ hG3.out; clear rs2 hg vss2))
  go_wp2_with (first
    | (go_at_call 21; refine (il_any 1 m _).mono ?_; rintro e w4 ⟨rfl, hg⟩; have rs4 := rs3.kept0 hg; have vss4 := vss3.kept0 hg; have hG4 : Hid (w.grownBy w4 none) := Hid.mk' (gt hG3.out hg); clear y0 y1; have y0 := hy0.out _ hG4.out; have y1 := hy1.out _ hG4.out; clear rs3 hg vss3)
    | (refine wpList_loadC _ rfl 24 _ rfl _ Try.underlying24 rfl Vs (sC m 0 0 0) infoS rfl (by assumption) ?_)
    | (refine wpList_storeC _ rfl 28 _ _ rfl B (gZ 0 0 0 0) (gM 10 1 0 0 m) infoG rfl (gC_one _ _ _ _ _ _ _ _ _) rfl rfl rs4 ?_; intro wz rsz hgz))
  refine bodyPost_ret (v := .agg (gM 10 1 0 0 m)) (results_cell_row Try.results34 _ wz B 28 _ (0, 0) _ rfl rsz Try.underlying28 rfl infoG) rfl ⟨rfl, ?_⟩
  exact grownBy_new hG4.out hgz (fun k hk => by have h5 := Option.some.inj hk; have h6 := hB2.out; omega)
set_option maxRecDepth 100000 in
set_option maxHeartbeats 1000000 in
theorem gr_nonek (m : Int) (w : World) (g o : Nat) (b : Nat) (hb : b < 256) (hy0 : Hid (∀ wx, w.grownBy wx none → wx.cell? ⟨g, o, none⟩ = some (.int .u8 (b : Int)))) (c : Nat) (hc : c < 256) (hy1 : Hid (∀ wx, w.grownBy wx none → wx.cell? ⟨g, o + 1, none⟩ = some (.int .u8 (c : Int)))) (len cap : Nat) (hl2 : len ≤ cap) (hl3 : cap ≤ 9223372036854775807) (hl1 : 0 < len) (hl4 : 1 < len) (h1 : 33 ≤ b) (h2 : b ≤ 126) (h3 : 33 ≤ c) (h4 : c ≤ 126) (x y : Int) (hx : (b : Int) - 32 = x) (hyy : (c : Int) - 32 = y) (hR : Hid (C16.scP x y = none)) : Calls Try.prog 34 #[stV m 0 0 0, .slice (some ⟨g, o, none⟩) len cap, .func (.func 38) #[] #[]] w fun e w' => e = .returned (.agg (gM 10 2 0 0 m)) ∧ w.grownBy w' none := by
  have hl8 : (0 : Int) < (len : Int) := by omega
  have hl9 : (1 : Int) < (len : Int) := by omega
  have hl10 : ((len : Int) == 1) = false := by simp; omega
  have e1 : (b : Int) - 32 = x := hx
  have e2 : (c : Int) - 32 = y := hyy
  have e5 : IntKind.i64.wrap (b : Int) = (b : Int) := by rw [IntKind.wrap_i64]; omega
  have e6 : IntKind.i64.wrap (c : Int) = (c : Int) := by rw [IntKind.wrap_i64]; omega
  have e3 : IntKind.i64.wrap x = x := by rw [IntKind.wrap_i64]; omega
  have e4 : IntKind.i64.wrap y = y := by rw [IntKind.wrap_i64]; omega
  go_enter Try.func34, Try.ntmps34
  go_upto_region 1 with (first
    | (refine wpList_boxC _ rfl 24 _ rfl (sC m 0 0 0) rfl ?_; intro x0 vbs hx0)
    | (refine wpList_allocC _ rfl 28 rfl (gZ 0 0 0 0) (zeroG _) ?_; intro w1 rs1 hgr))
  have hG1 : Hid (w.grownBy w1 none) := Hid.mk' (gt hx0 hgr)
  have vss1 := vbs.kept0 hgr
  have hB2 : Hid (w.heap.size ≤ x0.heap.size) := Hid.mk' (hx0.size)
  obtain ⟨Vs, hVs⟩ : ∃ V, Hid (w.heap.size = V) := ⟨_, Hid.mk' rfl⟩
  rw [hVs.out] at vss1
  rw [hVs.out]
  obtain ⟨B, hBe⟩ : ∃ B, Hid (x0.heap.size = B) := ⟨_, Hid.mk' rfl⟩
  replace hB2 : Hid (w.heap.size ≤ B) := Hid.mk' (by rw [← hBe.out]; exact hB2.out)
  rw [hBe.out] at rs1
  first | rw [hBe.out] | skip
  clear hx0 vbs hgr
  have y0 := hy0.out _ hG1.out; have y1 := hy1.out _ hG1.out
  go_upto_region 3 with (first
    | (go_at_call 50; refine (op_yes b h1 h2 _).mono ?_; rintro e w2 ⟨rfl, hg⟩; have rs2 := rs1.kept0 hg; have vss2 := vss1.kept0 hg; have hG2 : Hid (w.grownBy w2 none) := Hid.mk' (gt hG1.out hg); clear y0 y1; have y0 := hy0.out _ hG2.out; have y1 := hy1.out _ hG2.out; clear rs1 hg vss1))
  go_upto_region 7 with (first
    | (go_at_call 50; refine (op_yes c h3 h4 _).mono ?_; rintro e w3 ⟨rfl, hg⟩; have rs3 := rs2.kept0 hg; have vss3 := vss2.kept0 hg; have hG3 : Hid (w.grownBy w3 none) := Hid.mk' (gt hG2.out hg); clear y0 y1; have y0 := hy0.out _ hG3.out; have y1 := hy1.out _ hG3.out; clear rs2 hg vss2))
  have hS : Hid (∀ wx, w3.grownBy wx none → wx.cell? ⟨g, o, none⟩ = some (.int .u8 (b : Int)) ∧ wx.cell? ⟨g, o + 1, none⟩ = some (.int .u8 (c : Int))) := Hid.mk' (fun wx hgx => ⟨hy0.out _ (gt hG3.out hgx), hy1.out _ (gt hG3.out hgx)⟩)
  have hD : w3.grownBy w3.drew none := gd (grownBy_refl w3 none)
  refine wp_region_held_drew (S := fun wx => wx.cell? ⟨g, o, none⟩ = some (.int .u8 (b : Int)) ∧ wx.cell? ⟨g, o + 1, none⟩ = some (.int .u8 (c : Int))) (by kernel_rfl) (hS.out _ hD) (fun hHeld => ?_)
  refine wpAnyH_take (i := 0) (v := ?_) rfl (by kernel_rfl) (by kernel_rfl) (by kernel_rfl) (fun _ _ _ h => h) (Or.inl ⟨by rfl, ?_⟩) (by assumption) ?_; rotate_left
  · (intro w hSw; (try dsimp only at hSw); go_simp; try with_reducible rfl)
  try simp only [List.getElem_toArray, List.getElem_cons_zero, Act.put, List.setIfInBounds_toArray, List.set_cons_zero, List.set_cons_succ]
  refine wpAnyH_take (i := 1) (v := ?_) rfl (by kernel_rfl) (by kernel_rfl) (by kernel_rfl) (fun _ _ _ h => h) (Or.inl ⟨by rfl, ?_⟩) (by assumption) ?_; rotate_left
  · (intro w hSw; (try dsimp only at hSw); go_simp; try with_reducible rfl)
  try simp only [List.getElem_toArray, List.getElem_cons_zero, List.getElem_cons_succ, Act.put, List.setIfInBounds_toArray, List.set_cons_zero, List.set_cons_succ]
  refine wpAnyH_take (i := 2) (v := ?_) rfl (by kernel_rfl) (by kernel_rfl) (by kernel_rfl) (fun _ _ _ h => h) (Or.inl ⟨by rfl, ?_⟩) (by assumption) ?_; rotate_left
  · (intro w hSw; (try dsimp only at hSw); go_simp; try with_reducible rfl)
  try simp only [List.getElem_toArray, List.getElem_cons_zero, List.getElem_cons_succ, Act.put, List.setIfInBounds_toArray, List.set_cons_zero, List.set_cons_succ]
  refine wpAnyH_take (i := 3) (v := ?_) rfl (by kernel_rfl) (by kernel_rfl) (by kernel_rfl) (fun _ _ _ h => h) (Or.inl ⟨by rfl, ?_⟩) (by assumption) ?_; rotate_left
  · (intro w hSw; (try dsimp only at hSw); go_simp; try with_reducible rfl)
  try simp only [List.getElem_toArray, List.getElem_cons_zero, List.getElem_cons_succ, Act.put, List.setIfInBounds_toArray, List.set_cons_zero, List.set_cons_succ]
  refine wpAnyH_take (i := 4) (v := ?_) rfl (by kernel_rfl) (by kernel_rfl) (by kernel_rfl) (fun _ _ _ h => h) (Or.inl ⟨by rfl, ?_⟩) (by assumption) ?_; rotate_left
  · (intro w hSw; (try dsimp only at hSw); go_simp; try with_reducible rfl)
  try simp only [List.getElem_toArray, List.getElem_cons_zero, List.getElem_cons_succ, Act.put, List.setIfInBounds_toArray, List.set_cons_zero, List.set_cons_succ]
  refine wpAnyH_take (i := 5) (v := ?_) rfl (by kernel_rfl) (by kernel_rfl) (by kernel_rfl) (fun _ _ _ h => h) (Or.inl ⟨by rfl, ?_⟩) (by assumption) ?_; rotate_left
  · (intro w hSw; (try dsimp only at hSw); go_simp; try with_reducible rfl)
  try simp only [List.getElem_toArray, List.getElem_cons_zero, List.getElem_cons_succ, Act.put, List.setIfInBounds_toArray, List.set_cons_zero, List.set_cons_succ]
  refine wpAnyH_take (i := 6) (v := ?_) rfl (by kernel_rfl) (by kernel_rfl) (by kernel_rfl) (fun _ _ _ h => h) (Or.inl ⟨by rfl, ?_⟩) (by assumption) ?_; rotate_left
  · (intro w hSw; (try dsimp only at hSw); go_simp; try with_reducible rfl)
  try simp only [List.getElem_toArray, List.getElem_cons_zero, List.getElem_cons_succ, Act.put, List.setIfInBounds_toArray, List.set_cons_zero, List.set_cons_succ]
  refine wpAnyH_take (i := 7) (v := ?_) rfl (by kernel_rfl) (by kernel_rfl) (by kernel_rfl) (fun _ _ _ h => h) (Or.inl ⟨by rfl, ?_⟩) (by assumption) ?_; rotate_left
  · (intro w hSw; (try dsimp only at hSw); go_simp; try with_reducible rfl)
  try simp only [List.getElem_toArray, List.getElem_cons_zero, List.getElem_cons_succ, Act.put, List.setIfInBounds_toArray, List.set_cons_zero, List.set_cons_succ]
  refine wpAnyH_take (i := 8) (v := ?_) rfl (by kernel_rfl) (by kernel_rfl) (by kernel_rfl) (fun _ _ _ h => h) (Or.inl ⟨by rfl, ?_⟩) (by assumption) ?_; rotate_left
  · (intro w hSw; (try dsimp only at hSw); go_simp; try with_reducible rfl)
  try simp only [List.getElem_toArray, List.getElem_cons_zero, List.getElem_cons_succ, Act.put, List.setIfInBounds_toArray, List.set_cons_zero, List.set_cons_succ]
  refine wpAnyH_take (i := 9) (v := ?_) rfl (by kernel_rfl) (by kernel_rfl) (by kernel_rfl) (fun _ _ _ h => h) (Or.inl ⟨by rfl, ?_⟩) (by assumption) ?_; rotate_left
  · (intro w hSw; (try dsimp only at hSw); go_simp; try with_reducible rfl)
  try simp only [List.getElem_toArray, List.getElem_cons_zero, List.getElem_cons_succ, Act.put, List.setIfInBounds_toArray, List.set_cons_zero, List.set_cons_succ]
  refine wpAnyH_take (i := 10) (v := ?_) rfl (by kernel_rfl) (by kernel_rfl) (by kernel_rfl) (fun _ _ _ h => h) (Or.inl ⟨by rfl, ?_⟩) (by assumption) ?_; rotate_left
  · (intro w hSw; (try dsimp only at hSw); go_simp; try with_reducible rfl)
  try simp only [List.getElem_toArray, List.getElem_cons_zero, List.getElem_cons_succ, Act.put, List.setIfInBounds_toArray, List.set_cons_zero, List.set_cons_succ]
  refine wpAnyH_ready (rs := [11]) (by kernel_rfl) (by simp) ?_
  refine AllReadyH.cons rfl (fun K hK => ?_) AllReadyH.nil
  go_simp
  go_at_call 38; refine (C16.pScalar x y (by unfold C16.I64; omega) _ none hR).mono ?_; rintro e w4 ⟨rfl, hg⟩; have hg4 : w3.grownBy w4 none := gt hD hg
  refine hK.out _ _ (hS.out _ hg4) (fun hHeld => ?_)
  clear hK K
  try simp only [List.getElem_toArray, List.getElem_cons_zero, List.getElem_cons_succ, Act.put, List.setIfInBounds_toArray, List.set_cons_zero, List.set_cons_succ]
  refine wpAnyH_take (i := 12) (v := ?_) rfl (by kernel_rfl) (by kernel_rfl) (by kernel_rfl) (fun _ _ _ h => h) (Or.inl ⟨by rfl, ?_⟩) (by assumption) ?_; rotate_left
  · (intro w hSw; (try dsimp only at hSw); go_simp; try with_reducible rfl)
  try simp only [List.getElem_toArray, List.getElem_cons_zero, List.getElem_cons_succ, Act.put, List.setIfInBounds_toArray, List.set_cons_zero, List.set_cons_succ]
  refine wpAnyH_take (i := 13) (v := ?_) rfl (by kernel_rfl) (by kernel_rfl) (by kernel_rfl) (fun _ _ _ h => h) (Or.inl ⟨by rfl, ?_⟩) (by assumption) ?_; rotate_left
  · (intro w hSw; (try dsimp only at hSw); go_simp; try with_reducible rfl)
  try simp only [List.getElem_toArray, List.getElem_cons_zero, List.getElem_cons_succ, Act.put, List.setIfInBounds_toArray, List.set_cons_zero, List.set_cons_succ]
  refine wpAnyH_take (i := 14) (v := ?_) rfl (by kernel_rfl) (by kernel_rfl) (by kernel_rfl) (fun _ _ _ h => h) (Or.inl ⟨by rfl, ?_⟩) (by assumption) ?_; rotate_left
  · (intro w hSw; (try dsimp only at hSw); go_simp; try with_reducible rfl)
  try simp only [List.getElem_toArray, List.getElem_cons_zero, List.getElem_cons_succ, Act.put, List.setIfInBounds_toArray, List.set_cons_zero, List.set_cons_succ]
  refine wpAnyH_take (i := 15) (v := ?_) rfl (by kernel_rfl) (by kernel_rfl) (by kernel_rfl) (fun _ _ _ h => h) (Or.inl ⟨by rfl, ?_⟩) (by assumption) ?_; rotate_left
  · (intro w hSw; (try dsimp only at hSw); go_simp; try with_reducible rfl)
  try simp only [List.getElem_toArray, List.getElem_cons_zero, List.getElem_cons_succ, Act.put, List.setIfInBounds_toArray, List.set_cons_zero, List.set_cons_succ]
  refine wpAnyH_take (i := 16) (v := ?_) rfl (by kernel_rfl) (by kernel_rfl) (by kernel_rfl) (fun _ _ _ h => h) (Or.inl ⟨by rfl, ?_⟩) (by assumption) ?_; rotate_left
  · (intro w hSw; (try dsimp only at hSw); go_simp; try with_reducible rfl)
  try simp only [List.getElem_toArray, List.getElem_cons_zero, List.getElem_cons_succ, Act.put, List.setIfInBounds_toArray, List.set_cons_zero, List.set_cons_succ]
  refine wpAnyH_done (by kernel_rfl) ?_ _
  have rs4 := rs3.kept0 hg4
  have vss4 := vss3.kept0 hg4
  have hG4 : Hid (w.grownBy w4 none) := Hid.mk' (gt hG3.out hg4)
  clear rs3 vss3 hg4 y0 y1
  have y0 := hy0.out _ hG4.out
  have y1 := hy1.out _ hG4.out
  go_wp2_with (first
    | (fail)
    | (go_at_call 21; refine (il_any 2 m _).mono ?_; rintro e w5 ⟨rfl, hg⟩; have rs5 := rs4.kept0 hg; have vss5 := vss4.kept0 hg; have hG5 : Hid (w.grownBy w5 none) := Hid.mk' (gt hG4.out hg); clear y0 y1; have y0 := hy0.out _ hG5.out; have y1 := hy1.out _ hG5.out; clear rs4 hg vss4)
    | (refine wpList_loadC _ rfl 24 _ rfl _ Try.underlying24 rfl Vs (sC m 0 0 0) infoS rfl (by assumption) ?_)
    | (refine wpList_storeC _ rfl 28 _ _ rfl B (gZ 0 0 0 0) (gM 10 2 0 0 m) infoG rfl (gC_one _ _ _ _ _ _ _ _ _) rfl rfl rs5 ?_; intro wz rsz hgz))
  refine bodyPost_ret (v := .agg (gM 10 2 0 0 m)) (results_cell_row Try.results34 _ wz B 28 _ (0, 0) _ rfl rsz Try.underlying28 rfl infoG) rfl ⟨rfl, ?_⟩
  exact grownBy_new hG5.out hgz (fun k hk => by have h5 := Option.some.inj hk; have h6 := hB2.out; omega)
set_option maxRecDepth 100000 in
set_option maxHeartbeats 1000000 in
theorem gr_somek (m : Int) (w : World) (g o : Nat) (b : Nat) (hb : b < 256) (hy0 : Hid (∀ wx, w.grownBy wx none → wx.cell? ⟨g, o, none⟩ = some (.int .u8 (b : Int)))) (c : Nat) (hc : c < 256) (hy1 : Hid (∀ wx, w.grownBy wx none → wx.cell? ⟨g, o + 1, none⟩ = some (.int .u8 (c : Int)))) (len cap : Nat) (hl2 : len ≤ cap) (hl3 : cap ≤ 9223372036854775807) (hl1 : 0 < len) (hl4 : 1 < len) (h1 : 33 ≤ b) (h2 : b ≤ 126) (h3 : 33 ≤ c) (h4 : c ≤ 126) (x y : Int) (hx : (b : Int) - 32 = x) (hyy : (c : Int) - 32 = y) (v : Nat) (hR : Hid (C16.scP x y = (some v))) : Calls Try.prog 34 #[stV m 0 0 0, .slice (some ⟨g, o, none⟩) len cap, .func (.func 38) #[] #[]] w fun e w' => e = .returned (.agg (gM 0 2 1 (v : Int) m)) ∧ w.grownBy w' none := by
  have hl8 : (0 : Int) < (len : Int) := by omega
  have hl9 : (1 : Int) < (len : Int) := by omega
  have hl10 : ((len : Int) == 1) = false := by simp; omega
  have e1 : (b : Int) - 32 = x := hx
  have e2 : (c : Int) - 32 = y := hyy
  have e5 : IntKind.i64.wrap (b : Int) = (b : Int) := by rw [IntKind.wrap_i64]; omega
  have e6 : IntKind.i64.wrap (c : Int) = (c : Int) := by rw [IntKind.wrap_i64]; omega
  have e3 : IntKind.i64.wrap x = x := by rw [IntKind.wrap_i64]; omega
  have e4 : IntKind.i64.wrap y = y := by rw [IntKind.wrap_i64]; omega
  go_enter Try.func34, Try.ntmps34
  go_upto_region 1 with (first
    | (refine wpList_boxC _ rfl 24 _ rfl (sC m 0 0 0) rfl ?_; intro x0 vbs hx0)
    | (refine wpList_allocC _ rfl 28 rfl (gZ 0 0 0 0) (zeroG _) ?_; intro w1 rs1 hgr))
  have hG1 : Hid (w.grownBy w1 none) := Hid.mk' (gt hx0 hgr)
  have vss1 := vbs.kept0 hgr
  have hB2 : Hid (w.heap.size ≤ x0.heap.size) := Hid.mk' (hx0.size)
  obtain ⟨Vs, hVs⟩ : ∃ V, Hid (w.heap.size = V) := ⟨_, Hid.mk' rfl⟩
  rw [hVs.out] at vss1
  rw [hVs.out]
  obtain ⟨B, hBe⟩ : ∃ B, Hid (x0.heap.size = B) := ⟨_, Hid.mk' rfl⟩
  replace hB2 : Hid (w.heap.size ≤ B) := Hid.mk' (by rw [← hBe.out]; exact hB2.out)
  rw [hBe.out] at rs1
  first | rw [hBe.out] | skip
  clear hx0 vbs hgr
  have y0 := hy0.out _ hG1.out; have y1 := hy1.out _ hG1.out
  go_upto_region 3 with (first
    | (go_at_call 50; refine (op_yes b h1 h2 _).mono ?_; rintro e w2 ⟨rfl, hg⟩; have rs2 := rs1.kept0 hg; have vss2 := vss1.kept0 hg; have hG2 : Hid (w.grownBy w2 none) := Hid.mk' (gt hG1.out hg); clear y0 y1; have y0 := hy0.out _ hG2.out; have y1 := hy1.out _ hG2.out; clear rs1 hg vss1))
  go_upto_region 7 with (first
    | (go_at_call 50; refine (op_yes c h3 h4 _).mono ?_; rintro e w3 ⟨rfl, hg⟩; have rs3 := rs2.kept0 hg; have vss3 := vss2.kept0 hg; have hG3 : Hid (w.grownBy w3 none) := Hid.mk' (gt hG2.out hg); clear y0 y1; have y0 := hy0.out _ hG3.out; have y1 := hy1.out _ hG3.out; clear rs2 hg vss2))
  have hS : Hid (∀ wx, w3.grownBy wx none → wx.cell? ⟨g, o, none⟩ = some (.int .u8 (b : Int)) ∧ wx.cell? ⟨g, o + 1, none⟩ = some (.int .u8 (c : Int))) := Hid.mk' (fun wx hgx => ⟨hy0.out _ (gt hG3.out hgx), hy1.out _ (gt hG3.out hgx)⟩)
  have hD : w3.grownBy w3.drew none := gd (grownBy_refl w3 none)
  refine wp_region_held_drew (S := fun wx => wx.cell? ⟨g, o, none⟩ = some (.int .u8 (b : Int)) ∧ wx.cell? ⟨g, o + 1, none⟩ = some (.int .u8 (c : Int))) (by kernel_rfl) (hS.out _ hD) (fun hHeld => ?_)
  refine wpAnyH_take (i := 0) (v := ?_) rfl (by kernel_rfl) (by kernel_rfl) (by kernel_rfl) (fun _ _ _ h => h) (Or.inl ⟨by rfl, ?_⟩) (by assumption) ?_; rotate_left
  · (intro w hSw; (try dsimp only at hSw); go_simp; try with_reducible rfl)
  try simp only [List.getElem_toArray, List.getElem_cons_zero, Act.put, List.setIfInBounds_toArray, List.set_cons_zero, List.set_cons_succ]
  refine wpAnyH_take (i := 1) (v := ?_) rfl (by kernel_rfl) (by kernel_rfl) (by kernel_rfl) (fun _ _ _ h => h) (Or.inl ⟨by rfl, ?_⟩) (by assumption) ?_; rotate_left
  · (intro w hSw; (try dsimp only at hSw); go_simp; try with_reducible rfl)
  try simp only [List.getElem_toArray, List.getElem_cons_zero, List.getElem_cons_succ, Act.put, List.setIfInBounds_toArray, List.set_cons_zero, List.set_cons_succ]
  refine wpAnyH_take (i := 2) (v := ?_) rfl (by kernel_rfl) (by kernel_rfl) (by kernel_rfl) (fun _ _ _ h => h) (Or.inl ⟨by rfl, ?_⟩) (by assumption) ?_; rotate_left
  · (intro w hSw; (try dsimp only at hSw); go_simp; try with_reducible rfl)
  try simp only [List.getElem_toArray, List.getElem_cons_zero, List.getElem_cons_succ, Act.put, List.setIfInBounds_toArray, List.set_cons_zero, List.set_cons_succ]
  refine wpAnyH_take (i := 3) (v := ?_) rfl (by kernel_rfl) (by kernel_rfl) (by kernel_rfl) (fun _ _ _ h => h) (Or.inl ⟨by rfl, ?_⟩) (by assumption) ?_; rotate_left
  · (intro w hSw; (try dsimp only at hSw); go_simp; try with_reducible rfl)
  try simp only [List.getElem_toArray, List.getElem_cons_zero, List.getElem_cons_succ, Act.put, List.setIfInBounds_toArray, List.set_cons_zero, List.set_cons_succ]
  refine wpAnyH_take (i := 4) (v := ?_) rfl (by kernel_rfl) (by kernel_rfl) (by kernel_rfl) (fun _ _ _ h => h) (Or.inl ⟨by rfl, ?_⟩) (by assumption) ?_; rotate_left
  · (intro w hSw; (try dsimp only at hSw); go_simp; try with_reducible rfl)
  try simp only [List.getElem_toArray, List.getElem_cons_zero, List.getElem_cons_succ, Act.put, List.setIfInBounds_toArray, List.set_cons_zero, List.set_cons_succ]
  refine wpAnyH_take (i := 5) (v := ?_) rfl (by kernel_rfl) (by kernel_rfl) (by kernel_rfl) (fun _ _ _ h => h) (Or.inl ⟨by rfl, ?_⟩) (by assumption) ?_; rotate_left
  · (intro w hSw; (try dsimp only at hSw); go_simp; try with_reducible rfl)
  try simp only [List.getElem_toArray, List.getElem_cons_zero, List.getElem_cons_succ, Act.put, List.setIfInBounds_toArray, List.set_cons_zero, List.set_cons_succ]
  refine wpAnyH_take (i := 6) (v := ?_) rfl (by kernel_rfl) (by kernel_rfl) (by kernel_rfl) (fun _ _ _ h => h) (Or.inl ⟨by rfl, ?_⟩) (by assumption) ?_; rotate_left
  · (intro w hSw; (try dsimp only at hSw); go_simp; try with_reducible rfl)
  try simp only [List.getElem_toArray, List.getElem_cons_zero, List.getElem_cons_succ, Act.put, List.setIfInBounds_toArray, List.set_cons_zero, List.set_cons_succ]
  refine wpAnyH_take (i := 7) (v := ?_) rfl (by kernel_rfl) (by kernel_rfl) (by kernel_rfl) (fun _ _ _ h => h) (Or.inl ⟨by rfl, ?_⟩) (by assumption) ?_; rotate_left
  · (intro w hSw; (try dsimp only at hSw); go_simp; try with_reducible rfl)
  try simp only [List.getElem_toArray, List.getElem_cons_zero, List.getElem_cons_succ, Act.put, List.setIfInBounds_toArray, List.set_cons_zero, List.set_cons_succ]
  refine wpAnyH_take (i := 8) (v := ?_) rfl (by kernel_rfl) (by kernel_rfl) (by kernel_rfl) (fun _ _ _ h => h) (Or.inl ⟨by rfl, ?_⟩) (by assumption) ?_; rotate_left
  · (intro w hSw; (try dsimp only at hSw); go_simp; try with_reducible rfl)
  try simp only [List.getElem_toArray, List.getElem_cons_zero, List.getElem_cons_succ, Act.put, List.setIfInBounds_toArray, List.set_cons_zero, List.set_cons_succ]
  refine wpAnyH_take (i := 9) (v := ?_) rfl (by kernel_rfl) (by kernel_rfl) (by kernel_rfl) (fun _ _ _ h => h) (Or.inl ⟨by rfl, ?_⟩) (by assumption) ?_; rotate_left
  · (intro w hSw; (try dsimp only at hSw); go_simp; try with_reducible rfl)
  try simp only [List.getElem_toArray, List.getElem_cons_zero, List.getElem_cons_succ, Act.put, List.setIfInBounds_toArray, List.set_cons_zero, List.set_cons_succ]
  refine wpAnyH_take (i := 10) (v := ?_) rfl (by kernel_rfl) (by kernel_rfl) (by kernel_rfl) (fun _ _ _ h => h) (Or.inl ⟨by rfl, ?_⟩) (by assumption) ?_; rotate_left
  · (intro w hSw; (try dsimp only at hSw); go_simp; try with_reducible rfl)
  try simp only [List.getElem_toArray, List.getElem_cons_zero, List.getElem_cons_succ, Act.put, List.setIfInBounds_toArray, List.set_cons_zero, List.set_cons_succ]
  refine wpAnyH_ready (rs := [11]) (by kernel_rfl) (by simp) ?_
  refine AllReadyH.cons rfl (fun K hK => ?_) AllReadyH.nil
  go_simp
  go_at_call 38; refine (C16.pScalar x y (by unfold C16.I64; omega) _ (some v) hR).mono ?_; rintro e w4 ⟨rfl, hg⟩; have hg4 : w3.grownBy w4 none := gt hD hg
  refine hK.out _ _ (hS.out _ hg4) (fun hHeld => ?_)
  clear hK K
  try simp only [List.getElem_toArray, List.getElem_cons_zero, List.getElem_cons_succ, Act.put, List.setIfInBounds_toArray, List.set_cons_zero, List.set_cons_succ]
  refine wpAnyH_take (i := 12) (v := ?_) rfl (by kernel_rfl) (by kernel_rfl) (by kernel_rfl) (fun _ _ _ h => h) (Or.inl ⟨by rfl, ?_⟩) (by assumption) ?_; rotate_left
  · (intro w hSw; (try dsimp only at hSw); go_simp; try with_reducible rfl)
  try simp only [List.getElem_toArray, List.getElem_cons_zero, List.getElem_cons_succ, Act.put, List.setIfInBounds_toArray, List.set_cons_zero, List.set_cons_succ]
  refine wpAnyH_take (i := 13) (v := ?_) rfl (by kernel_rfl) (by kernel_rfl) (by kernel_rfl) (fun _ _ _ h => h) (Or.inl ⟨by rfl, ?_⟩) (by assumption) ?_; rotate_left
  · (intro w hSw; (try dsimp only at hSw); go_simp; try with_reducible rfl)
  try simp only [List.getElem_toArray, List.getElem_cons_zero, List.getElem_cons_succ, Act.put, List.setIfInBounds_toArray, List.set_cons_zero, List.set_cons_succ]
  refine wpAnyH_take (i := 14) (v := ?_) rfl (by kernel_rfl) (by kernel_rfl) (by kernel_rfl) (fun _ _ _ h => h) (Or.inl ⟨by rfl, ?_⟩) (by assumption) ?_; rotate_left
  · (intro w hSw; (try dsimp only at hSw); go_simp; try with_reducible rfl)
  try simp only [List.getElem_toArray, List.getElem_cons_zero, List.getElem_cons_succ, Act.put, List.setIfInBounds_toArray, List.set_cons_zero, List.set_cons_succ]
  refine wpAnyH_take (i := 15) (v := ?_) rfl (by kernel_rfl) (by kernel_rfl) (by kernel_rfl) (fun _ _ _ h => h) (Or.inl ⟨by rfl, ?_⟩) (by assumption) ?_; rotate_left
  · (intro w hSw; (try dsimp only at hSw); go_simp; try with_reducible rfl)
  try simp only [List.getElem_toArray, List.getElem_cons_zero, List.getElem_cons_succ, Act.put, List.setIfInBounds_toArray, List.set_cons_zero, List.set_cons_succ]
  refine wpAnyH_take (i := 16) (v := ?_) rfl (by kernel_rfl) (by kernel_rfl) (by kernel_rfl) (fun _ _ _ h => h) (Or.inl ⟨by rfl, ?_⟩) (by assumption) ?_; rotate_left
  · (intro w hSw; (try dsimp only at hSw); go_simp; try with_reducible rfl)
  try simp only [List.getElem_toArray, List.getElem_cons_zero, List.getElem_cons_succ, Act.put, List.setIfInBounds_toArray, List.set_cons_zero, List.set_cons_succ]
  refine wpAnyH_done (by kernel_rfl) ?_ _
  have rs4 := rs3.kept0 hg4
  have vss4 := vss3.kept0 hg4
  have hG4 : Hid (w.grownBy w4 none) := Hid.mk' (gt hG3.out hg4)
  clear rs3 vss3 hg4 y0 y1
  have y0 := hy0.out _ hG4.out
  have y1 := hy1.out _ hG4.out
  go_wp2_with (first
    | (fail)
    | (refine wpList_loadC _ rfl 24 _ rfl _ Try.underlying24 rfl Vs (sC m 0 0 0) infoS rfl (by assumption) ?_)
    | (refine wpList_storeC _ rfl 28 _ _ rfl B (gZ 0 0 0 0) (gM 0 2 1 (v : Int) m) infoG rfl (gC_one _ _ _ _ _ _ _ _ _) rfl rfl rs4 ?_; intro wz rsz hgz))
  refine bodyPost_ret (v := .agg (gM 0 2 1 (v : Int) m)) (results_cell_row Try.results34 _ wz B 28 _ (0, 0) _ rfl rsz Try.underlying28 rfl infoG) rfl ⟨rfl, ?_⟩
  exact grownBy_new hG4.out hgz (fun k hk => by have h5 := Option.some.inj hk; have h6 := hB2.out; omega)
def rowsP (k : Int) (m : Nat) (b : Nat) (r : List UInt8) : Int × Int × Int × Int × Int := if b < 33 ∨ 126 < b then (0, 1, 1, (b : Int), (m : Int)) else pr k m b r
theorem gr_anyj (m : Nat) (g o cap : Nat) (b : UInt8) (r : List UInt8) (n : Nat) (hn : (b :: r).length = n) (w : World) (hB : Bytes w (some ⟨g, o, none⟩) (b :: r)) (hc : n ≤ cap) (hcm : cap ≤ 9223372036854775807) : Calls Try.prog 34 #[stV (m : Int) 0 0 0, .slice (some ⟨g, o, none⟩) n cap, .func (.func 35) #[] #[]] w fun e w' => e = .returned (gotV (rowsP 83 m b.toNat r)) ∧ w.grownBy w' none := by
  have hb := b.toNat_lt
  have hy0 : Hid (∀ wx, w.grownBy wx none → wx.cell? ⟨g, o, none⟩ = some (.int .u8 (b.toNat : Int))) := Hid.mk' (fun wx hg => by
    obtain ⟨g2, o2, e, hy⟩ := first_cell hB
    cases e
    exact hy wx hg)
  unfold rowsP
  by_cases h1 : b.toNat < 33 ∨ 126 < b.toNat
  · rw [if_pos h1]
    exact gr_itj m w g o b.toNat (by omega) hy0 n cap hc hcm (by rw [← hn]; simp) h1
  · rw [if_neg h1]
    cases r with
    | nil =>
      obtain rfl : n = 1 := by rw [← hn]; rfl
      exact gr_onej m w g o b.toNat (by omega) hy0 cap hc hcm (by omega) (by omega)
    | cons c r =>
      have hcb := c.toNat_lt
      have hn2 : 1 < n := by rw [← hn]; simp
      have hy1 : Hid (∀ wx, w.grownBy wx none → wx.cell? ⟨g, o + 1, none⟩ = some (.int .u8 (c.toNat : Int))) := Hid.mk' (second_cell hB)
      unfold pr
      simp only
      by_cases h2 : c.toNat < 33 ∨ 126 < c.toNat
      · rw [if_pos h2]
        exact gr_badj m w g o b.toNat (by omega) hy0 c.toNat (by omega) hy1 n cap hc hcm (by omega) hn2 (by omega) (by omega) h2
      · rw [if_neg h2]
        try rw [show (if (83 : Int) = 88 then C16.scP ((b.toNat : Int) - 32) ((c.toNat : Int) - 32) else C14.scP ((b.toNat : Int) - 32) ((c.toNat : Int) - 32)) = C14.scP ((b.toNat : Int) - 32) ((c.toNat : Int) - 32) from rfl]
        try simp only [if_true]
        cases hR : C14.scP ((b.toNat : Int) - 32) ((c.toNat : Int) - 32) with
        | none => exact gr_nonej m w g o b.toNat (by omega) hy0 c.toNat (by omega) hy1 n cap hc hcm (by omega) hn2 (by omega) (by omega) (by omega) (by omega) _ _ rfl rfl (Hid.mk' hR)
        | some v => exact gr_somej m w g o b.toNat (by omega) hy0 c.toNat (by omega) hy1 n cap hc hcm (by omega) hn2 (by omega) (by omega) (by omega) (by omega) _ _ rfl rfl v (Hid.mk' hR)
theorem gr_anyk (m : Nat) (g o cap : Nat) (b : UInt8) (r : List UInt8) (n : Nat) (hn : (b :: r).length = n) (w : World) (hB : Bytes w (some ⟨g, o, none⟩) (b :: r)) (hc : n ≤ cap) (hcm : cap ≤ 9223372036854775807) : Calls Try.prog 34 #[stV (m : Int) 0 0 0, .slice (some ⟨g, o, none⟩) n cap, .func (.func 38) #[] #[]] w fun e w' => e = .returned (gotV (rowsP 88 m b.toNat r)) ∧ w.grownBy w' none := by
  have hb := b.toNat_lt
  have hy0 : Hid (∀ wx, w.grownBy wx none → wx.cell? ⟨g, o, none⟩ = some (.int .u8 (b.toNat : Int))) := Hid.mk' (fun wx hg => by
    obtain ⟨g2, o2, e, hy⟩ := first_cell hB
    cases e
    exact hy wx hg)
  unfold rowsP
  by_cases h1 : b.toNat < 33 ∨ 126 < b.toNat
  · rw [if_pos h1]
    exact gr_itk m w g o b.toNat (by omega) hy0 n cap hc hcm (by rw [← hn]; simp) h1
  · rw [if_neg h1]
    cases r with
    | nil =>
      obtain rfl : n = 1 := by rw [← hn]; rfl
      exact gr_onek m w g o b.toNat (by omega) hy0 cap hc hcm (by omega) (by omega)
    | cons c r =>
      have hcb := c.toNat_lt
      have hn2 : 1 < n := by rw [← hn]; simp
      have hy1 : Hid (∀ wx, w.grownBy wx none → wx.cell? ⟨g, o + 1, none⟩ = some (.int .u8 (c.toNat : Int))) := Hid.mk' (second_cell hB)
      unfold pr
      simp only
      by_cases h2 : c.toNat < 33 ∨ 126 < c.toNat
      · rw [if_pos h2]
        exact gr_badk m w g o b.toNat (by omega) hy0 c.toNat (by omega) hy1 n cap hc hcm (by omega) hn2 (by omega) (by omega) h2
      · rw [if_neg h2]
        try rw [show (if (88 : Int) = 88 then C16.scP ((b.toNat : Int) - 32) ((c.toNat : Int) - 32) else C14.scP ((b.toNat : Int) - 32) ((c.toNat : Int) - 32)) = C16.scP ((b.toNat : Int) - 32) ((c.toNat : Int) - 32) from rfl]
        try simp only [if_true]
        cases hR : C16.scP ((b.toNat : Int) - 32) ((c.toNat : Int) - 32) with
        | none => exact gr_nonek m w g o b.toNat (by omega) hy0 c.toNat (by omega) hy1 n cap hc hcm (by omega) hn2 (by omega) (by omega) (by omega) (by omega) _ _ rfl rfl (Hid.mk' hR)
        | some v => exact gr_somek m w g o b.toNat (by omega) hy0 c.toNat (by omega) hy1 n cap hc hcm (by omega) hn2 (by omega) (by omega) (by omega) (by omega) _ _ rfl rfl v (Hid.mk' hR)
end Go.Proofs.Ytdobjijebalkkaa.C21

/- The program's getJP, getKR and Get of layer 21: walks; the contracts that the laws want. -/
namespace Go.Proofs.Ytdobjijebalkkaa.C21
open Go.ChangeShapes Go.WideShapes Go.ChangeAt Go.RowKit Go.Proofs.Ytdobjijebalkkaa.Mem Go.Proofs.Ytdobjijebalkkaa.Cb Go.Proofs.Ytdobjijebalkkaa.Sp Go.Proofs.Ytdobjijebalkkaa.Ar
set_option linter.unusedVariables false
set_option linter.unusedSimpArgs false

set_option maxRecDepth 100000 in
set_option maxHeartbeats 1000000 in
theorem gj_rows (w : World) (g o : Nat) (len cap : Nat) (hl2 : len ≤ cap) (hl3 : cap ≤ 9223372036854775807) (ge gn gk ga gd : Int) (a1 : Hid (∀ w1, w.grownBy w1 none → Calls Try.prog 34 #[stV 2 0 0 0, .slice (some ⟨g, o, none⟩) len cap, .func (.func 35) #[] #[]] w1 fun e w2 => e = .returned (.agg (gM ge gn gk ga gd)) ∧ w1.grownBy w2 none)) : Calls Try.prog 22 #[stV 2 0 0 0, .slice (some ⟨g, o, none⟩) len cap] w fun e w' => e = .returned (.agg (gM ge gn gk ga gd)) ∧ w.grownBy w' none := by
  go_enter Try.func22, Try.ntmps22
  go_upto_region 1 with (first
    | (refine wpList_boxC _ rfl 24 _ rfl (sC 2 0 0 0) rfl ?_; intro x0 vbs hx0)
    | (refine wpList_allocC _ rfl 28 rfl (gZ 0 0 0 0) (zeroG _) ?_; intro w1 rs1 hgr))
  have hG1 : Hid (w.grownBy w1 none) := Hid.mk' (gt hx0 hgr)
  have vss1 := vbs.kept0 hgr
  have hB2 : Hid (w.heap.size ≤ x0.heap.size) := Hid.mk' (hx0.size)
  obtain ⟨Vs, hVs⟩ : ∃ V, Hid (w.heap.size = V) := ⟨_, Hid.mk' rfl⟩
  rw [hVs.out] at vss1
  rw [hVs.out]
  obtain ⟨B, hBe⟩ : ∃ B, Hid (x0.heap.size = B) := ⟨_, Hid.mk' rfl⟩
  replace hB2 : Hid (w.heap.size ≤ B) := Hid.mk' (by rw [← hBe.out]; exact hB2.out)
  rw [hBe.out] at rs1
  first | rw [hBe.out] | skip
  clear hx0 vbs hgr
  have cs0 := vss1.cell 0 rfl
  go_wp2_with (first
    | (go_at_call 34; refine (a1.out _ hG1.out).mono ?_; rintro e w2 ⟨rfl, hg⟩; have rs2 := rs1.kept0 hg; have vss2 := vss1.kept0 hg; have hG2 : Hid (w.grownBy w2 none) := Hid.mk' (gt hG1.out hg); clear cs0; have cs0 := vss2.cell 0 rfl; clear rs1 hg vss1)
    | (refine wpList_loadC _ rfl 24 _ rfl _ Try.underlying24 rfl Vs (sC 2 0 0 0) infoS rfl (by assumption) ?_)
    | (refine wpList_storeC _ rfl 28 _ _ rfl B (gZ 0 0 0 0) (gM ge gn gk ga gd) infoG rfl (gC_one _ _ _ _ _ _ _ _ _) rfl rfl rs2 ?_; intro wz rsz hgz))
  refine bodyPost_ret (v := .agg (gM ge gn gk ga gd)) (results_cell_row Try.results22 _ wz B 28 _ (0, 0) _ rfl rsz Try.underlying28 rfl infoG) rfl ⟨rfl, ?_⟩
  exact grownBy_new hG2.out hgz (fun k hk => by have h5 := Option.some.inj hk; have h6 := hB2.out; omega)
set_option maxRecDepth 100000 in
set_option maxHeartbeats 1000000 in
theorem gk_rows (w : World) (g o : Nat) (len cap : Nat) (hl2 : len ≤ cap) (hl3 : cap ≤ 9223372036854775807) (ge gn gk ga gd : Int) (a1 : Hid (∀ w1, w.grownBy w1 none → Calls Try.prog 34 #[stV 2 0 0 0, .slice (some ⟨g, o, none⟩) len cap, .func (.func 38) #[] #[]] w1 fun e w2 => e = .returned (.agg (gM ge gn gk ga gd)) ∧ w1.grownBy w2 none)) : Calls Try.prog 23 #[stV 2 0 0 0, .slice (some ⟨g, o, none⟩) len cap] w fun e w' => e = .returned (.agg (gM ge gn gk ga gd)) ∧ w.grownBy w' none := by
  go_enter Try.func23, Try.ntmps23
  go_upto_region 1 with (first
    | (refine wpList_boxC _ rfl 24 _ rfl (sC 2 0 0 0) rfl ?_; intro x0 vbs hx0)
    | (refine wpList_allocC _ rfl 28 rfl (gZ 0 0 0 0) (zeroG _) ?_; intro w1 rs1 hgr))
  have hG1 : Hid (w.grownBy w1 none) := Hid.mk' (gt hx0 hgr)
  have vss1 := vbs.kept0 hgr
  have hB2 : Hid (w.heap.size ≤ x0.heap.size) := Hid.mk' (hx0.size)
  obtain ⟨Vs, hVs⟩ : ∃ V, Hid (w.heap.size = V) := ⟨_, Hid.mk' rfl⟩
  rw [hVs.out] at vss1
  rw [hVs.out]
  obtain ⟨B, hBe⟩ : ∃ B, Hid (x0.heap.size = B) := ⟨_, Hid.mk' rfl⟩
  replace hB2 : Hid (w.heap.size ≤ B) := Hid.mk' (by rw [← hBe.out]; exact hB2.out)
  rw [hBe.out] at rs1
  first | rw [hBe.out] | skip
  clear hx0 vbs hgr
  have cs0 := vss1.cell 0 rfl
  go_wp2_with (first
    | (go_at_call 34; refine (a1.out _ hG1.out).mono ?_; rintro e w2 ⟨rfl, hg⟩; have rs2 := rs1.kept0 hg; have vss2 := vss1.kept0 hg; have hG2 : Hid (w.grownBy w2 none) := Hid.mk' (gt hG1.out hg); clear cs0; have cs0 := vss2.cell 0 rfl; clear rs1 hg vss1)
    | (refine wpList_loadC _ rfl 24 _ rfl _ Try.underlying24 rfl Vs (sC 2 0 0 0) infoS rfl (by assumption) ?_)
    | (refine wpList_storeC _ rfl 28 _ _ rfl B (gZ 0 0 0 0) (gM ge gn gk ga gd) infoG rfl (gC_one _ _ _ _ _ _ _ _ _) rfl rfl rs2 ?_; intro wz rsz hgz))
  refine bodyPost_ret (v := .agg (gM ge gn gk ga gd)) (results_cell_row Try.results23 _ wz B 28 _ (0, 0) _ rfl rsz Try.underlying28 rfl infoG) rfl ⟨rfl, ?_⟩
  exact grownBy_new hG2.out hgz (fun k hk => by have h5 := Option.some.inj hk; have h6 := hB2.out; omega)
set_option maxRecDepth 100000 in
set_option maxHeartbeats 1000000 in
theorem gj_half (w : World) (g o : Nat) (b : Nat) (hb : b < 256) (hy0 : Hid (∀ wx, w.grownBy wx none → wx.cell? ⟨g, o, none⟩ = some (.int .u8 (b : Int)))) (len cap : Nat) (hl2 : len ≤ cap) (hl3 : cap ≤ 9223372036854775807) (hl1 : 0 < len) (v : Nat) (hh : Hid (C14.haR b = some v)) : Calls Try.prog 22 #[stV 1 0 0 0, .slice (some ⟨g, o, none⟩) len cap] w fun e w' => e = .returned (.agg (gM 0 1 1 (v : Int) 1)) ∧ w.grownBy w' none := by
  have hl8 : (0 : Int) < (len : Int) := by omega
  have a1 : Hid (∀ w, Calls Try.prog 36 #[.int .u8 (b : Int)] w fun e w' => e = .returned (.tuple #[.int .i32 (v : Int), .bool true]) ∧ w.grownBy w' none) := Hid.mk' (fun w => (C14.pHalf b hb w _ hh).mono (fun e w' h => ⟨h.1, by rw [h.2]; exact grownBy_refl _ _⟩))
  go_enter Try.func22, Try.ntmps22
  go_upto_region 1 with (first
    | (refine wpList_boxC _ rfl 24 _ rfl (sC 1 0 0 0) rfl ?_; intro x0 vbs hx0)
    | (refine wpList_allocC _ rfl 28 rfl (gZ 0 0 0 0) (zeroG _) ?_; intro w1 rs1 hgr))
  have hG1 : Hid (w.grownBy w1 none) := Hid.mk' (gt hx0 hgr)
  have vss1 := vbs.kept0 hgr
  have hB2 : Hid (w.heap.size ≤ x0.heap.size) := Hid.mk' (hx0.size)
  obtain ⟨Vs, hVs⟩ : ∃ V, Hid (w.heap.size = V) := ⟨_, Hid.mk' rfl⟩
  rw [hVs.out] at vss1
  rw [hVs.out]
  obtain ⟨B, hBe⟩ : ∃ B, Hid (x0.heap.size = B) := ⟨_, Hid.mk' rfl⟩
  replace hB2 : Hid (w.heap.size ≤ B) := Hid.mk' (by rw [← hBe.out]; exact hB2.out)
  rw [hBe.out] at rs1
  first | rw [hBe.out] | skip
  clear hx0 vbs hgr
  have y0 := hy0.out _ hG1.out; have cs0 := vss1.cell 0 rfl
  go_wp2_with (first
    | (go_at_call 36; refine (a1.out _).mono ?_; rintro e w2 ⟨rfl, hg⟩; have rs2 := rs1.kept0 hg; have vss2 := vss1.kept0 hg; have hG2 : Hid (w.grownBy w2 none) := Hid.mk' (gt hG1.out hg); clear y0 cs0; have y0 := hy0.out _ hG2.out; have cs0 := vss2.cell 0 rfl; clear rs1 hg vss1)
    | (refine wpList_loadC _ rfl 24 _ rfl _ Try.underlying24 rfl Vs (sC 1 0 0 0) infoS rfl (by assumption) ?_)
    | (refine wpList_storeC _ rfl 28 _ _ rfl B (gZ 0 0 0 0) (gM 0 1 1 (v : Int) 1) infoG rfl (gC_one _ _ _ _ _ _ _ _ _) rfl rfl rs2 ?_; intro wz rsz hgz))
  refine bodyPost_ret (v := .agg (gM 0 1 1 (v : Int) 1)) (results_cell_row Try.results22 _ wz B 28 _ (0, 0) _ rfl rsz Try.underlying28 rfl infoG) rfl ⟨rfl, ?_⟩
  exact grownBy_new hG2.out hgz (fun k hk => by have h5 := Option.some.inj hk; have h6 := hB2.out; omega)
set_option maxRecDepth 100000 in
set_option maxHeartbeats 1000000 in
theorem gj_it (w : World) (g o : Nat) (b : Nat) (hb : b < 256) (hy0 : Hid (∀ wx, w.grownBy wx none → wx.cell? ⟨g, o, none⟩ = some (.int .u8 (b : Int)))) (len cap : Nat) (hl2 : len ≤ cap) (hl3 : cap ≤ 9223372036854775807) (hl1 : 0 < len)  : Calls Try.prog 22 #[stV 0 0 0 0, .slice (some ⟨g, o, none⟩) len cap] w fun e w' => e = .returned (.agg (gM 0 1 1 (b : Int) 0)) ∧ w.grownBy w' none := by
  have hl8 : (0 : Int) < (len : Int) := by omega
  go_enter Try.func22, Try.ntmps22
  go_upto_region 1 with (first
    | (refine wpList_boxC _ rfl 24 _ rfl (sC 0 0 0 0) rfl ?_; intro x0 vbs hx0)
    | (refine wpList_allocC _ rfl 28 rfl (gZ 0 0 0 0) (zeroG _) ?_; intro w1 rs1 hgr))
  have hG1 : Hid (w.grownBy w1 none) := Hid.mk' (gt hx0 hgr)
  have vss1 := vbs.kept0 hgr
  have hB2 : Hid (w.heap.size ≤ x0.heap.size) := Hid.mk' (hx0.size)
  obtain ⟨Vs, hVs⟩ : ∃ V, Hid (w.heap.size = V) := ⟨_, Hid.mk' rfl⟩
  rw [hVs.out] at vss1
  rw [hVs.out]
  have hVB : Hid (Vs < x0.heap.size) := Hid.mk' (by rw [← hVs.out]; exact vbs.lt)
  obtain ⟨B, hBe⟩ : ∃ B, Hid (x0.heap.size = B) := ⟨_, Hid.mk' rfl⟩
  replace hB2 : Hid (w.heap.size ≤ B) := Hid.mk' (by rw [← hBe.out]; exact hB2.out)
  rw [hBe.out] at rs1 hVB
  first | rw [hBe.out] | skip
  clear hx0 vbs hgr
  have y0 := hy0.out _ hG1.out; have cs0 := vss1.cell 0 rfl
  go_upto_region 7 with fail
  have hS : Hid (∀ wx, w1.grownBy wx none → wx.cell? ⟨g, o, none⟩ = some (.int .u8 (b : Int)) ∧ wx.cell? ⟨Vs, 0, none⟩ = some (.int .i64 0) ∧ wx.cell? ⟨Vs, 1, none⟩ = some (.int .i64 0) ∧ wx.cell? ⟨Vs, 2, none⟩ = some (.int .u32 0) ∧ wx.cell? ⟨Vs, 3, none⟩ = some (.int .i32 0)) := Hid.mk' (fun wx hgx => ⟨hy0.out _ (gt hG1.out hgx), (vss1.kept0 hgx).cell 0 rfl, (vss1.kept0 hgx).cell 1 rfl, (vss1.kept0 hgx).cell 2 rfl, (vss1.kept0 hgx).cell 3 rfl⟩)
  have hD1 : w1.grownBy w1.drew none := gd (grownBy_refl w1 none)
  refine wp_region_held_drew (S := fun wx => wx.cell? ⟨g, o, none⟩ = some (.int .u8 (b : Int)) ∧ wx.cell? ⟨Vs, 0, none⟩ = some (.int .i64 0) ∧ wx.cell? ⟨Vs, 1, none⟩ = some (.int .i64 0) ∧ wx.cell? ⟨Vs, 2, none⟩ = some (.int .u32 0) ∧ wx.cell? ⟨Vs, 3, none⟩ = some (.int .i32 0)) (by kernel_rfl) (hS.out _ hD1) (fun hHeld => ?_)
  refine wpAnyH_take (i := 0) (v := ?_) rfl (by kernel_rfl) (by kernel_rfl) (by kernel_rfl) (fun _ _ _ h => h) (Or.inl ⟨by rfl, ?_⟩) (by assumption) ?_; rotate_left
  · (intro w hSw; (try dsimp only at hSw); go_simp; try with_reducible rfl)
  try simp only [List.getElem_toArray, List.getElem_cons_zero, Act.put, List.setIfInBounds_toArray, List.set_cons_zero, List.set_cons_succ]
  refine wpAnyH_take (i := 1) (v := ?_) rfl (by kernel_rfl) (by kernel_rfl) (by kernel_rfl) (fun _ _ _ h => h) (Or.inl ⟨by rfl, ?_⟩) (by assumption) ?_; rotate_left
  · (intro w hSw; (try dsimp only at hSw); go_simp; try with_reducible rfl)
  try simp only [List.getElem_toArray, List.getElem_cons_zero, List.getElem_cons_succ, Act.put, List.setIfInBounds_toArray, List.set_cons_zero, List.set_cons_succ]
  refine wpAnyH_take (i := 2) (v := ?_) rfl (by kernel_rfl) (by kernel_rfl) (by kernel_rfl) (fun _ _ _ h => h) (Or.inl ⟨by rfl, ?_⟩) (by assumption) ?_; rotate_left
  · (intro w hSw; (try dsimp only at hSw); go_simp; try with_reducible rfl)
  try simp only [List.getElem_toArray, List.getElem_cons_zero, List.getElem_cons_succ, Act.put, List.setIfInBounds_toArray, List.set_cons_zero, List.set_cons_succ]
  refine wpAnyH_take (i := 3) (v := ?_) rfl (by kernel_rfl) (by kernel_rfl) (by kernel_rfl) (fun _ _ _ h => h) (Or.inl ⟨by rfl, ?_⟩) (by assumption) ?_; rotate_left
  · (intro w hSw; (try dsimp only at hSw); go_simp; try with_reducible rfl)
  try simp only [List.getElem_toArray, List.getElem_cons_zero, List.getElem_cons_succ, Act.put, List.setIfInBounds_toArray, List.set_cons_zero, List.set_cons_succ]
  refine wpAnyH_ready (rs := [4]) (by kernel_rfl) (by simp) ?_
  refine AllReadyH.cons rfl (fun K hK => ?_) AllReadyH.nil
  go_simp
  go_at_call 37; refine (it_any b hb 0 _).mono ?_; rintro e x4 ⟨rfl, hg⟩; have hx4 : w1.grownBy x4 none := gt hD1 hg
  refine hK.out _ _ (hS.out _ hx4) (fun hHeld => ?_)
  clear hK K
  try simp only [List.getElem_toArray, List.getElem_cons_zero, List.getElem_cons_succ, Act.put, List.setIfInBounds_toArray, List.set_cons_zero, List.set_cons_succ]
  refine wpAnyH_ready (rs := [5]) (by kernel_rfl) (by simp) ?_
  refine AllReadyH.cons rfl (fun K hK => ?_) AllReadyH.nil
  refine step_storeC (by rfl) 28 _ _ rfl B (gZ 0 0 0 0) (gM 0 1 1 (b : Int) 0) infoG rfl (gC_one _ _ _ _ _ _ _ _ _) rfl rfl (rs1.kept0 hx4) ?_; intro wz rsz hgz; have vsz := (vss1.kept0 hx4).kept hgz (by intro e; have h5 := Option.some.inj e; have h6 := rs1.lt; have h7 := hVB.out; omega); have hb1 := World.block_lt_of_cell? w ⟨g, o, none⟩ (hy0.out _ (grownBy_refl _ _)); have hyz := hgz.cell (hy0.out _ (gt hG1.out hx4)) (by intro e; have h5 := Option.some.inj e; have h6 := hB2.out; have h7 : g < w.heap.size := hb1; have h8 : g = B := h5; omega)
  refine hK.out _ _ ⟨hyz, vsz.cell 0 rfl, vsz.cell 1 rfl, vsz.cell 2 rfl, vsz.cell 3 rfl⟩ (fun hHeld => ?_)
  clear hK K
  try simp only [List.getElem_toArray, List.getElem_cons_zero, List.getElem_cons_succ, Act.put, List.setIfInBounds_toArray, List.set_cons_zero, List.set_cons_succ]
  refine wpAnyH_done (by kernel_rfl) ?_ _
  (try go_wp2)
  refine bodyPost_ret (v := .agg (gM 0 1 1 (b : Int) 0)) (results_cell_row Try.results22 _ wz B 28 _ (0, 0) _ rfl rsz Try.underlying28 rfl infoG) rfl ⟨rfl, ?_⟩
  exact grownBy_new (gt hG1.out hx4) hgz (fun k hk => by have h5 := Option.some.inj hk; have h6 := hB2.out; omega)
set_option maxRecDepth 100000 in
set_option maxHeartbeats 1000000 in
theorem gk_s14_0 (w : World) (g o : Nat) (hy0 : Hid (∀ wx, w.grownBy wx none → wx.cell? ⟨g, o, none⟩ = some (.int .u8 14))) (len cap : Nat) (hl2 : len ≤ cap) (hl3 : cap ≤ 9223372036854775807) (hl1 : 0 < len)  : Calls Try.prog 23 #[stV 0 0 0 0, .slice (some ⟨g, o, none⟩) len cap] w fun e w' => e = .returned (.agg (gM 10 1 0 0 0)) ∧ w.grownBy w' none := by
  have hl8 : (0 : Int) < (len : Int) := by omega
  go_enter Try.func23, Try.ntmps23
  go_upto_region 1 with (first
    | (refine wpList_boxC _ rfl 24 _ rfl (sC 0 0 0 0) rfl ?_; intro x0 vbs hx0)
    | (refine wpList_allocC _ rfl 28 rfl (gZ 0 0 0 0) (zeroG _) ?_; intro w1 rs1 hgr))
  have hG1 : Hid (w.grownBy w1 none) := Hid.mk' (gt hx0 hgr)
  have vss1 := vbs.kept0 hgr
  have hB2 : Hid (w.heap.size ≤ x0.heap.size) := Hid.mk' (hx0.size)
  obtain ⟨Vs, hVs⟩ : ∃ V, Hid (w.heap.size = V) := ⟨_, Hid.mk' rfl⟩
  rw [hVs.out] at vss1
  rw [hVs.out]
  obtain ⟨B, hBe⟩ : ∃ B, Hid (x0.heap.size = B) := ⟨_, Hid.mk' rfl⟩
  replace hB2 : Hid (w.heap.size ≤ B) := Hid.mk' (by rw [← hBe.out]; exact hB2.out)
  rw [hBe.out] at rs1
  first | rw [hBe.out] | skip
  clear hx0 vbs hgr
  have y0 := hy0.out _ hG1.out; have cs0 := vss1.cell 0 rfl
  go_wp2_with (first
    | (go_at_call 39; refine (sh_14 _).mono ?_; rintro e w2 ⟨rfl, hg⟩; have rs2 := rs1.kept0 hg; have vss2 := vss1.kept0 hg; have hG2 : Hid (w.grownBy w2 none) := Hid.mk' (gt hG1.out hg); clear y0 cs0; have y0 := hy0.out _ hG2.out; have cs0 := vss2.cell 0 rfl; clear rs1 hg vss1)
    | (go_at_call 21; refine (il_any 1 0 _).mono ?_; rintro e w3 ⟨rfl, hg⟩; have rs3 := rs2.kept0 hg; have vss3 := vss2.kept0 hg; have hG3 : Hid (w.grownBy w3 none) := Hid.mk' (gt hG2.out hg); clear y0 cs0; have y0 := hy0.out _ hG3.out; have cs0 := vss3.cell 0 rfl; clear rs2 hg vss2)
    | (refine wpList_loadC _ rfl 24 _ rfl _ Try.underlying24 rfl Vs (sC 0 0 0 0) infoS rfl (by assumption) ?_)
    | (refine wpList_storeC _ rfl 28 _ _ rfl B (gZ 0 0 0 0) (gM 10 1 0 0 0) infoG rfl (gC_one _ _ _ _ _ _ _ _ _) rfl rfl rs3 ?_; intro wz rsz hgz))
  refine bodyPost_ret (v := .agg (gM 10 1 0 0 0)) (results_cell_row Try.results23 _ wz B 28 _ (0, 0) _ rfl rsz Try.underlying28 rfl infoG) rfl ⟨rfl, ?_⟩
  exact grownBy_new hG3.out hgz (fun k hk => by have h5 := Option.some.inj hk; have h6 := hB2.out; omega)
set_option maxRecDepth 100000 in
set_option maxHeartbeats 1000000 in
theorem gk_s15_0 (w : World) (g o : Nat) (hy0 : Hid (∀ wx, w.grownBy wx none → wx.cell? ⟨g, o, none⟩ = some (.int .u8 15))) (len cap : Nat) (hl2 : len ≤ cap) (hl3 : cap ≤ 9223372036854775807) (hl1 : 0 < len)  : Calls Try.prog 23 #[stV 0 0 0 0, .slice (some ⟨g, o, none⟩) len cap] w fun e w' => e = .returned (.agg (gM 10 1 0 0 0)) ∧ w.grownBy w' none := by
  have hl8 : (0 : Int) < (len : Int) := by omega
  go_enter Try.func23, Try.ntmps23
  go_upto_region 1 with (first
    | (refine wpList_boxC _ rfl 24 _ rfl (sC 0 0 0 0) rfl ?_; intro x0 vbs hx0)
    | (refine wpList_allocC _ rfl 28 rfl (gZ 0 0 0 0) (zeroG _) ?_; intro w1 rs1 hgr))
  have hG1 : Hid (w.grownBy w1 none) := Hid.mk' (gt hx0 hgr)
  have vss1 := vbs.kept0 hgr
  have hB2 : Hid (w.heap.size ≤ x0.heap.size) := Hid.mk' (hx0.size)
  obtain ⟨Vs, hVs⟩ : ∃ V, Hid (w.heap.size = V) := ⟨_, Hid.mk' rfl⟩
  rw [hVs.out] at vss1
  rw [hVs.out]
  obtain ⟨B, hBe⟩ : ∃ B, Hid (x0.heap.size = B) := ⟨_, Hid.mk' rfl⟩
  replace hB2 : Hid (w.heap.size ≤ B) := Hid.mk' (by rw [← hBe.out]; exact hB2.out)
  rw [hBe.out] at rs1
  first | rw [hBe.out] | skip
  clear hx0 vbs hgr
  have y0 := hy0.out _ hG1.out; have cs0 := vss1.cell 0 rfl
  go_wp2_with (first
    | (go_at_call 39; refine (sh_15 _).mono ?_; rintro e w2 ⟨rfl, hg⟩; have rs2 := rs1.kept0 hg; have vss2 := vss1.kept0 hg; have hG2 : Hid (w.grownBy w2 none) := Hid.mk' (gt hG1.out hg); clear y0 cs0; have y0 := hy0.out _ hG2.out; have cs0 := vss2.cell 0 rfl; clear rs1 hg vss1)
    | (go_at_call 21; refine (il_any 1 0 _).mono ?_; rintro e w3 ⟨rfl, hg⟩; have rs3 := rs2.kept0 hg; have vss3 := vss2.kept0 hg; have hG3 : Hid (w.grownBy w3 none) := Hid.mk' (gt hG2.out hg); clear y0 cs0; have y0 := hy0.out _ hG3.out; have cs0 := vss3.cell 0 rfl; clear rs2 hg vss2)
    | (refine wpList_loadC _ rfl 24 _ rfl _ Try.underlying24 rfl Vs (sC 0 0 0 0) infoS rfl (by assumption) ?_)
    | (refine wpList_storeC _ rfl 28 _ _ rfl B (gZ 0 0 0 0) (gM 10 1 0 0 0) infoG rfl (gC_one _ _ _ _ _ _ _ _ _) rfl rfl rs3 ?_; intro wz rsz hgz))
  refine bodyPost_ret (v := .agg (gM 10 1 0 0 0)) (results_cell_row Try.results23 _ wz B 28 _ (0, 0) _ rfl rsz Try.underlying28 rfl infoG) rfl ⟨rfl, ?_⟩
  exact grownBy_new hG3.out hgz (fun k hk => by have h5 := Option.some.inj hk; have h6 := hB2.out; omega)
set_option maxRecDepth 100000 in
set_option maxHeartbeats 1000000 in
theorem gk_it_0 (w : World) (g o : Nat) (b : Nat) (hb : b < 256) (hy0 : Hid (∀ wx, w.grownBy wx none → wx.cell? ⟨g, o, none⟩ = some (.int .u8 (b : Int)))) (len cap : Nat) (hl2 : len ≤ cap) (hl3 : cap ≤ 9223372036854775807) (hl1 : 0 < len) (h1 : b ≠ 14) (h2 : b ≠ 15) : Calls Try.prog 23 #[stV 0 0 0 0, .slice (some ⟨g, o, none⟩) len cap] w fun e w' => e = .returned (.agg (gM 0 1 1 (b : Int) 1)) ∧ w.grownBy w' none := by
  have hl8 : (0 : Int) < (len : Int) := by omega
  have p2 : IntKind.i32.wrap (b : Int) = (b : Int) := by rw [IntKind.wrap_i32]; omega
  go_enter Try.func23, Try.ntmps23
  go_upto_region 1 with (first
    | (refine wpList_boxC _ rfl 24 _ rfl (sC 0 0 0 0) rfl ?_; intro x0 vbs hx0)
    | (refine wpList_allocC _ rfl 28 rfl (gZ 0 0 0 0) (zeroG _) ?_; intro w1 rs1 hgr))
  have hG1 : Hid (w.grownBy w1 none) := Hid.mk' (gt hx0 hgr)
  have vss1 := vbs.kept0 hgr
  have hB2 : Hid (w.heap.size ≤ x0.heap.size) := Hid.mk' (hx0.size)
  obtain ⟨Vs, hVs⟩ : ∃ V, Hid (w.heap.size = V) := ⟨_, Hid.mk' rfl⟩
  rw [hVs.out] at vss1
  rw [hVs.out]
  have hVB : Hid (Vs < x0.heap.size) := Hid.mk' (by rw [← hVs.out]; exact vbs.lt)
  obtain ⟨B, hBe⟩ : ∃ B, Hid (x0.heap.size = B) := ⟨_, Hid.mk' rfl⟩
  replace hB2 : Hid (w.heap.size ≤ B) := Hid.mk' (by rw [← hBe.out]; exact hB2.out)
  rw [hBe.out] at rs1 hVB
  first | rw [hBe.out] | skip
  clear hx0 vbs hgr
  have y0 := hy0.out _ hG1.out; have cs0 := vss1.cell 0 rfl
  go_upto_region 5 with (first
    | (go_at_call 39; refine (sh_no (b : Int) (by omega) (by omega) _).mono ?_; rintro e w2 ⟨rfl, hg⟩; have rs2 := rs1.kept0 hg; have vss2 := vss1.kept0 hg; have hG2 : Hid (w.grownBy w2 none) := Hid.mk' (gt hG1.out hg); clear y0 cs0; have y0 := hy0.out _ hG2.out; have cs0 := vss2.cell 0 rfl; clear rs1 hg vss1))
  have hS : Hid (∀ wx, w2.grownBy wx none → wx.cell? ⟨g, o, none⟩ = some (.int .u8 (b : Int)) ∧ wx.cell? ⟨Vs, 0, none⟩ = some (.int .i64 0) ∧ wx.cell? ⟨Vs, 1, none⟩ = some (.int .i64 0) ∧ wx.cell? ⟨Vs, 2, none⟩ = some (.int .u32 0) ∧ wx.cell? ⟨Vs, 3, none⟩ = some (.int .i32 0)) := Hid.mk' (fun wx hgx => ⟨hy0.out _ (gt hG2.out hgx), (vss2.kept0 hgx).cell 0 rfl, (vss2.kept0 hgx).cell 1 rfl, (vss2.kept0 hgx).cell 2 rfl, (vss2.kept0 hgx).cell 3 rfl⟩)
  have hD2 : w2.grownBy w2.drew none := gd (grownBy_refl w2 none)
  refine wp_region_held_drew (S := fun wx => wx.cell? ⟨g, o, none⟩ = some (.int .u8 (b : Int)) ∧ wx.cell? ⟨Vs, 0, none⟩ = some (.int .i64 0) ∧ wx.cell? ⟨Vs, 1, none⟩ = some (.int .i64 0) ∧ wx.cell? ⟨Vs, 2, none⟩ = some (.int .u32 0) ∧ wx.cell? ⟨Vs, 3, none⟩ = some (.int .i32 0)) (by kernel_rfl) (hS.out _ hD2) (fun hHeld => ?_)
  refine wpAnyH_take (i := 0) (v := ?_) rfl (by kernel_rfl) (by kernel_rfl) (by kernel_rfl) (fun _ _ _ h => h) (Or.inl ⟨by rfl, ?_⟩) (by assumption) ?_; rotate_left
  · (intro w hSw; (try dsimp only at hSw); go_simp; try with_reducible rfl)
  try simp only [List.getElem_toArray, List.getElem_cons_zero, Act.put, List.setIfInBounds_toArray, List.set_cons_zero, List.set_cons_succ]
  refine wpAnyH_take (i := 1) (v := ?_) rfl (by kernel_rfl) (by kernel_rfl) (by kernel_rfl) (fun _ _ _ h => h) (Or.inl ⟨by rfl, ?_⟩) (by assumption) ?_; rotate_left
  · (intro w hSw; (try dsimp only at hSw); go_simp; try with_reducible rfl)
  try simp only [List.getElem_toArray, List.getElem_cons_zero, List.getElem_cons_succ, Act.put, List.setIfInBounds_toArray, List.set_cons_zero, List.set_cons_succ]
  refine wpAnyH_take (i := 2) (v := ?_) rfl (by kernel_rfl) (by kernel_rfl) (by kernel_rfl) (fun _ _ _ h => h) (Or.inl ⟨by rfl, ?_⟩) (by assumption) ?_; rotate_left
  · (intro w hSw; (try dsimp only at hSw); go_simp; try with_reducible rfl)
  try simp only [List.getElem_toArray, List.getElem_cons_zero, List.getElem_cons_succ, Act.put, List.setIfInBounds_toArray, List.set_cons_zero, List.set_cons_succ]
  refine wpAnyH_ready (rs := [3]) (by kernel_rfl) (by simp) ?_
  refine AllReadyH.cons rfl (fun K hK => ?_) AllReadyH.nil
  go_simp
  go_at_call 20; refine (p_in 1 _).mono ?_; rintro e x3 ⟨rfl, hg⟩; have hx3 : w2.grownBy x3 none := gt hD2 hg
  refine hK.out _ _ (hS.out _ hx3) (fun hHeld => ?_)
  clear hK K
  try simp only [List.getElem_toArray, List.getElem_cons_zero, List.getElem_cons_succ, Act.put, List.setIfInBounds_toArray, List.set_cons_zero, List.set_cons_succ]
  refine wpAnyH_ready (rs := [4]) (by kernel_rfl) (by simp) ?_
  refine AllReadyH.cons rfl (fun K hK => ?_) AllReadyH.nil
  go_simp
  go_at_call 37; refine (it_any b hb 1 _).mono ?_; rintro e x4 ⟨rfl, hg⟩; have hx4 : w2.grownBy x4 none := gt hx3 hg
  refine hK.out _ _ (hS.out _ hx4) (fun hHeld => ?_)
  clear hK K
  try simp only [List.getElem_toArray, List.getElem_cons_zero, List.getElem_cons_succ, Act.put, List.setIfInBounds_toArray, List.set_cons_zero, List.set_cons_succ]
  refine wpAnyH_ready (rs := [5]) (by kernel_rfl) (by simp) ?_
  refine AllReadyH.cons rfl (fun K hK => ?_) AllReadyH.nil
  refine step_storeC (by rfl) 28 _ _ rfl B (gZ 0 0 0 0) (gM 0 1 1 (b : Int) 1) infoG rfl (gC_one _ _ _ _ _ _ _ _ _) rfl rfl (rs2.kept0 hx4) ?_; intro wz rsz hgz; have vsz := (vss2.kept0 hx4).kept hgz (by intro e; have h5 := Option.some.inj e; have h6 := rs2.lt; have h7 := hVB.out; omega); have hb1 := World.block_lt_of_cell? w ⟨g, o, none⟩ (hy0.out _ (grownBy_refl _ _)); have hyz := hgz.cell (hy0.out _ (gt hG2.out hx4)) (by intro e; have h5 := Option.some.inj e; have h6 := hB2.out; have h7 : g < w.heap.size := hb1; have h8 : g = B := h5; omega)
  refine hK.out _ _ ⟨hyz, vsz.cell 0 rfl, vsz.cell 1 rfl, vsz.cell 2 rfl, vsz.cell 3 rfl⟩ (fun hHeld => ?_)
  clear hK K
  try simp only [List.getElem_toArray, List.getElem_cons_zero, List.getElem_cons_succ, Act.put, List.setIfInBounds_toArray, List.set_cons_zero, List.set_cons_succ]
  refine wpAnyH_done (by kernel_rfl) ?_ _
  (try go_wp2)
  refine bodyPost_ret (v := .agg (gM 0 1 1 (b : Int) 1)) (results_cell_row Try.results23 _ wz B 28 _ (0, 0) _ rfl rsz Try.underlying28 rfl infoG) rfl ⟨rfl, ?_⟩
  exact grownBy_new (gt hG2.out hx4) hgz (fun k hk => by have h5 := Option.some.inj hk; have h6 := hB2.out; omega)
set_option maxRecDepth 100000 in
set_option maxHeartbeats 1000000 in
theorem gk_s14_1 (w : World) (g o : Nat) (hy0 : Hid (∀ wx, w.grownBy wx none → wx.cell? ⟨g, o, none⟩ = some (.int .u8 14))) (len cap : Nat) (hl2 : len ≤ cap) (hl3 : cap ≤ 9223372036854775807) (hl1 : 0 < len)  : Calls Try.prog 23 #[stV 1 0 0 0, .slice (some ⟨g, o, none⟩) len cap] w fun e w' => e = .returned (.agg (gM 10 1 0 0 1)) ∧ w.grownBy w' none := by
  have hl8 : (0 : Int) < (len : Int) := by omega
  go_enter Try.func23, Try.ntmps23
  go_upto_region 1 with (first
    | (refine wpList_boxC _ rfl 24 _ rfl (sC 1 0 0 0) rfl ?_; intro x0 vbs hx0)
    | (refine wpList_allocC _ rfl 28 rfl (gZ 0 0 0 0) (zeroG _) ?_; intro w1 rs1 hgr))
  have hG1 : Hid (w.grownBy w1 none) := Hid.mk' (gt hx0 hgr)
  have vss1 := vbs.kept0 hgr
  have hB2 : Hid (w.heap.size ≤ x0.heap.size) := Hid.mk' (hx0.size)
  obtain ⟨Vs, hVs⟩ : ∃ V, Hid (w.heap.size = V) := ⟨_, Hid.mk' rfl⟩
  rw [hVs.out] at vss1
  rw [hVs.out]
  obtain ⟨B, hBe⟩ : ∃ B, Hid (x0.heap.size = B) := ⟨_, Hid.mk' rfl⟩
  replace hB2 : Hid (w.heap.size ≤ B) := Hid.mk' (by rw [← hBe.out]; exact hB2.out)
  rw [hBe.out] at rs1
  first | rw [hBe.out] | skip
  clear hx0 vbs hgr
  have y0 := hy0.out _ hG1.out; have cs0 := vss1.cell 0 rfl
  go_wp2_with (first
    | (go_at_call 39; refine (sh_14 _).mono ?_; rintro e w2 ⟨rfl, hg⟩; have rs2 := rs1.kept0 hg; have vss2 := vss1.kept0 hg; have hG2 : Hid (w.grownBy w2 none) := Hid.mk' (gt hG1.out hg); clear y0 cs0; have y0 := hy0.out _ hG2.out; have cs0 := vss2.cell 0 rfl; clear rs1 hg vss1)
    | (go_at_call 21; refine (il_any 1 1 _).mono ?_; rintro e w3 ⟨rfl, hg⟩; have rs3 := rs2.kept0 hg; have vss3 := vss2.kept0 hg; have hG3 : Hid (w.grownBy w3 none) := Hid.mk' (gt hG2.out hg); clear y0 cs0; have y0 := hy0.out _ hG3.out; have cs0 := vss3.cell 0 rfl; clear rs2 hg vss2)
    | (refine wpList_loadC _ rfl 24 _ rfl _ Try.underlying24 rfl Vs (sC 1 0 0 0) infoS rfl (by assumption) ?_)
    | (refine wpList_storeC _ rfl 28 _ _ rfl B (gZ 0 0 0 0) (gM 10 1 0 0 1) infoG rfl (gC_one _ _ _ _ _ _ _ _ _) rfl rfl rs3 ?_; intro wz rsz hgz))
  refine bodyPost_ret (v := .agg (gM 10 1 0 0 1)) (results_cell_row Try.results23 _ wz B 28 _ (0, 0) _ rfl rsz Try.underlying28 rfl infoG) rfl ⟨rfl, ?_⟩
  exact grownBy_new hG3.out hgz (fun k hk => by have h5 := Option.some.inj hk; have h6 := hB2.out; omega)
set_option maxRecDepth 100000 in
set_option maxHeartbeats 1000000 in
theorem gk_s15_1 (w : World) (g o : Nat) (hy0 : Hid (∀ wx, w.grownBy wx none → wx.cell? ⟨g, o, none⟩ = some (.int .u8 15))) (len cap : Nat) (hl2 : len ≤ cap) (hl3 : cap ≤ 9223372036854775807) (hl1 : 0 < len)  : Calls Try.prog 23 #[stV 1 0 0 0, .slice (some ⟨g, o, none⟩) len cap] w fun e w' => e = .returned (.agg (gM 10 1 0 0 1)) ∧ w.grownBy w' none := by
  have hl8 : (0 : Int) < (len : Int) := by omega
  go_enter Try.func23, Try.ntmps23
  go_upto_region 1 with (first
    | (refine wpList_boxC _ rfl 24 _ rfl (sC 1 0 0 0) rfl ?_; intro x0 vbs hx0)
    | (refine wpList_allocC _ rfl 28 rfl (gZ 0 0 0 0) (zeroG _) ?_; intro w1 rs1 hgr))
  have hG1 : Hid (w.grownBy w1 none) := Hid.mk' (gt hx0 hgr)
  have vss1 := vbs.kept0 hgr
  have hB2 : Hid (w.heap.size ≤ x0.heap.size) := Hid.mk' (hx0.size)
  obtain ⟨Vs, hVs⟩ : ∃ V, Hid (w.heap.size = V) := ⟨_, Hid.mk' rfl⟩
  rw [hVs.out] at vss1
  rw [hVs.out]
  obtain ⟨B, hBe⟩ : ∃ B, Hid (x0.heap.size = B) := ⟨_, Hid.mk' rfl⟩
  replace hB2 : Hid (w.heap.size ≤ B) := Hid.mk' (by rw [← hBe.out]; exact hB2.out)
  rw [hBe.out] at rs1
  first | rw [hBe.out] | skip
  clear hx0 vbs hgr
  have y0 := hy0.out _ hG1.out; have cs0 := vss1.cell 0 rfl
  go_wp2_with (first
    | (go_at_call 39; refine (sh_15 _).mono ?_; rintro e w2 ⟨rfl, hg⟩; have rs2 := rs1.kept0 hg; have vss2 := vss1.kept0 hg; have hG2 : Hid (w.grownBy w2 none) := Hid.mk' (gt hG1.out hg); clear y0 cs0; have y0 := hy0.out _ hG2.out; have cs0 := vss2.cell 0 rfl; clear rs1 hg vss1)
    | (go_at_call 21; refine (il_any 1 1 _).mono ?_; rintro e w3 ⟨rfl, hg⟩; have rs3 := rs2.kept0 hg; have vss3 := vss2.kept0 hg; have hG3 : Hid (w.grownBy w3 none) := Hid.mk' (gt hG2.out hg); clear y0 cs0; have y0 := hy0.out _ hG3.out; have cs0 := vss3.cell 0 rfl; clear rs2 hg vss2)
    | (refine wpList_loadC _ rfl 24 _ rfl _ Try.underlying24 rfl Vs (sC 1 0 0 0) infoS rfl (by assumption) ?_)
    | (refine wpList_storeC _ rfl 28 _ _ rfl B (gZ 0 0 0 0) (gM 10 1 0 0 1) infoG rfl (gC_one _ _ _ _ _ _ _ _ _) rfl rfl rs3 ?_; intro wz rsz hgz))
  refine bodyPost_ret (v := .agg (gM 10 1 0 0 1)) (results_cell_row Try.results23 _ wz B 28 _ (0, 0) _ rfl rsz Try.underlying28 rfl infoG) rfl ⟨rfl, ?_⟩
  exact grownBy_new hG3.out hgz (fun k hk => by have h5 := Option.some.inj hk; have h6 := hB2.out; omega)
set_option maxRecDepth 100000 in
set_option maxHeartbeats 1000000 in
theorem gk_it_1 (w : World) (g o : Nat) (b : Nat) (hb : b < 256) (hy0 : Hid (∀ wx, w.grownBy wx none → wx.cell? ⟨g, o, none⟩ = some (.int .u8 (b : Int)))) (len cap : Nat) (hl2 : len ≤ cap) (hl3 : cap ≤ 9223372036854775807) (hl1 : 0 < len) (h1 : b ≠ 14) (h2 : b ≠ 15) : Calls Try.prog 23 #[stV 1 0 0 0, .slice (some ⟨g, o, none⟩) len cap] w fun e w' => e = .returned (.agg (gM 0 1 1 (b : Int) 1)) ∧ w.grownBy w' none := by
  have hl8 : (0 : Int) < (len : Int) := by omega
  have p2 : IntKind.i32.wrap (b : Int) = (b : Int) := by rw [IntKind.wrap_i32]; omega
  go_enter Try.func23, Try.ntmps23
  go_upto_region 1 with (first
    | (refine wpList_boxC _ rfl 24 _ rfl (sC 1 0 0 0) rfl ?_; intro x0 vbs hx0)
    | (refine wpList_allocC _ rfl 28 rfl (gZ 0 0 0 0) (zeroG _) ?_; intro w1 rs1 hgr))
  have hG1 : Hid (w.grownBy w1 none) := Hid.mk' (gt hx0 hgr)
  have vss1 := vbs.kept0 hgr
  have hB2 : Hid (w.heap.size ≤ x0.heap.size) := Hid.mk' (hx0.size)
  obtain ⟨Vs, hVs⟩ : ∃ V, Hid (w.heap.size = V) := ⟨_, Hid.mk' rfl⟩
  rw [hVs.out] at vss1
  rw [hVs.out]
  have hVB : Hid (Vs < x0.heap.size) := Hid.mk' (by rw [← hVs.out]; exact vbs.lt)
  obtain ⟨B, hBe⟩ : ∃ B, Hid (x0.heap.size = B) := ⟨_, Hid.mk' rfl⟩
  replace hB2 : Hid (w.heap.size ≤ B) := Hid.mk' (by rw [← hBe.out]; exact hB2.out)
  rw [hBe.out] at rs1 hVB
  first | rw [hBe.out] | skip
  clear hx0 vbs hgr
  have y0 := hy0.out _ hG1.out; have cs0 := vss1.cell 0 rfl
  go_upto_region 5 with (first
    | (go_at_call 39; refine (sh_no (b : Int) (by omega) (by omega) _).mono ?_; rintro e w2 ⟨rfl, hg⟩; have rs2 := rs1.kept0 hg; have vss2 := vss1.kept0 hg; have hG2 : Hid (w.grownBy w2 none) := Hid.mk' (gt hG1.out hg); clear y0 cs0; have y0 := hy0.out _ hG2.out; have cs0 := vss2.cell 0 rfl; clear rs1 hg vss1))
  have hS : Hid (∀ wx, w2.grownBy wx none → wx.cell? ⟨g, o, none⟩ = some (.int .u8 (b : Int)) ∧ wx.cell? ⟨Vs, 0, none⟩ = some (.int .i64 1) ∧ wx.cell? ⟨Vs, 1, none⟩ = some (.int .i64 0) ∧ wx.cell? ⟨Vs, 2, none⟩ = some (.int .u32 0) ∧ wx.cell? ⟨Vs, 3, none⟩ = some (.int .i32 0)) := Hid.mk' (fun wx hgx => ⟨hy0.out _ (gt hG2.out hgx), (vss2.kept0 hgx).cell 0 rfl, (vss2.kept0 hgx).cell 1 rfl, (vss2.kept0 hgx).cell 2 rfl, (vss2.kept0 hgx).cell 3 rfl⟩)
  have hD2 : w2.grownBy w2.drew none := gd (grownBy_refl w2 none)
  refine wp_region_held_drew (S := fun wx => wx.cell? ⟨g, o, none⟩ = some (.int .u8 (b : Int)) ∧ wx.cell? ⟨Vs, 0, none⟩ = some (.int .i64 1) ∧ wx.cell? ⟨Vs, 1, none⟩ = some (.int .i64 0) ∧ wx.cell? ⟨Vs, 2, none⟩ = some (.int .u32 0) ∧ wx.cell? ⟨Vs, 3, none⟩ = some (.int .i32 0)) (by kernel_rfl) (hS.out _ hD2) (fun hHeld => ?_)
  refine wpAnyH_take (i := 0) (v := ?_) rfl (by kernel_rfl) (by kernel_rfl) (by kernel_rfl) (fun _ _ _ h => h) (Or.inl ⟨by rfl, ?_⟩) (by assumption) ?_; rotate_left
  · (intro w hSw; (try dsimp only at hSw); go_simp; try with_reducible rfl)
  try simp only [List.getElem_toArray, List.getElem_cons_zero, Act.put, List.setIfInBounds_toArray, List.set_cons_zero, List.set_cons_succ]
  refine wpAnyH_take (i := 1) (v := ?_) rfl (by kernel_rfl) (by kernel_rfl) (by kernel_rfl) (fun _ _ _ h => h) (Or.inl ⟨by rfl, ?_⟩) (by assumption) ?_; rotate_left
  · (intro w hSw; (try dsimp only at hSw); go_simp; try with_reducible rfl)
  try simp only [List.getElem_toArray, List.getElem_cons_zero, List.getElem_cons_succ, Act.put, List.setIfInBounds_toArray, List.set_cons_zero, List.set_cons_succ]
  refine wpAnyH_take (i := 2) (v := ?_) rfl (by kernel_rfl) (by kernel_rfl) (by kernel_rfl) (fun _ _ _ h => h) (Or.inl ⟨by rfl, ?_⟩) (by assumption) ?_; rotate_left
  · (intro w hSw; (try dsimp only at hSw); go_simp; try with_reducible rfl)
  try simp only [List.getElem_toArray, List.getElem_cons_zero, List.getElem_cons_succ, Act.put, List.setIfInBounds_toArray, List.set_cons_zero, List.set_cons_succ]
  refine wpAnyH_ready (rs := [3]) (by kernel_rfl) (by simp) ?_
  refine AllReadyH.cons rfl (fun K hK => ?_) AllReadyH.nil
  go_simp
  go_at_call 20; refine (p_in 1 _).mono ?_; rintro e x3 ⟨rfl, hg⟩; have hx3 : w2.grownBy x3 none := gt hD2 hg
  refine hK.out _ _ (hS.out _ hx3) (fun hHeld => ?_)
  clear hK K
  try simp only [List.getElem_toArray, List.getElem_cons_zero, List.getElem_cons_succ, Act.put, List.setIfInBounds_toArray, List.set_cons_zero, List.set_cons_succ]
  refine wpAnyH_ready (rs := [4]) (by kernel_rfl) (by simp) ?_
  refine AllReadyH.cons rfl (fun K hK => ?_) AllReadyH.nil
  go_simp
  go_at_call 37; refine (it_any b hb 1 _).mono ?_; rintro e x4 ⟨rfl, hg⟩; have hx4 : w2.grownBy x4 none := gt hx3 hg
  refine hK.out _ _ (hS.out _ hx4) (fun hHeld => ?_)
  clear hK K
  try simp only [List.getElem_toArray, List.getElem_cons_zero, List.getElem_cons_succ, Act.put, List.setIfInBounds_toArray, List.set_cons_zero, List.set_cons_succ]
  refine wpAnyH_ready (rs := [5]) (by kernel_rfl) (by simp) ?_
  refine AllReadyH.cons rfl (fun K hK => ?_) AllReadyH.nil
  refine step_storeC (by rfl) 28 _ _ rfl B (gZ 0 0 0 0) (gM 0 1 1 (b : Int) 1) infoG rfl (gC_one _ _ _ _ _ _ _ _ _) rfl rfl (rs2.kept0 hx4) ?_; intro wz rsz hgz; have vsz := (vss2.kept0 hx4).kept hgz (by intro e; have h5 := Option.some.inj e; have h6 := rs2.lt; have h7 := hVB.out; omega); have hb1 := World.block_lt_of_cell? w ⟨g, o, none⟩ (hy0.out _ (grownBy_refl _ _)); have hyz := hgz.cell (hy0.out _ (gt hG2.out hx4)) (by intro e; have h5 := Option.some.inj e; have h6 := hB2.out; have h7 : g < w.heap.size := hb1; have h8 : g = B := h5; omega)
  refine hK.out _ _ ⟨hyz, vsz.cell 0 rfl, vsz.cell 1 rfl, vsz.cell 2 rfl, vsz.cell 3 rfl⟩ (fun hHeld => ?_)
  clear hK K
  try simp only [List.getElem_toArray, List.getElem_cons_zero, List.getElem_cons_succ, Act.put, List.setIfInBounds_toArray, List.set_cons_zero, List.set_cons_succ]
  refine wpAnyH_done (by kernel_rfl) ?_ _
  (try go_wp2)
  refine bodyPost_ret (v := .agg (gM 0 1 1 (b : Int) 1)) (results_cell_row Try.results23 _ wz B 28 _ (0, 0) _ rfl rsz Try.underlying28 rfl infoG) rfl ⟨rfl, ?_⟩
  exact grownBy_new (gt hG2.out hx4) hgz (fun k hk => by have h5 := Option.some.inj hk; have h6 := hB2.out; omega)
set_option maxRecDepth 100000 in
set_option maxHeartbeats 1000000 in
theorem pg_e5 (k md bi ac he : Int) (ao : Option Addr) (len cap : Nat) (w : World) (a1 : Hid (∀ w, Calls Try.prog 17 #[.int .i64 k, stV md bi ac he] w fun e w' => e = .returned (.int .i64 5) ∧ w.grownBy w' none)) : Calls Try.prog 8 #[.int .i64 k, stV md bi ac he, .slice ao len cap] w fun e w' => e = .returned (.agg (gM 5 0 0 0 0)) ∧ w.grownBy w' none := by
  go_enter Try.func8, Try.ntmps8
  go_upto_region 1 with (first
    | (refine wpList_boxC _ rfl 24 _ rfl (sC md bi ac he) rfl ?_; intro x0 vbs hx0)
    | (refine wpList_allocC _ rfl 28 rfl (gZ 0 0 0 0) (zeroG _) ?_; intro w1 rs1 hgr))
  have hG1 : Hid (w.grownBy w1 none) := Hid.mk' (gt hx0 hgr)
  have vss1 := vbs.kept0 hgr
  have hB2 : Hid (w.heap.size ≤ x0.heap.size) := Hid.mk' (hx0.size)
  obtain ⟨Vs, hVs⟩ : ∃ V, Hid (w.heap.size = V) := ⟨_, Hid.mk' rfl⟩
  rw [hVs.out] at vss1
  rw [hVs.out]
  obtain ⟨B, hBe⟩ : ∃ B, Hid (x0.heap.size = B) := ⟨_, Hid.mk' rfl⟩
  replace hB2 : Hid (w.heap.size ≤ B) := Hid.mk' (by rw [← hBe.out]; exact hB2.out)
  rw [hBe.out] at rs1
  first | rw [hBe.out] | skip
  clear hx0 vbs hgr
  go_wp2_with (first
    | (go_at_call 17; refine (a1.out _).mono ?_; rintro e w2 ⟨rfl, hg⟩; have rs2 := rs1.kept0 hg; have vss2 := vss1.kept0 hg; have hG2 : Hid (w.grownBy w2 none) := Hid.mk' (gt hG1.out hg); clear rs1 hg vss1)
    | (refine wpList_loadC _ rfl 24 _ rfl _ Try.underlying24 rfl Vs (sC md bi ac he) infoS rfl (by assumption) ?_)
    | (refine wpList_storeC _ rfl 28 _ _ rfl B (gZ 0 0 0 0) (gM 5 0 0 0 0) infoG rfl (gC_one _ _ _ _ _ _ _ _ _) rfl rfl rs2 ?_; intro wz rsz hgz))
  refine bodyPost_ret (v := .agg (gM 5 0 0 0 0)) (results_cell_row Try.results8 _ wz B 28 _ (0, 0) _ rfl rsz Try.underlying28 rfl infoG) rfl ⟨rfl, ?_⟩
  exact grownBy_new hG2.out hgz (fun k hk => by have h5 := Option.some.inj hk; have h6 := hB2.out; omega)
set_option maxRecDepth 100000 in
set_option maxHeartbeats 1000000 in
theorem pg_e7 (k md bi ac he : Int) (ao : Option Addr) (len cap : Nat) (w : World) (a1 : Hid (∀ w, Calls Try.prog 17 #[.int .i64 k, stV md bi ac he] w fun e w' => e = .returned (.int .i64 7) ∧ w.grownBy w' none)) : Calls Try.prog 8 #[.int .i64 k, stV md bi ac he, .slice ao len cap] w fun e w' => e = .returned (.agg (gM 7 0 0 0 0)) ∧ w.grownBy w' none := by
  go_enter Try.func8, Try.ntmps8
  go_upto_region 1 with (first
    | (refine wpList_boxC _ rfl 24 _ rfl (sC md bi ac he) rfl ?_; intro x0 vbs hx0)
    | (refine wpList_allocC _ rfl 28 rfl (gZ 0 0 0 0) (zeroG _) ?_; intro w1 rs1 hgr))
  have hG1 : Hid (w.grownBy w1 none) := Hid.mk' (gt hx0 hgr)
  have vss1 := vbs.kept0 hgr
  have hB2 : Hid (w.heap.size ≤ x0.heap.size) := Hid.mk' (hx0.size)
  obtain ⟨Vs, hVs⟩ : ∃ V, Hid (w.heap.size = V) := ⟨_, Hid.mk' rfl⟩
  rw [hVs.out] at vss1
  rw [hVs.out]
  obtain ⟨B, hBe⟩ : ∃ B, Hid (x0.heap.size = B) := ⟨_, Hid.mk' rfl⟩
  replace hB2 : Hid (w.heap.size ≤ B) := Hid.mk' (by rw [← hBe.out]; exact hB2.out)
  rw [hBe.out] at rs1
  first | rw [hBe.out] | skip
  clear hx0 vbs hgr
  go_wp2_with (first
    | (go_at_call 17; refine (a1.out _).mono ?_; rintro e w2 ⟨rfl, hg⟩; have rs2 := rs1.kept0 hg; have vss2 := vss1.kept0 hg; have hG2 : Hid (w.grownBy w2 none) := Hid.mk' (gt hG1.out hg); clear rs1 hg vss1)
    | (refine wpList_loadC _ rfl 24 _ rfl _ Try.underlying24 rfl Vs (sC md bi ac he) infoS rfl (by assumption) ?_)
    | (refine wpList_storeC _ rfl 28 _ _ rfl B (gZ 0 0 0 0) (gM 7 0 0 0 0) infoG rfl (gC_one _ _ _ _ _ _ _ _ _) rfl rfl rs2 ?_; intro wz rsz hgz))
  refine bodyPost_ret (v := .agg (gM 7 0 0 0 0)) (results_cell_row Try.results8 _ wz B 28 _ (0, 0) _ rfl rsz Try.underlying28 rfl infoG) rfl ⟨rfl, ?_⟩
  exact grownBy_new hG2.out hgz (fun k hk => by have h5 := Option.some.inj hk; have h6 := hB2.out; omega)
set_option maxRecDepth 100000 in
set_option maxHeartbeats 1000000 in
theorem pg_more (k m : Int) (ao : Option Addr) (len cap : Nat) (w : World) (R1 : ByteArray) (R2 : Int) (a1 : Hid (∀ w, Calls Try.prog 17 #[.int .i64 k, stV m 0 0 0] w fun e w' => e = .returned (.int .i64 0) ∧ w.grownBy w' none)) (a2 : Hid (∀ w1, w.grownBy w1 none → Calls Try.prog 19 #[.int .i64 k, .int .i64 m] w1 fun e w2 => ∃ v, e = .returned v ∧ Hid (∀ w3, w2.grownBy w3 none → Calls Try.prog 18 #[.slice ao len cap, v] w3 fun e w4 => e = .returned (.tuple #[.agg (qC R1 R2), .int .i64 1]) ∧ w3.grownBy w4 none) ∧ w1.grownBy w2 none)) : Calls Try.prog 8 #[.int .i64 k, stV m 0 0 0, .slice ao len cap] w fun e w' => e = .returned (.agg (gM 1 0 0 0 0)) ∧ w.grownBy w' none := by
  go_enter Try.func8, Try.ntmps8
  go_upto_region 1 with (first
    | (refine wpList_boxC _ rfl 24 _ rfl (sC m 0 0 0) rfl ?_; intro x0 vbs hx0)
    | (refine wpList_allocC _ rfl 28 rfl (gZ 0 0 0 0) (zeroG _) ?_; intro w1 rs1 hgr))
  have hG1 : Hid (w.grownBy w1 none) := Hid.mk' (gt hx0 hgr)
  have vss1 := vbs.kept0 hgr
  have hB2 : Hid (w.heap.size ≤ x0.heap.size) := Hid.mk' (hx0.size)
  obtain ⟨Vs, hVs⟩ : ∃ V, Hid (w.heap.size = V) := ⟨_, Hid.mk' rfl⟩
  rw [hVs.out] at vss1
  rw [hVs.out]
  obtain ⟨B, hBe⟩ : ∃ B, Hid (x0.heap.size = B) := ⟨_, Hid.mk' rfl⟩
  replace hB2 : Hid (w.heap.size ≤ B) := Hid.mk' (by rw [← hBe.out]; exact hB2.out)
  rw [hBe.out] at rs1
  first | rw [hBe.out] | skip
  clear hx0 vbs hgr
  have cs0 := vss1.cell 0 rfl
  go_upto_region 2 with (first
    | (go_at_call 17; refine (a1.out _).mono ?_; rintro e w2 ⟨rfl, hg⟩; have rs2 := rs1.kept0 hg; have vss2 := vss1.kept0 hg; have hG2 : Hid (w.grownBy w2 none) := Hid.mk' (gt hG1.out hg); clear cs0; have cs0 := vss2.cell 0 rfl; clear rs1 hg vss1)
    | (refine wpList_loadC _ rfl 24 _ rfl _ Try.underlying24 rfl Vs (sC m 0 0 0) infoS rfl (by assumption) ?_))
  go_upto_region 5 with (first
    | (go_at_call 19; refine (a2.out _ hG2.out).mono ?_; rintro e w3 ⟨v, rfl, a3, hg⟩; have rs3 := rs2.kept0 hg; have vss3 := vss2.kept0 hg; have hG3 : Hid (w.grownBy w3 none) := Hid.mk' (gt hG2.out hg); clear cs0; have cs0 := vss3.cell 0 rfl; clear rs2 hg vss2)
    | (go_at_call 18; refine (a3.out _ (grownBy_refl _ _)).mono ?_; rintro e w4 ⟨rfl, hg⟩; have rs4 := rs3.kept0 hg; have vss4 := vss3.kept0 hg; have hG4 : Hid (w.grownBy w4 none) := Hid.mk' (gt hG3.out hg); clear cs0; have cs0 := vss4.cell 0 rfl; clear rs3 hg vss3)
    | (refine wpList_allocC _ rfl 46 rfl (qC ⟨#[]⟩ 0) (zeroQ _) ?_; intro w5 vsq5 hg; have hsq : Hid (w.heap.size ≤ w4.heap.size) := Hid.mk' hG4.out.size; have hneq : Hid (B < w4.heap.size) := Hid.mk' rs4.lt; have hlsq : Hid (Vs < w4.heap.size) := Hid.mk' vss4.lt; obtain ⟨Vq, hVq⟩ : ∃ V, Hid (w4.heap.size = V) := ⟨_, Hid.mk' rfl⟩; have rs5 := rs4.kept0 hg; have vss5 := vss4.kept0 hg; have hG5 : Hid (w.grownBy w5 none) := Hid.mk' (gt hG4.out hg); clear rs4 hg vss4; rw [hVq.out] at vsq5 hsq hneq hlsq; rw [hVq.out])
    | (refine wpList_storeC _ rfl 46 _ _ rfl Vq (qC ⟨#[]⟩ 0) (qC R1 R2) infoQ rfl (qC_one _ _) rfl rfl vsq5 ?_; intro w6 vsq6 hg; have rs6 := rs5.kept hg (by have := hneq.out; intro e; have h5 := Option.some.inj e; omega); have vss6 := vss5.kept hg (by have h4 := hlsq.out; intro e; have h5 := Option.some.inj e; omega); have hG6 : Hid (w.grownBy w6 none) := Hid.mk' (grownBy_new hG5.out hg (fun q hq => by have h5 := Option.some.inj hq; have h6 := hsq.out; omega)); clear cs0; have cs0 := vss6.cell 0 rfl; have cq0 := vsq6.cell 0 rfl; have cq1 := vsq6.cell 1 rfl; clear rs5 hg vsq5 vss5))
  go_wp2_with (first
    | (refine wpList_storeC _ rfl 28 _ _ rfl B (gZ 0 0 0 0) (gM 1 0 0 0 0) infoG rfl (gC_one _ _ _ _ _ _ _ _ _) rfl rfl rs6 ?_; intro wz rsz hgz))
  refine bodyPost_ret (v := .agg (gM 1 0 0 0 0)) (results_cell_row Try.results8 _ wz B 28 _ (0, 0) _ rfl rsz Try.underlying28 rfl infoG) rfl ⟨rfl, ?_⟩
  exact grownBy_new hG6.out hgz (fun k hk => by have h5 := Option.some.inj hk; have h6 := hB2.out; omega)
set_option maxRecDepth 100000 in
set_option maxHeartbeats 1000000 in
theorem pg_seq (k m : Int) (ao : Option Addr) (len cap : Nat) (w : World) (R1 : ByteArray) (R2 : Int) (a1 : Hid (∀ w, Calls Try.prog 17 #[.int .i64 k, stV m 0 0 0] w fun e w' => e = .returned (.int .i64 0) ∧ w.grownBy w' none)) (z : Nat) (hz : R1.size = z) (a2 : Hid (∀ w1, w.grownBy w1 none → Calls Try.prog 19 #[.int .i64 k, .int .i64 m] w1 fun e w2 => ∃ v, e = .returned v ∧ Hid (∀ w3, w2.grownBy w3 none → Calls Try.prog 18 #[.slice ao len cap, v] w3 fun e w4 => e = .returned (.tuple #[.agg (qC R1 R2), .int .i64 0]) ∧ w3.grownBy w4 none) ∧ w1.grownBy w2 none)) : Calls Try.prog 8 #[.int .i64 k, stV m 0 0 0, .slice ao len cap] w fun e w' => e = .returned (.agg (gM 0 (z : Int) 0 0 R2)) ∧ w.grownBy w' none := by
  go_enter Try.func8, Try.ntmps8
  go_upto_region 1 with (first
    | (refine wpList_boxC _ rfl 24 _ rfl (sC m 0 0 0) rfl ?_; intro x0 vbs hx0)
    | (refine wpList_allocC _ rfl 28 rfl (gZ 0 0 0 0) (zeroG _) ?_; intro w1 rs1 hgr))
  have hG1 : Hid (w.grownBy w1 none) := Hid.mk' (gt hx0 hgr)
  have vss1 := vbs.kept0 hgr
  have hB2 : Hid (w.heap.size ≤ x0.heap.size) := Hid.mk' (hx0.size)
  obtain ⟨Vs, hVs⟩ : ∃ V, Hid (w.heap.size = V) := ⟨_, Hid.mk' rfl⟩
  rw [hVs.out] at vss1
  rw [hVs.out]
  obtain ⟨B, hBe⟩ : ∃ B, Hid (x0.heap.size = B) := ⟨_, Hid.mk' rfl⟩
  replace hB2 : Hid (w.heap.size ≤ B) := Hid.mk' (by rw [← hBe.out]; exact hB2.out)
  rw [hBe.out] at rs1
  first | rw [hBe.out] | skip
  clear hx0 vbs hgr
  have cs0 := vss1.cell 0 rfl
  go_upto_region 2 with (first
    | (go_at_call 17; refine (a1.out _).mono ?_; rintro e w2 ⟨rfl, hg⟩; have rs2 := rs1.kept0 hg; have vss2 := vss1.kept0 hg; have hG2 : Hid (w.grownBy w2 none) := Hid.mk' (gt hG1.out hg); clear cs0; have cs0 := vss2.cell 0 rfl; clear rs1 hg vss1)
    | (refine wpList_loadC _ rfl 24 _ rfl _ Try.underlying24 rfl Vs (sC m 0 0 0) infoS rfl (by assumption) ?_))
  go_upto_region 5 with (first
    | (go_at_call 19; refine (a2.out _ hG2.out).mono ?_; rintro e w3 ⟨v, rfl, a3, hg⟩; have rs3 := rs2.kept0 hg; have vss3 := vss2.kept0 hg; have hG3 : Hid (w.grownBy w3 none) := Hid.mk' (gt hG2.out hg); clear cs0; have cs0 := vss3.cell 0 rfl; clear rs2 hg vss2)
    | (go_at_call 18; refine (a3.out _ (grownBy_refl _ _)).mono ?_; rintro e w4 ⟨rfl, hg⟩; have rs4 := rs3.kept0 hg; have vss4 := vss3.kept0 hg; have hG4 : Hid (w.grownBy w4 none) := Hid.mk' (gt hG3.out hg); clear cs0; have cs0 := vss4.cell 0 rfl; clear rs3 hg vss3)
    | (refine wpList_allocC _ rfl 46 rfl (qC ⟨#[]⟩ 0) (zeroQ _) ?_; intro w5 vsq5 hg; have hsq : Hid (w.heap.size ≤ w4.heap.size) := Hid.mk' hG4.out.size; have hneq : Hid (B < w4.heap.size) := Hid.mk' rs4.lt; have hlsq : Hid (Vs < w4.heap.size) := Hid.mk' vss4.lt; obtain ⟨Vq, hVq⟩ : ∃ V, Hid (w4.heap.size = V) := ⟨_, Hid.mk' rfl⟩; have rs5 := rs4.kept0 hg; have vss5 := vss4.kept0 hg; have hG5 : Hid (w.grownBy w5 none) := Hid.mk' (gt hG4.out hg); clear rs4 hg vss4; rw [hVq.out] at vsq5 hsq hneq hlsq; rw [hVq.out])
    | (refine wpList_storeC _ rfl 46 _ _ rfl Vq (qC ⟨#[]⟩ 0) (qC R1 R2) infoQ rfl (qC_one _ _) rfl rfl vsq5 ?_; intro w6 vsq6 hg; have rs6 := rs5.kept hg (by have := hneq.out; intro e; have h5 := Option.some.inj e; omega); have vss6 := vss5.kept hg (by have h4 := hlsq.out; intro e; have h5 := Option.some.inj e; omega); have hG6 : Hid (w.grownBy w6 none) := Hid.mk' (grownBy_new hG5.out hg (fun q hq => by have h5 := Option.some.inj hq; have h6 := hsq.out; omega)); clear cs0; have cs0 := vss6.cell 0 rfl; have cq0 := vsq6.cell 0 rfl; have cq1 := vsq6.cell 1 rfl; clear rs5 hg vsq5 vss5))
  go_upto_region 6 with fail
  have hS : Hid (∀ wx, w6.grownBy wx none → wx.cell? ⟨Vq, 0, none⟩ = some (.string R1) ∧ wx.cell? ⟨Vq, 1, none⟩ = some (.int .i64 R2)) := Hid.mk' (fun wx hgx => ⟨(vsq6.kept0 hgx).cell 0 rfl, (vsq6.kept0 hgx).cell 1 rfl⟩)
  have hD : w6.grownBy w6.drew none := gd (grownBy_refl w6 none)
  refine wp_region_held_drew (S := fun wx => wx.cell? ⟨Vq, 0, none⟩ = some (.string R1) ∧ wx.cell? ⟨Vq, 1, none⟩ = some (.int .i64 R2)) (by kernel_rfl) (hS.out _ hD) (fun hHeld => ?_)
  refine wpAnyH_take (i := 0) (v := ?_) rfl (by kernel_rfl) (by kernel_rfl) (by kernel_rfl) (fun _ _ _ h => h) (Or.inl ⟨by rfl, ?_⟩) (by assumption) ?_; rotate_left
  · (intro w hSw; (try dsimp only at hSw); go_simp; try with_reducible rfl)
  try simp only [List.getElem_toArray, List.getElem_cons_zero, Act.put, List.setIfInBounds_toArray, List.set_cons_zero, List.set_cons_succ]
  refine wpAnyH_take (i := 1) (v := ?_) rfl (by kernel_rfl) (by kernel_rfl) (by kernel_rfl) (fun _ _ _ h => h) (Or.inl ⟨by rfl, ?_⟩) (by assumption) ?_; rotate_left
  · (intro w hSw; (try dsimp only at hSw); go_simp; try with_reducible rfl)
  try simp only [List.getElem_toArray, List.getElem_cons_zero, List.getElem_cons_succ, Act.put, List.setIfInBounds_toArray, List.set_cons_zero, List.set_cons_succ]
  refine wpAnyH_take (i := 2) (v := ?_) rfl (by kernel_rfl) (by kernel_rfl) (by kernel_rfl) (fun _ _ _ h => h) (Or.inl ⟨by rfl, ?_⟩) (by assumption) ?_; rotate_left
  · (intro w hSw; (try dsimp only at hSw); go_simp; try with_reducible rfl)
  try simp only [List.getElem_toArray, List.getElem_cons_zero, List.getElem_cons_succ, Act.put, List.setIfInBounds_toArray, List.set_cons_zero, List.set_cons_succ]
  refine wpAnyH_take (i := 3) (v := ?_) rfl (by kernel_rfl) (by kernel_rfl) (by kernel_rfl) (fun _ _ _ h => h) (Or.inl ⟨by rfl, ?_⟩) (by assumption) ?_; rotate_left
  · (intro w hSw; (try dsimp only at hSw); go_simp; try with_reducible rfl)
  try simp only [List.getElem_toArray, List.getElem_cons_zero, List.getElem_cons_succ, Act.put, List.setIfInBounds_toArray, List.set_cons_zero, List.set_cons_succ]
  refine wpAnyH_take (i := 4) (v := ?_) rfl (by kernel_rfl) (by kernel_rfl) (by kernel_rfl) (fun _ _ _ h => h) (Or.inl ⟨by rfl, ?_⟩) (by assumption) ?_; rotate_left
  · (intro w hSw; (try dsimp only at hSw); go_simp; try with_reducible rfl)
  try simp only [List.getElem_toArray, List.getElem_cons_zero, List.getElem_cons_succ, Act.put, List.setIfInBounds_toArray, List.set_cons_zero, List.set_cons_succ]
  refine wpAnyH_ready (rs := [5]) (by kernel_rfl) (by simp) ?_
  refine AllReadyH.cons rfl (fun K hK => ?_) AllReadyH.nil
  go_simp
  go_at_call 20; refine (p_in R2 _).mono ?_; rintro e x5 ⟨rfl, hg⟩; have hx5 : w6.grownBy x5 none := gt hD hg
  refine hK.out _ _ (hS.out _ hx5) (fun hHeld => ?_)
  clear hK K
  try simp only [List.getElem_toArray, List.getElem_cons_zero, List.getElem_cons_succ, Act.put, List.setIfInBounds_toArray, List.set_cons_zero, List.set_cons_succ]
  refine wpAnyH_take (i := 6) (v := ?_) rfl (by kernel_rfl) (by kernel_rfl) (by kernel_rfl) (fun _ _ _ h => h) (Or.inl ⟨by rfl, ?_⟩) (by assumption) ?_; rotate_left
  · (intro w hSw; (try dsimp only at hSw); go_simp; try with_reducible rfl)
  try simp only [List.getElem_toArray, List.getElem_cons_zero, List.getElem_cons_succ, Act.put, List.setIfInBounds_toArray, List.set_cons_zero, List.set_cons_succ]
  refine wpAnyH_ready (rs := [7]) (by kernel_rfl) (by simp) ?_
  refine AllReadyH.cons rfl (fun K hK => ?_) AllReadyH.nil
  refine step_storeC (by rfl) 28 _ _ rfl B (gZ 0 0 0 0) (gM 0 (z : Int) 0 0 R2) infoG rfl (gC_one _ _ _ _ _ _ _ _ _) rfl rfl (rs6.kept0 hx5) ?_; intro wz rsz hgz; have vsz := (vsq6.kept0 hx5).kept hgz (by intro e; have h5 := Option.some.inj e; have h6 := hneq.out; omega)
  refine hK.out _ _ ⟨vsz.cell 0 rfl, vsz.cell 1 rfl⟩ (fun hHeld => ?_)
  clear hK K
  try simp only [List.getElem_toArray, List.getElem_cons_zero, List.getElem_cons_succ, Act.put, List.setIfInBounds_toArray, List.set_cons_zero, List.set_cons_succ]
  refine wpAnyH_done (by kernel_rfl) ?_ _
  (try go_wp2)
  refine bodyPost_ret (v := .agg (gM 0 (z : Int) 0 0 R2)) (results_cell_row Try.results8 _ wz B 28 _ (0, 0) _ rfl rsz Try.underlying28 rfl infoG) rfl ⟨rfl, ?_⟩
  exact grownBy_new (gt hG6.out hx5) hgz (fun k hk => by have h5 := Option.some.inj hk; have h6 := hB2.out; omega)
set_option maxRecDepth 100000 in
set_option maxHeartbeats 1000000 in
theorem pg_esc (k m : Int) (w : World) (g o : Nat) (hy0 : Hid (∀ wx, w.grownBy wx none → wx.cell? ⟨g, o, none⟩ = some (.int .u8 27))) (len cap : Nat) (hl2 : len ≤ cap) (hl3 : cap ≤ 9223372036854775807) (hl1 : 0 < len) (R1 : ByteArray) (R2 : Int) (a1 : Hid (∀ w, Calls Try.prog 17 #[.int .i64 k, stV m 0 0 0] w fun e w' => e = .returned (.int .i64 0) ∧ w.grownBy w' none)) (a2 : Hid (∀ w1, w.grownBy w1 none → Calls Try.prog 19 #[.int .i64 k, .int .i64 m] w1 fun e w2 => ∃ v, e = .returned v ∧ Hid (∀ w3, w2.grownBy w3 none → Calls Try.prog 18 #[.slice (some ⟨g, o, none⟩) len cap, v] w3 fun e w4 => e = .returned (.tuple #[.agg (qC R1 R2), .int .i64 11]) ∧ w3.grownBy w4 none) ∧ w1.grownBy w2 none)) : Calls Try.prog 8 #[.int .i64 k, stV m 0 0 0, .slice (some ⟨g, o, none⟩) len cap] w fun e w' => e = .returned (.agg (gM 10 1 0 0 m)) ∧ w.grownBy w' none := by
  have hl8 : (0 : Int) < (len : Int) := by omega
  go_enter Try.func8, Try.ntmps8
  go_upto_region 1 with (first
    | (refine wpList_boxC _ rfl 24 _ rfl (sC m 0 0 0) rfl ?_; intro x0 vbs hx0)
    | (refine wpList_allocC _ rfl 28 rfl (gZ 0 0 0 0) (zeroG _) ?_; intro w1 rs1 hgr))
  have hG1 : Hid (w.grownBy w1 none) := Hid.mk' (gt hx0 hgr)
  have vss1 := vbs.kept0 hgr
  have hB2 : Hid (w.heap.size ≤ x0.heap.size) := Hid.mk' (hx0.size)
  obtain ⟨Vs, hVs⟩ : ∃ V, Hid (w.heap.size = V) := ⟨_, Hid.mk' rfl⟩
  rw [hVs.out] at vss1
  rw [hVs.out]
  obtain ⟨B, hBe⟩ : ∃ B, Hid (x0.heap.size = B) := ⟨_, Hid.mk' rfl⟩
  replace hB2 : Hid (w.heap.size ≤ B) := Hid.mk' (by rw [← hBe.out]; exact hB2.out)
  rw [hBe.out] at rs1
  first | rw [hBe.out] | skip
  clear hx0 vbs hgr
  have y0 := hy0.out _ hG1.out; have cs0 := vss1.cell 0 rfl
  go_upto_region 2 with (first
    | (go_at_call 17; refine (a1.out _).mono ?_; rintro e w2 ⟨rfl, hg⟩; have rs2 := rs1.kept0 hg; have vss2 := vss1.kept0 hg; have hG2 : Hid (w.grownBy w2 none) := Hid.mk' (gt hG1.out hg); clear y0 cs0; have y0 := hy0.out _ hG2.out; have cs0 := vss2.cell 0 rfl; clear rs1 hg vss1)
    | (refine wpList_loadC _ rfl 24 _ rfl _ Try.underlying24 rfl Vs (sC m 0 0 0) infoS rfl (by assumption) ?_))
  go_upto_region 5 with (first
    | (go_at_call 19; refine (a2.out _ hG2.out).mono ?_; rintro e w3 ⟨v, rfl, a3, hg⟩; have rs3 := rs2.kept0 hg; have vss3 := vss2.kept0 hg; have hG3 : Hid (w.grownBy w3 none) := Hid.mk' (gt hG2.out hg); clear y0 cs0; have y0 := hy0.out _ hG3.out; have cs0 := vss3.cell 0 rfl; clear rs2 hg vss2)
    | (go_at_call 18; refine (a3.out _ (grownBy_refl _ _)).mono ?_; rintro e w4 ⟨rfl, hg⟩; have rs4 := rs3.kept0 hg; have vss4 := vss3.kept0 hg; have hG4 : Hid (w.grownBy w4 none) := Hid.mk' (gt hG3.out hg); clear y0 cs0; have y0 := hy0.out _ hG4.out; have cs0 := vss4.cell 0 rfl; clear rs3 hg vss3)
    | (refine wpList_allocC _ rfl 46 rfl (qC ⟨#[]⟩ 0) (zeroQ _) ?_; intro w5 vsq5 hg; have hsq : Hid (w.heap.size ≤ w4.heap.size) := Hid.mk' hG4.out.size; have hneq : Hid (B < w4.heap.size) := Hid.mk' rs4.lt; have hlsq : Hid (Vs < w4.heap.size) := Hid.mk' vss4.lt; obtain ⟨Vq, hVq⟩ : ∃ V, Hid (w4.heap.size = V) := ⟨_, Hid.mk' rfl⟩; have rs5 := rs4.kept0 hg; have vss5 := vss4.kept0 hg; have hG5 : Hid (w.grownBy w5 none) := Hid.mk' (gt hG4.out hg); clear rs4 hg vss4; rw [hVq.out] at vsq5 hsq hneq hlsq; rw [hVq.out])
    | (refine wpList_storeC _ rfl 46 _ _ rfl Vq (qC ⟨#[]⟩ 0) (qC R1 R2) infoQ rfl (qC_one _ _) rfl rfl vsq5 ?_; intro w6 vsq6 hg; have rs6 := rs5.kept hg (by have := hneq.out; intro e; have h5 := Option.some.inj e; omega); have vss6 := vss5.kept hg (by have h4 := hlsq.out; intro e; have h5 := Option.some.inj e; omega); have hG6 : Hid (w.grownBy w6 none) := Hid.mk' (grownBy_new hG5.out hg (fun q hq => by have h5 := Option.some.inj hq; have h6 := hsq.out; omega)); clear y0 cs0; have y0 := hy0.out _ hG6.out; have cs0 := vss6.cell 0 rfl; have cq0 := vsq6.cell 0 rfl; have cq1 := vsq6.cell 1 rfl; clear rs5 hg vsq5 vss5))
  go_wp2_with (first
    | (go_at_call 21; refine (il_any 1 m _).mono ?_; rintro e w7 ⟨rfl, hg⟩; have rs7 := rs6.kept0 hg; have vss7 := vss6.kept0 hg; have vsq7 := vsq6.kept0 hg; have hG7 : Hid (w.grownBy w7 none) := Hid.mk' (gt hG6.out hg); clear y0 cs0 cq0 cq1; have y0 := hy0.out _ hG7.out; have cs0 := vss7.cell 0 rfl; have cq0 := vsq7.cell 0 rfl; have cq1 := vsq7.cell 1 rfl; clear rs6 hg vss6 vsq6)
    | (refine wpList_loadC _ rfl 24 _ rfl _ Try.underlying24 rfl Vs (sC m 0 0 0) infoS rfl (by assumption) ?_)
    | (refine wpList_storeC _ rfl 28 _ _ rfl B (gZ 0 0 0 0) (gM 10 1 0 0 m) infoG rfl (gC_one _ _ _ _ _ _ _ _ _) rfl rfl rs7 ?_; intro wz rsz hgz))
  refine bodyPost_ret (v := .agg (gM 10 1 0 0 m)) (results_cell_row Try.results8 _ wz B 28 _ (0, 0) _ rfl rsz Try.underlying28 rfl infoG) rfl ⟨rfl, ?_⟩
  exact grownBy_new hG7.out hgz (fun k hk => by have h5 := Option.some.inj hk; have h6 := hB2.out; omega)
set_option maxRecDepth 100000 in
set_option maxHeartbeats 1000000 in
theorem pg_high (k m : Int) (w : World) (g o : Nat) (b : Nat) (hb : b < 256) (hy0 : Hid (∀ wx, w.grownBy wx none → wx.cell? ⟨g, o, none⟩ = some (.int .u8 (b : Int)))) (len cap : Nat) (hl2 : len ≤ cap) (hl3 : cap ≤ 9223372036854775807) (hl1 : 0 < len) (R1 : ByteArray) (R2 : Int) (a1 : Hid (∀ w, Calls Try.prog 17 #[.int .i64 k, stV m 0 0 0] w fun e w' => e = .returned (.int .i64 0) ∧ w.grownBy w' none)) (a2 : Hid (∀ w1, w.grownBy w1 none → Calls Try.prog 19 #[.int .i64 k, .int .i64 m] w1 fun e w2 => ∃ v, e = .returned v ∧ Hid (∀ w3, w2.grownBy w3 none → Calls Try.prog 18 #[.slice (some ⟨g, o, none⟩) len cap, v] w3 fun e w4 => e = .returned (.tuple #[.agg (qC R1 R2), .int .i64 11]) ∧ w3.grownBy w4 none) ∧ w1.grownBy w2 none)) (h1 : 128 ≤ b) : Calls Try.prog 8 #[.int .i64 k, stV m 0 0 0, .slice (some ⟨g, o, none⟩) len cap] w fun e w' => e = .returned (.agg (gM 10 1 0 0 m)) ∧ w.grownBy w' none := by
  have hl8 : (0 : Int) < (len : Int) := by omega
  have b1 : ((b : Int) == 27) = false := by simp; omega
  have b2 : decide (128 ≤ (b : Int)) = true := by simp; omega
  go_enter Try.func8, Try.ntmps8
  go_upto_region 1 with (first
    | (refine wpList_boxC _ rfl 24 _ rfl (sC m 0 0 0) rfl ?_; intro x0 vbs hx0)
    | (refine wpList_allocC _ rfl 28 rfl (gZ 0 0 0 0) (zeroG _) ?_; intro w1 rs1 hgr))
  have hG1 : Hid (w.grownBy w1 none) := Hid.mk' (gt hx0 hgr)
  have vss1 := vbs.kept0 hgr
  have hB2 : Hid (w.heap.size ≤ x0.heap.size) := Hid.mk' (hx0.size)
  obtain ⟨Vs, hVs⟩ : ∃ V, Hid (w.heap.size = V) := ⟨_, Hid.mk' rfl⟩
  rw [hVs.out] at vss1
  rw [hVs.out]
  obtain ⟨B, hBe⟩ : ∃ B, Hid (x0.heap.size = B) := ⟨_, Hid.mk' rfl⟩
  replace hB2 : Hid (w.heap.size ≤ B) := Hid.mk' (by rw [← hBe.out]; exact hB2.out)
  rw [hBe.out] at rs1
  first | rw [hBe.out] | skip
  clear hx0 vbs hgr
  have y0 := hy0.out _ hG1.out; have cs0 := vss1.cell 0 rfl
  go_upto_region 2 with (first
    | (go_at_call 17; refine (a1.out _).mono ?_; rintro e w2 ⟨rfl, hg⟩; have rs2 := rs1.kept0 hg; have vss2 := vss1.kept0 hg; have hG2 : Hid (w.grownBy w2 none) := Hid.mk' (gt hG1.out hg); clear y0 cs0; have y0 := hy0.out _ hG2.out; have cs0 := vss2.cell 0 rfl; clear rs1 hg vss1)
    | (refine wpList_loadC _ rfl 24 _ rfl _ Try.underlying24 rfl Vs (sC m 0 0 0) infoS rfl (by assumption) ?_))
  go_upto_region 5 with (first
    | (go_at_call 19; refine (a2.out _ hG2.out).mono ?_; rintro e w3 ⟨v, rfl, a3, hg⟩; have rs3 := rs2.kept0 hg; have vss3 := vss2.kept0 hg; have hG3 : Hid (w.grownBy w3 none) := Hid.mk' (gt hG2.out hg); clear y0 cs0; have y0 := hy0.out _ hG3.out; have cs0 := vss3.cell 0 rfl; clear rs2 hg vss2)
    | (go_at_call 18; refine (a3.out _ (grownBy_refl _ _)).mono ?_; rintro e w4 ⟨rfl, hg⟩; have rs4 := rs3.kept0 hg; have vss4 := vss3.kept0 hg; have hG4 : Hid (w.grownBy w4 none) := Hid.mk' (gt hG3.out hg); clear y0 cs0; have y0 := hy0.out _ hG4.out; have cs0 := vss4.cell 0 rfl; clear rs3 hg vss3)
    | (refine wpList_allocC _ rfl 46 rfl (qC ⟨#[]⟩ 0) (zeroQ _) ?_; intro w5 vsq5 hg; have hsq : Hid (w.heap.size ≤ w4.heap.size) := Hid.mk' hG4.out.size; have hneq : Hid (B < w4.heap.size) := Hid.mk' rs4.lt; have hlsq : Hid (Vs < w4.heap.size) := Hid.mk' vss4.lt; obtain ⟨Vq, hVq⟩ : ∃ V, Hid (w4.heap.size = V) := ⟨_, Hid.mk' rfl⟩; have rs5 := rs4.kept0 hg; have vss5 := vss4.kept0 hg; have hG5 : Hid (w.grownBy w5 none) := Hid.mk' (gt hG4.out hg); clear rs4 hg vss4; rw [hVq.out] at vsq5 hsq hneq hlsq; rw [hVq.out])
    | (refine wpList_storeC _ rfl 46 _ _ rfl Vq (qC ⟨#[]⟩ 0) (qC R1 R2) infoQ rfl (qC_one _ _) rfl rfl vsq5 ?_; intro w6 vsq6 hg; have rs6 := rs5.kept hg (by have := hneq.out; intro e; have h5 := Option.some.inj e; omega); have vss6 := vss5.kept hg (by have h4 := hlsq.out; intro e; have h5 := Option.some.inj e; omega); have hG6 : Hid (w.grownBy w6 none) := Hid.mk' (grownBy_new hG5.out hg (fun q hq => by have h5 := Option.some.inj hq; have h6 := hsq.out; omega)); clear y0 cs0; have y0 := hy0.out _ hG6.out; have cs0 := vss6.cell 0 rfl; have cq0 := vsq6.cell 0 rfl; have cq1 := vsq6.cell 1 rfl; clear rs5 hg vsq5 vss5))
  go_wp2_with (first
    | (go_at_call 21; refine (il_any 1 m _).mono ?_; rintro e w7 ⟨rfl, hg⟩; have rs7 := rs6.kept0 hg; have vss7 := vss6.kept0 hg; have vsq7 := vsq6.kept0 hg; have hG7 : Hid (w.grownBy w7 none) := Hid.mk' (gt hG6.out hg); clear y0 cs0 cq0 cq1; have y0 := hy0.out _ hG7.out; have cs0 := vss7.cell 0 rfl; have cq0 := vsq7.cell 0 rfl; have cq1 := vsq7.cell 1 rfl; clear rs6 hg vss6 vsq6)
    | (refine wpList_loadC _ rfl 24 _ rfl _ Try.underlying24 rfl Vs (sC m 0 0 0) infoS rfl (by assumption) ?_)
    | (refine wpList_storeC _ rfl 28 _ _ rfl B (gZ 0 0 0 0) (gM 10 1 0 0 m) infoG rfl (gC_one _ _ _ _ _ _ _ _ _) rfl rfl rs7 ?_; intro wz rsz hgz))
  refine bodyPost_ret (v := .agg (gM 10 1 0 0 m)) (results_cell_row Try.results8 _ wz B 28 _ (0, 0) _ rfl rsz Try.underlying28 rfl infoG) rfl ⟨rfl, ?_⟩
  exact grownBy_new hG7.out hgz (fun k hk => by have h5 := Option.some.inj hk; have h6 := hB2.out; omega)
set_option maxRecDepth 100000 in
set_option maxHeartbeats 1000000 in
theorem pg_j (m : Int) (w : World) (g o : Nat) (b : Nat) (hb : b < 256) (hy0 : Hid (∀ wx, w.grownBy wx none → wx.cell? ⟨g, o, none⟩ = some (.int .u8 (b : Int)))) (len cap : Nat) (hl2 : len ≤ cap) (hl3 : cap ≤ 9223372036854775807) (hl1 : 0 < len) (R1 : ByteArray) (R2 : Int) (a1 : Hid (∀ w, Calls Try.prog 17 #[.int .i64 83, stV m 0 0 0] w fun e w' => e = .returned (.int .i64 0) ∧ w.grownBy w' none)) (a2 : Hid (∀ w1, w.grownBy w1 none → Calls Try.prog 19 #[.int .i64 83, .int .i64 m] w1 fun e w2 => ∃ v, e = .returned v ∧ Hid (∀ w3, w2.grownBy w3 none → Calls Try.prog 18 #[.slice (some ⟨g, o, none⟩) len cap, v] w3 fun e w4 => e = .returned (.tuple #[.agg (qC R1 R2), .int .i64 11]) ∧ w3.grownBy w4 none) ∧ w1.grownBy w2 none)) (h1 : b < 128) (h2 : b ≠ 27) (ge gn gk ga gd : Int)  (a5 : Hid (∀ w1, w.grownBy w1 none → Calls Try.prog 22 #[stV m 0 0 0, .slice (some ⟨g, o, none⟩) len cap] w1 fun e w2 => e = .returned (.agg (gM ge gn gk ga gd)) ∧ w1.grownBy w2 none)) : Calls Try.prog 8 #[.int .i64 83, stV m 0 0 0, .slice (some ⟨g, o, none⟩) len cap] w fun e w' => e = .returned (.agg (gM ge gn gk ga gd)) ∧ w.grownBy w' none := by
  have hl8 : (0 : Int) < (len : Int) := by omega
  have b1 : ((b : Int) == 27) = false := by simp; omega
  have b2 : decide (128 ≤ (b : Int)) = false := by simp; omega
  clear h1 h2
  go_enter Try.func8, Try.ntmps8
  go_upto_region 1 with (first
    | (refine wpList_boxC _ rfl 24 _ rfl (sC m 0 0 0) rfl ?_; intro x0 vbs hx0)
    | (refine wpList_allocC _ rfl 28 rfl (gZ 0 0 0 0) (zeroG _) ?_; intro w1 rs1 hgr))
  have hG1 : Hid (w.grownBy w1 none) := Hid.mk' (gt hx0 hgr)
  have vss1 := vbs.kept0 hgr
  have hB2 : Hid (w.heap.size ≤ x0.heap.size) := Hid.mk' (hx0.size)
  obtain ⟨Vs, hVs⟩ : ∃ V, Hid (w.heap.size = V) := ⟨_, Hid.mk' rfl⟩
  rw [hVs.out] at vss1
  rw [hVs.out]
  obtain ⟨B, hBe⟩ : ∃ B, Hid (x0.heap.size = B) := ⟨_, Hid.mk' rfl⟩
  replace hB2 : Hid (w.heap.size ≤ B) := Hid.mk' (by rw [← hBe.out]; exact hB2.out)
  rw [hBe.out] at rs1
  first | rw [hBe.out] | skip
  clear hx0 vbs hgr
  have y0 := hy0.out _ hG1.out; have cs0 := vss1.cell 0 rfl
  go_upto_region 2 with (first
    | (go_at_call 17; refine (a1.out _).mono ?_; rintro e w2 ⟨rfl, hg⟩; have rs2 := rs1.kept0 hg; have vss2 := vss1.kept0 hg; have hG2 : Hid (w.grownBy w2 none) := Hid.mk' (gt hG1.out hg); clear y0 cs0; have y0 := hy0.out _ hG2.out; have cs0 := vss2.cell 0 rfl; clear rs1 hg vss1)
    | (refine wpList_loadC _ rfl 24 _ rfl _ Try.underlying24 rfl Vs (sC m 0 0 0) infoS rfl (by assumption) ?_))
  go_upto_region 5 with (first
    | (go_at_call 19; refine (a2.out _ hG2.out).mono ?_; rintro e w3 ⟨v, rfl, a3, hg⟩; have rs3 := rs2.kept0 hg; have vss3 := vss2.kept0 hg; have hG3 : Hid (w.grownBy w3 none) := Hid.mk' (gt hG2.out hg); clear y0 cs0; have y0 := hy0.out _ hG3.out; have cs0 := vss3.cell 0 rfl; clear rs2 hg vss2)
    | (go_at_call 18; refine (a3.out _ (grownBy_refl _ _)).mono ?_; rintro e w4 ⟨rfl, hg⟩; have rs4 := rs3.kept0 hg; have vss4 := vss3.kept0 hg; have hG4 : Hid (w.grownBy w4 none) := Hid.mk' (gt hG3.out hg); clear y0 cs0; have y0 := hy0.out _ hG4.out; have cs0 := vss4.cell 0 rfl; clear rs3 hg vss3)
    | (refine wpList_allocC _ rfl 46 rfl (qC ⟨#[]⟩ 0) (zeroQ _) ?_; intro w5 vsq5 hg; have hsq : Hid (w.heap.size ≤ w4.heap.size) := Hid.mk' hG4.out.size; have hneq : Hid (B < w4.heap.size) := Hid.mk' rs4.lt; have hlsq : Hid (Vs < w4.heap.size) := Hid.mk' vss4.lt; obtain ⟨Vq, hVq⟩ : ∃ V, Hid (w4.heap.size = V) := ⟨_, Hid.mk' rfl⟩; have rs5 := rs4.kept0 hg; have vss5 := vss4.kept0 hg; have hG5 : Hid (w.grownBy w5 none) := Hid.mk' (gt hG4.out hg); clear rs4 hg vss4; rw [hVq.out] at vsq5 hsq hneq hlsq; rw [hVq.out])
    | (refine wpList_storeC _ rfl 46 _ _ rfl Vq (qC ⟨#[]⟩ 0) (qC R1 R2) infoQ rfl (qC_one _ _) rfl rfl vsq5 ?_; intro w6 vsq6 hg; have rs6 := rs5.kept hg (by have := hneq.out; intro e; have h5 := Option.some.inj e; omega); have vss6 := vss5.kept hg (by have h4 := hlsq.out; intro e; have h5 := Option.some.inj e; omega); have hG6 : Hid (w.grownBy w6 none) := Hid.mk' (grownBy_new hG5.out hg (fun q hq => by have h5 := Option.some.inj hq; have h6 := hsq.out; omega)); clear y0 cs0; have y0 := hy0.out _ hG6.out; have cs0 := vss6.cell 0 rfl; have cq0 := vsq6.cell 0 rfl; have cq1 := vsq6.cell 1 rfl; clear rs5 hg vsq5 vss5))
  go_wp2_with (first
    | (go_at_call 22; refine (a5.out _ hG6.out).mono ?_; rintro e w7 ⟨rfl, hg⟩; have rs7 := rs6.kept0 hg; have vss7 := vss6.kept0 hg; have vsq7 := vsq6.kept0 hg; have hG7 : Hid (w.grownBy w7 none) := Hid.mk' (gt hG6.out hg); clear y0 cs0 cq0 cq1; have y0 := hy0.out _ hG7.out; have cs0 := vss7.cell 0 rfl; have cq0 := vsq7.cell 0 rfl; have cq1 := vsq7.cell 1 rfl; clear rs6 hg vss6 vsq6)
    | (refine wpList_loadC _ rfl 24 _ rfl _ Try.underlying24 rfl Vs (sC m 0 0 0) infoS rfl (by assumption) ?_)
    | (refine wpList_storeC _ rfl 28 _ _ rfl B (gZ 0 0 0 0) (gM ge gn gk ga gd) infoG rfl (gC_one _ _ _ _ _ _ _ _ _) rfl rfl rs7 ?_; intro wz rsz hgz))
  refine bodyPost_ret (v := .agg (gM ge gn gk ga gd)) (results_cell_row Try.results8 _ wz B 28 _ (0, 0) _ rfl rsz Try.underlying28 rfl infoG) rfl ⟨rfl, ?_⟩
  exact grownBy_new hG7.out hgz (fun k hk => by have h5 := Option.some.inj hk; have h6 := hB2.out; omega)
set_option maxRecDepth 100000 in
set_option maxHeartbeats 1000000 in
theorem pg_k (m : Int) (w : World) (g o : Nat) (b : Nat) (hb : b < 256) (hy0 : Hid (∀ wx, w.grownBy wx none → wx.cell? ⟨g, o, none⟩ = some (.int .u8 (b : Int)))) (len cap : Nat) (hl2 : len ≤ cap) (hl3 : cap ≤ 9223372036854775807) (hl1 : 0 < len) (R1 : ByteArray) (R2 : Int) (a1 : Hid (∀ w, Calls Try.prog 17 #[.int .i64 88, stV m 0 0 0] w fun e w' => e = .returned (.int .i64 0) ∧ w.grownBy w' none)) (a2 : Hid (∀ w1, w.grownBy w1 none → Calls Try.prog 19 #[.int .i64 88, .int .i64 m] w1 fun e w2 => ∃ v, e = .returned v ∧ Hid (∀ w3, w2.grownBy w3 none → Calls Try.prog 18 #[.slice (some ⟨g, o, none⟩) len cap, v] w3 fun e w4 => e = .returned (.tuple #[.agg (qC R1 R2), .int .i64 11]) ∧ w3.grownBy w4 none) ∧ w1.grownBy w2 none)) (h1 : b < 128) (h2 : b ≠ 27) (ge gn gk ga gd : Int)  (a5 : Hid (∀ w1, w.grownBy w1 none → Calls Try.prog 23 #[stV m 0 0 0, .slice (some ⟨g, o, none⟩) len cap] w1 fun e w2 => e = .returned (.agg (gM ge gn gk ga gd)) ∧ w1.grownBy w2 none)) : Calls Try.prog 8 #[.int .i64 88, stV m 0 0 0, .slice (some ⟨g, o, none⟩) len cap] w fun e w' => e = .returned (.agg (gM ge gn gk ga gd)) ∧ w.grownBy w' none := by
  have hl8 : (0 : Int) < (len : Int) := by omega
  have b1 : ((b : Int) == 27) = false := by simp; omega
  have b2 : decide (128 ≤ (b : Int)) = false := by simp; omega
  clear h1 h2
  go_enter Try.func8, Try.ntmps8
  go_upto_region 1 with (first
    | (refine wpList_boxC _ rfl 24 _ rfl (sC m 0 0 0) rfl ?_; intro x0 vbs hx0)
    | (refine wpList_allocC _ rfl 28 rfl (gZ 0 0 0 0) (zeroG _) ?_; intro w1 rs1 hgr))
  have hG1 : Hid (w.grownBy w1 none) := Hid.mk' (gt hx0 hgr)
  have vss1 := vbs.kept0 hgr
  have hB2 : Hid (w.heap.size ≤ x0.heap.size) := Hid.mk' (hx0.size)
  obtain ⟨Vs, hVs⟩ : ∃ V, Hid (w.heap.size = V) := ⟨_, Hid.mk' rfl⟩
  rw [hVs.out] at vss1
  rw [hVs.out]
  obtain ⟨B, hBe⟩ : ∃ B, Hid (x0.heap.size = B) := ⟨_, Hid.mk' rfl⟩
  replace hB2 : Hid (w.heap.size ≤ B) := Hid.mk' (by rw [← hBe.out]; exact hB2.out)
  rw [hBe.out] at rs1
  first | rw [hBe.out] | skip
  clear hx0 vbs hgr
  have y0 := hy0.out _ hG1.out; have cs0 := vss1.cell 0 rfl
  go_upto_region 2 with (first
    | (go_at_call 17; refine (a1.out _).mono ?_; rintro e w2 ⟨rfl, hg⟩; have rs2 := rs1.kept0 hg; have vss2 := vss1.kept0 hg; have hG2 : Hid (w.grownBy w2 none) := Hid.mk' (gt hG1.out hg); clear y0 cs0; have y0 := hy0.out _ hG2.out; have cs0 := vss2.cell 0 rfl; clear rs1 hg vss1)
    | (refine wpList_loadC _ rfl 24 _ rfl _ Try.underlying24 rfl Vs (sC m 0 0 0) infoS rfl (by assumption) ?_))
  go_upto_region 5 with (first
    | (go_at_call 19; refine (a2.out _ hG2.out).mono ?_; rintro e w3 ⟨v, rfl, a3, hg⟩; have rs3 := rs2.kept0 hg; have vss3 := vss2.kept0 hg; have hG3 : Hid (w.grownBy w3 none) := Hid.mk' (gt hG2.out hg); clear y0 cs0; have y0 := hy0.out _ hG3.out; have cs0 := vss3.cell 0 rfl; clear rs2 hg vss2)
    | (go_at_call 18; refine (a3.out _ (grownBy_refl _ _)).mono ?_; rintro e w4 ⟨rfl, hg⟩; have rs4 := rs3.kept0 hg; have vss4 := vss3.kept0 hg; have hG4 : Hid (w.grownBy w4 none) := Hid.mk' (gt hG3.out hg); clear y0 cs0; have y0 := hy0.out _ hG4.out; have cs0 := vss4.cell 0 rfl; clear rs3 hg vss3)
    | (refine wpList_allocC _ rfl 46 rfl (qC ⟨#[]⟩ 0) (zeroQ _) ?_; intro w5 vsq5 hg; have hsq : Hid (w.heap.size ≤ w4.heap.size) := Hid.mk' hG4.out.size; have hneq : Hid (B < w4.heap.size) := Hid.mk' rs4.lt; have hlsq : Hid (Vs < w4.heap.size) := Hid.mk' vss4.lt; obtain ⟨Vq, hVq⟩ : ∃ V, Hid (w4.heap.size = V) := ⟨_, Hid.mk' rfl⟩; have rs5 := rs4.kept0 hg; have vss5 := vss4.kept0 hg; have hG5 : Hid (w.grownBy w5 none) := Hid.mk' (gt hG4.out hg); clear rs4 hg vss4; rw [hVq.out] at vsq5 hsq hneq hlsq; rw [hVq.out])
    | (refine wpList_storeC _ rfl 46 _ _ rfl Vq (qC ⟨#[]⟩ 0) (qC R1 R2) infoQ rfl (qC_one _ _) rfl rfl vsq5 ?_; intro w6 vsq6 hg; have rs6 := rs5.kept hg (by have := hneq.out; intro e; have h5 := Option.some.inj e; omega); have vss6 := vss5.kept hg (by have h4 := hlsq.out; intro e; have h5 := Option.some.inj e; omega); have hG6 : Hid (w.grownBy w6 none) := Hid.mk' (grownBy_new hG5.out hg (fun q hq => by have h5 := Option.some.inj hq; have h6 := hsq.out; omega)); clear y0 cs0; have y0 := hy0.out _ hG6.out; have cs0 := vss6.cell 0 rfl; have cq0 := vsq6.cell 0 rfl; have cq1 := vsq6.cell 1 rfl; clear rs5 hg vsq5 vss5))
  go_wp2_with (first
    | (go_at_call 23; refine (a5.out _ hG6.out).mono ?_; rintro e w7 ⟨rfl, hg⟩; have rs7 := rs6.kept0 hg; have vss7 := vss6.kept0 hg; have vsq7 := vsq6.kept0 hg; have hG7 : Hid (w.grownBy w7 none) := Hid.mk' (gt hG6.out hg); clear y0 cs0 cq0 cq1; have y0 := hy0.out _ hG7.out; have cs0 := vss7.cell 0 rfl; have cq0 := vsq7.cell 0 rfl; have cq1 := vsq7.cell 1 rfl; clear rs6 hg vss6 vsq6)
    | (refine wpList_loadC _ rfl 24 _ rfl _ Try.underlying24 rfl Vs (sC m 0 0 0) infoS rfl (by assumption) ?_)
    | (refine wpList_storeC _ rfl 28 _ _ rfl B (gZ 0 0 0 0) (gM ge gn gk ga gd) infoG rfl (gC_one _ _ _ _ _ _ _ _ _) rfl rfl rs7 ?_; intro wz rsz hgz))
  refine bodyPost_ret (v := .agg (gM ge gn gk ga gd)) (results_cell_row Try.results8 _ wz B 28 _ (0, 0) _ rfl rsz Try.underlying28 rfl infoG) rfl ⟨rfl, ?_⟩
  exact grownBy_new hG7.out hgz (fun k hk => by have h5 := Option.some.inj hk; have h6 := hB2.out; omega)
theorem getJ_any (m : Nat) (hm : m < 3) (g o cap : Nat) (b : UInt8) (r : List UInt8) (n : Nat) (hn : (b :: r).length = n) (w : World) (hB : Bytes w (some ⟨g, o, none⟩) (b :: r)) (hc : n ≤ cap) (hcm : cap ≤ 9223372036854775807) (h1 : b.toNat < 128) (h2 : b.toNat ≠ 27) : Calls Try.prog 22 #[stV (m : Int) 0 0 0, .slice (some ⟨g, o, none⟩) n cap] w fun e w' => e = .returned (gotV (jC m b.toNat r)) ∧ w.grownBy w' none := by
  have hn1 : 0 < n := by rw [← hn]; simp
  have hy0 : Hid (∀ wx, w.grownBy wx none → wx.cell? ⟨g, o, none⟩ = some (.int .u8 (b.toNat : Int))) := Hid.mk' (fun wx hg => by
    obtain ⟨g2, o2, e, hy⟩ := first_cell hB
    cases e
    exact hy wx hg)
  unfold jC
  rw [if_neg (by omega)]
  match m, hm with
  | 0, _ =>
    rw [if_neg (by omega), if_pos (.inl rfl)]
    exact gj_it w g o b.toNat (by omega) hy0 n cap hc hcm hn1
  | 1, _ =>
    rw [if_pos rfl]
    obtain ⟨v, hv⟩ := half_some h1
    rw [hv]
    exact gj_half w g o b.toNat (by omega) hy0 n cap hc hcm hn1 v (Hid.mk' hv)
  | 2, _ =>
    rw [if_neg (by omega)]
    have e : (if 2 = 0 ∨ b.toNat ≤ 32 ∨ b.toNat = 127 then ((0, 1, 1, (b.toNat : Int), ((2 : Nat) : Int)) : Int × Int × Int × Int × Int) else pr 83 2 b.toNat r) = rowsP 83 2 b.toNat r := by
      unfold rowsP
      by_cases h : b.toNat < 33 ∨ 126 < b.toNat
      · rw [if_pos (by omega), if_pos h]
      · rw [if_neg (by omega), if_neg h]
    rw [e]
    exact gj_rows w g o n cap hc hcm _ _ _ _ _ (Hid.mk' (fun w1 hg => gr_anyj 2 g o cap b r n hn w1 (hB.kept0 hg) hc hcm))
theorem getK_any (m : Nat) (hm : m < 3) (g o cap : Nat) (b : UInt8) (r : List UInt8) (n : Nat) (hn : (b :: r).length = n) (w : World) (hB : Bytes w (some ⟨g, o, none⟩) (b :: r)) (hc : n ≤ cap) (hcm : cap ≤ 9223372036854775807) (h1 : b.toNat < 128) (h2 : b.toNat ≠ 27) (h3 : m ≠ 0 → b.toNat ≠ 14 ∧ b.toNat ≠ 15) : Calls Try.prog 23 #[stV (m : Int) 0 0 0, .slice (some ⟨g, o, none⟩) n cap] w fun e w' => e = .returned (gotV (kC m b.toNat r)) ∧ w.grownBy w' none := by
  have hn1 : 0 < n := by rw [← hn]; simp
  have hy0 : Hid (∀ wx, w.grownBy wx none → wx.cell? ⟨g, o, none⟩ = some (.int .u8 (b.toNat : Int))) := Hid.mk' (fun wx hg => by
    obtain ⟨g2, o2, e, hy⟩ := first_cell hB
    cases e
    exact hy wx hg)
  unfold kC
  match m, hm, h3 with
  | 0, _, _ =>
    by_cases h4 : b.toNat = 14 ∨ b.toNat = 15
    · rw [if_pos (.inr (.inr ⟨rfl, h4⟩))]
      rcases h4 with h4 | h4
      · rw [h4] at hy0
        exact gk_s14_0 w g o hy0 n cap hc hcm hn1
      · rw [h4] at hy0
        exact gk_s15_0 w g o hy0 n cap hc hcm hn1
    · rw [if_neg (by omega), if_pos rfl]
      exact gk_it_0 w g o b.toNat (by omega) hy0 n cap hc hcm hn1 (by omega) (by omega)
  | 1, _, h3 =>
    have h4 := h3 (by omega)
    rw [if_neg (by omega), if_neg (by omega), if_neg (by omega), if_neg (by omega), if_pos (.inl rfl)]
    exact gk_it_1 w g o b.toNat (by omega) hy0 n cap hc hcm hn1 (by omega) (by omega)
  | 2, _, h3 =>
    have h4 := h3 (by omega)
    rw [if_neg (by omega), if_neg (by omega), if_neg (by omega), if_neg (by omega)]
    have e : (if 2 = 1 ∨ b.toNat ≤ 32 ∨ b.toNat = 127 then ((0, 1, 1, (b.toNat : Int), ((2 : Nat) : Int)) : Int × Int × Int × Int × Int) else pr 88 2 b.toNat r) = rowsP 88 2 b.toNat r := by
      unfold rowsP
      by_cases h : b.toNat < 33 ∨ 126 < b.toNat
      · rw [if_pos (by omega), if_pos h]
      · rw [if_neg (by omega), if_neg h]
    rw [e]
    exact gk_rows w g o n cap hc hcm _ _ _ _ _ (Hid.mk' (fun w1 hg => gr_anyk 2 g o cap b r n hn w1 (hB.kept0 hg) hc hcm))
theorem ptr_at {w : World} {ao : Option Addr} {b : UInt8} {r : List UInt8} (h : Bytes w ao (b :: r)) : ∃ g o, ao = some ⟨g, o, none⟩ := by
  obtain ⟨g, o, e, _⟩ := first_cell h
  exact ⟨g, o, e⟩
set_option maxHeartbeats 1000000 in
theorem get_any (k md bi ac he : Int) (ao : Option Addr) (cap : Nat) (L : List UInt8) (n : Nat) (hn : L.length = n) (w : World) (hB : Bytes w ao L) (hc : n ≤ cap) (hcm : cap ≤ 9223372036854775807) : Calls Try.prog 8 #[.int .i64 k, stV md bi ac he, .slice ao n cap] w fun e w' => e = .returned (gotV (gE k (mo md bi ac he) L)) ∧ w.grownBy w' none := by
  cases hh : has k with
  | false =>
    have e : gE k (mo md bi ac he) L = (5, 0, 0, 0, 0) := by unfold gE; rw [hh, if_pos rfl]
    rw [e]
    exact pg_e5 k md bi ac he ao n cap w (Hid.mk' (fun w => pc_kind k md bi ac he (Hid.mk' hh) w))
  | true =>
    have hk := has_yes hh
    obtain ⟨m, hm⟩ : ∃ m, mo md bi ac he = m := ⟨_, rfl⟩
    have hl := mo_le md bi ac he
    rw [hm] at hl ⊢
    by_cases h3 : m = 3
    · subst h3
      have e : gE k 3 L = (7, 0, 0, 0, 0) := by unfold gE; rw [hh, if_neg (by simp), if_pos (by omega)]
      rw [e]
      exact pg_e7 k md bi ac he ao n cap w (Hid.mk' (fun w => pcheck_no k hk md bi ac he (Hid.mk' hm) w))
    · obtain ⟨rfl, rfl, rfl, rfl⟩ := mo_fit hm (by omega)
      have hm3 : m < 3 := by omega
      have a1 := Hid.mk' (fun w => pcheck_ok k hk m hm3 w)
      rw [gF_eq hk hm3]
      obtain ⟨hs1, hs2⟩ := sqs_len k m
      have hlen := frP_len L (sqs k m) hs2
      have hfr : ∀ R3, (frP L (sqs k m)).2.2 = R3 → Hid (∀ w1, w.grownBy w1 none → Calls Try.prog 19 #[.int .i64 k, .int .i64 (m : Int)] w1 fun e w2 => ∃ v, e = .returned v ∧ Hid (∀ w3, w2.grownBy w3 none → Calls Try.prog 18 #[.slice ao n cap, v] w3 fun e w4 => e = .returned (.tuple #[.agg (qC (str (frP L (sqs k m)).1) (frP L (sqs k m)).2.1), .int .i64 R3]) ∧ w3.grownBy w4 none) ∧ w1.grownBy w2 none) := fun R3 h3 => Hid.mk' (fun w1 hg1 => (so_any k hk m hm3 w1).mono (fun e w2 h => by
        obtain ⟨A, he, hq, hg⟩ := h
        exact ⟨_, he, Hid.mk' (fun w3 hg3 => front_any ao cap L n hn A (sqs k m) _ rfl hs1 w3 (hB.kept0 (gt hg1 (gt hg hg3))) hc hcm (Hid.mk' (fun wx hgx => hq wx (gt hg3 hgx))) _ _ R3 (Hid.mk' (by rw [h3]))), hg⟩))
      unfold gF
      simp only
      rcases frP_err L (sqs k m) with h0 | h0 | h0
      · rw [if_pos h0]
        exact pg_seq k m ao n cap w _ _ a1 _ (str_size _) (hfr 0 h0)
      · rw [if_neg (by omega), if_pos h0]
        exact pg_more k m ao n cap w _ _ a1 (hfr 1 h0)
      · rw [if_neg (by omega), if_neg (by omega)]
        have hf := hfr 11 h0
        cases L with
        | nil =>
          have := frP_nil hk hm3
          omega
        | cons b r =>
          obtain ⟨g, o, rfl⟩ := ptr_at hB
          have hb := b.toNat_lt
          have hn1 : 0 < n := by rw [← hn]; simp
          have hy0 : Hid (∀ wx, w.grownBy wx none → wx.cell? ⟨g, o, none⟩ = some (.int .u8 (b.toNat : Int))) := Hid.mk' (fun wx hg => by
            obtain ⟨g2, o2, e, hy⟩ := first_cell hB
            cases e
            exact hy wx hg)
          simp only
          by_cases h27 : b.toNat = 27
          · have e : (if k = 83 then jC m b.toNat r else kC m b.toNat r) = (10, 1, 0, 0, (m : Int)) := by
              split
              · unfold jC; rw [if_pos (.inl h27)]
              · unfold kC; rw [if_pos (.inl h27)]
            rw [e]
            rw [h27] at hy0
            exact pg_esc k m w g o hy0 n cap hc hcm hn1 _ _ a1 hf
          · by_cases h128 : 128 ≤ b.toNat
            · have e : (if k = 83 then jC m b.toNat r else kC m b.toNat r) = (10, 1, 0, 0, (m : Int)) := by
                split
                · unfold jC; rw [if_pos (.inr h128)]
                · unfold kC; rw [if_pos (.inr (.inl h128))]
              rw [e]
              exact pg_high k m w g o b.toNat (by omega) hy0 n cap hc hcm hn1 _ _ a1 hf h128
            · rcases hk with rfl | rfl
              · rw [if_pos rfl]
                exact pg_j m w g o b.toNat (by omega) hy0 n cap hc hcm hn1 _ _ a1 hf (by omega) h27 _ _ _ _ _ (Hid.mk' (fun w1 hg => getJ_any m hm3 g o cap b r n hn w1 (hB.kept0 hg) hc hcm (by omega) h27))
              · rw [if_neg (by omega)]
                exact pg_k m w g o b.toNat (by omega) hy0 n cap hc hcm hn1 _ _ a1 hf (by omega) h27 _ _ _ _ _ (Hid.mk' (fun w1 hg => getK_any m hm3 g o cap b r n hn w1 (hB.kept0 hg) hc hcm (by omega) h27 (fun h => frP_14 hm3 h h0)))
theorem con : Con (fun _ => True) where
  keep _ _ := trivial
  has k hk X hX w _ := phas k X hX w
  get k hk md bi ac he ao cap L n hn w hB hc hcm _ := get_any k md bi ac he ao cap L n hn w hB hc hcm
  set k hk md bi ac he u hu w _ := set_any k md bi ac he u w
  fin k hk md bi ac he w m hm _ := end_any k md bi ac he m hm w
end Go.Proofs.Ytdobjijebalkkaa.C21

/- The laws of layer 21 over the program's contracts (text IQ21: con). -/
namespace Go.Proofs.Ytdobjijebalkkaa.C21
open Go.Joins Go.ChangeShapes Go.WideShapes Go.ChangeAt Go.RowKit Go.Proofs.Ytdobjijebalkkaa.Mem Go.Proofs.Ytdobjijebalkkaa.El Go.Proofs.Ytdobjijebalkkaa.Ru Go.Proofs.Ytdobjijebalkkaa.Sp
set_option linter.unusedVariables false
set_option linter.unusedSimpArgs false

theorem cells_state : Try.prog.cellsOf 24 = 4 := by kernel_rfl
theorem state_open {H : Type} {enc : TypeId × Value → H} {w : World} {r : Reach} {b0 base : Nat} {spare : Nat → Bool} {held : Bool} {v : Value} {d : DataW H} {p : List MemPlace} (hv : Value.okWide Try.prog w r b0 24 v) (h : DataW.Trod enc Try.prog w base spare held 24 v d p) :
    ∃ md bi ac he : Int, v = .agg #[.int .i64 md, .int .i64 bi, .int .u32 ac, .int .i32 he] ∧ d = .agg [.lit (.int .i64 md), .lit (.int .i64 bi), .lit (.int .u32 ac), .lit (.int .i32 he)] ∧ p = [] ∧
      (Lit.int .i64 md).wf = true ∧ (Lit.int .i64 bi).wf = true ∧ (Lit.int .u32 ac).wf = true ∧ (Lit.int .i32 he).wf = true := by
  obtain ⟨c0, c1, c2, c3, y0, y1, y2, y3, m, rfl, rfl, rfl, hy0, hy1, hy2, hy3⟩ := open_agg4 Try.underlying24 (by kernel_rfl) cells_state hv h
  obtain ⟨a, e0, rfl, wa⟩ := DataW.trod_int Try.underlying3 hy0
  obtain ⟨b, e1, rfl, wb⟩ := DataW.trod_int Try.underlying3 hy1
  obtain ⟨c, e2, rfl, wc⟩ := DataW.trod_int Try.underlying22 hy2
  obtain ⟨d, e3, rfl, wd⟩ := DataW.trod_int Try.underlying21 hy3
  simp at e0 e1 e2 e3
  subst e0 e1 e2 e3
  exact ⟨a, b, c, d, rfl, rfl, rfl, wa, wb, wc, wd⟩
theorem state_shut {H : Type} {enc : TypeId × Value → H} {w : World} {base : Nat} {spare : Nat → Bool} {held : Bool} {md bi ac he : Int} (wa : (Lit.int .i64 md).wf = true) (wb : (Lit.int .i64 bi).wf = true) (wc : (Lit.int .u32 ac).wf = true) (wd : (Lit.int .i32 he).wf = true) :
    DataW.Trod enc Try.prog w base spare held 24 (.agg #[.int .i64 md, .int .i64 bi, .int .u32 ac, .int .i32 he]) (.agg [.lit (.int .i64 md), .lit (.int .i64 bi), .lit (.int .u32 ac), .lit (.int .i32 he)]) [] :=
  shut_agg4 (y0 := (.lit (.int .i64 md), [])) (y1 := (.lit (.int .i64 bi), [])) (y2 := (.lit (.int .u32 ac), [])) (y3 := (.lit (.int .i32 he), [])) Try.underlying24 (by kernel_rfl) cells_state
    ⟨1, by simp [DataW.trod, Try.underlying3, wa]⟩ ⟨1, by simp [DataW.trod, Try.underlying3, wb]⟩ ⟨1, by simp [DataW.trod, Try.underlying22, wc]⟩ ⟨1, by simp [DataW.trod, Try.underlying21, wd]⟩
theorem below_g {w w' : World} (h : w.grownBy w' none) : Below w.heap.size w w' := ⟨h.os, h.tape, h.output, h.size, fun k hk => h.block k hk (by simp)⟩
theorem i32_wf {n : Int} (h : (Lit.int .i32 n).wf = true) : I32 n := by
  rw [Lit.wf_int_iff] at h
  exact h
theorem ru_cells (L : List Int) : RuE.cells L = L.map (Value.int .i32) := by
  induction L with
  | nil => rfl
  | cons x L ih => rw [cells_cons, ih]; rfl
theorem runes_of_row {w : World} {a : Option Addr} {len cap : Nat} {z : List Int}
    (h : (a = none ∧ len = 0 ∧ cap = 0 ∧ z = []) ∨ ∃ x, a = some x ∧ len ≤ cap ∧ cap ≤ 140737488351232 ∧ z.length = cap ∧ (∀ i, i < z.length → w.cell? (x.add i) = some (.int .i32 (z.getD i 0))) ∧ ∀ n ∈ z, (Lit.int .i32 n).wf = true) :
    ∃ L : List Int, L.length = len ∧ RuE.Rd w a L ∧ (∀ u ∈ L, I32 u) ∧ len ≤ cap ∧ cap ≤ 140737488351232 := by
  rcases h with ⟨rfl, rfl, rfl, rfl⟩ | ⟨x, rfl, h1, h2, h3, hc, hw⟩
  · exact ⟨[], rfl, .inl ⟨rfl, rfl⟩, by simp, by omega, by omega⟩
  · refine ⟨z.take len, by simp; omega, .inr ⟨x, rfl, fun j u hu => ?_⟩, fun u hu => i32_wf (hw u (List.mem_of_mem_take hu)), h1, h2⟩
    rw [ru_cells, List.getElem?_map] at hu
    cases hj : (z.take len)[j]? with
    | none => rw [hj] at hu; cases hu
    | some y =>
      rw [hj] at hu
      cases hu
      have hjz : z[j]? = some y := by
        rw [List.getElem?_take] at hj
        split at hj
        · exact hj
        · cases hj
      obtain ⟨hjl, e⟩ := List.getElem?_eq_some_iff.1 hjz
      rw [hc j hjl, List.getD_eq_getElem?_getD, hjz]
      rfl
theorem wf64 {n : Int} (h : (Lit.int .i64 n).wf = true) : I64 n := by
  rw [Lit.wf_int_iff] at h
  exact h
theorem gets_law (a md bi ac he : Int) (ao : Option Addr) (cap : Nat) (L : List UInt8) (w : World) (ha : (Lit.int .i64 a).wf = true) (hB : Bytes w ao L) (hLc : L.length ≤ cap) (hcm : cap ≤ 140737488351232) : Calls Try.prog 3 #[.int .i64 a, stV md bi ac he, .slice ao L.length cap] w fun e w' => e = .returned (.bool true) ∧ Below w.heap.size w w' :=
  (gets_walk con a (wf64 ha) md bi ac he ao cap L w trivial hB hLc hcm).mono (fun e w' h => ⟨h.1, below_g h.2⟩)
theorem sets_law (a md bi ac he u : Int) (w : World) (ha : (Lit.int .i64 a).wf = true) (hu : (Lit.int .i32 u).wf = true) : Calls Try.prog 4 #[.int .i64 a, stV md bi ac he, .int .i32 u] w fun e w' => e = .returned (.bool true) ∧ Below w.heap.size w w' :=
  (sets_walk con a (wf64 ha) md bi ac he u (i32_wf hu) w trivial).mono (fun e w' h => ⟨h.1, below_g h.2⟩)
theorem plain_law (ao : Option Addr) (cap : Nat) (L : List UInt8) (w : World) (hB : Bytes w ao L) (hLc : L.length ≤ cap) (hcm : cap ≤ 140737488351232) : Calls Try.prog 7 #[.slice ao L.length cap] w fun e w' => e = .returned (.bool true) ∧ Below w.heap.size w w' :=
  (plain_walk con ao cap L L.length rfl w trivial hB hLc hcm).mono (fun e w' h => ⟨h.1, below_g h.2⟩)
theorem back_law (kr : Bool) (a : Option Addr) (len cap : Nat) (z : List Int) (w : World) (h : (a = none ∧ len = 0 ∧ cap = 0 ∧ z = []) ∨ ∃ x, a = some x ∧ len ≤ cap ∧ cap ≤ 140737488351232 ∧ z.length = cap ∧ (∀ i, i < z.length → w.cell? (x.add i) = some (.int .i32 (z.getD i 0))) ∧ ∀ n ∈ z, (Lit.int .i32 n).wf = true) : Calls Try.prog 5 #[.bool kr, .slice a len cap] w fun e w' => e = .returned (.bool true) ∧ Below w.heap.size w w' := by
  obtain ⟨L, hl, hR, hI, h1, h2⟩ := runes_of_row h
  cases kr with
  | false => exact (back_j con a cap L len hl w trivial hR hI h1 h2).mono (fun e w' h => ⟨h.1, below_g h.2⟩)
  | true => exact (back_k con a cap L len hl w trivial hR hI h1 h2).mono (fun e w' h => ⟨h.1, below_g h.2⟩)
theorem cuts_law (kr : Bool) (a : Option Addr) (len cap : Nat) (z : List Int) (at_ : Int) (w : World) (h : (a = none ∧ len = 0 ∧ cap = 0 ∧ z = []) ∨ ∃ x, a = some x ∧ len ≤ cap ∧ cap ≤ 140737488351232 ∧ z.length = cap ∧ (∀ i, i < z.length → w.cell? (x.add i) = some (.int .i32 (z.getD i 0))) ∧ ∀ n ∈ z, (Lit.int .i32 n).wf = true) (hat : (Lit.int .i64 at_).wf = true) : Calls Try.prog 6 #[.bool kr, .slice a len cap, .int .i64 at_] w fun e w' => e = .returned (.bool true) ∧ Below w.heap.size w w' := by
  obtain ⟨L, hl, hR, hI, h1, h2⟩ := runes_of_row h
  cases kr with
  | false => exact (cuts_j con a cap L len hl at_ w trivial hR hI h1 h2).mono (fun e w' h => ⟨h.1, below_g h.2⟩)
  | true => exact (cuts_k con a cap L len hl at_ w trivial hR hI h1 h2).mono (fun e w' h => ⟨h.1, below_g h.2⟩)
end Go.Proofs.Ytdobjijebalkkaa.C21

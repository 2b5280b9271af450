/- The program's pair, Get and Set of layer 19: walks, a way each. -/
import Derived.Test.YtdphkpjamclhjaaJM19
import Derived.Test.YtdphkpjamclhjaaRS16
import Derived.Test.YtdphkpjamclhjaaRegion
import Derived.Test.YtdphkpjamclhjaaCs
import Derived.Deep.RegionHeld3
import Derived.BigQuiet
namespace Go.Proofs.Ytdphkpjamclhjaa.C19
open Go.ChangeShapes Go.WideShapes Go.ChangeAt Go.RowKit Go.Proofs.Ytdphkpjamclhjaa.Mem Go.Proofs.Ytdphkpjamclhjaa.Cb Go.Proofs.Ytdphkpjamclhjaa.Sp
set_option linter.unusedVariables false
set_option linter.unusedSimpArgs false

abbrev aC (x y : Int) : Array Value := #[.int .u8 x, .int .u8 y]
theorem infoA2 : (Try.prog.info? 50).map (·.size) = some 2 := by kernel_rfl
theorem zeroA2 (w : World) : (zeroValue 50).run Try.prog w = .ok (.agg (aC 0 0)) w := by kernel_rfl
theorem aC_one (x y : Int) : (aC x y).all (·.oneCell') = true := by kernel_rfl
theorem ca_bytes {w : World} {B T : Nat} {x y : Nat} (hx : x < 256) (hy : y < 256) (h : CA w B T (aC (x : Int) (y : Int))) : Bytes w (some ⟨B, 0, none⟩) [b8 x, b8 y] := .inr ⟨_, rfl, fun j hj => by
  have hj2 : j < 2 := hj
  rw [addr_add]
  match j, hj2 with
  | 0, _ => refine h.cell 0 ?_; simp [b8_nat hx]
  | 1, _ => refine h.cell 1 ?_; simp [b8_nat hy]⟩
theorem conv_ca {w : World} {B T : Nat} {x y : Nat} (hx : x < 256) (hy : y < 256) (h : CA w B T (aC (x : Int) (y : Int))) : (convert 22 9 (.slice (some ⟨B, 0, none⟩) 2 2)).run Try.prog w = .ok (.string (str [b8 x, b8 y])) w := conv (ca_bytes hx hy h) 22 9 2 Try.underlying22 Try.underlying5 Try.underlying9
theorem pSyS (f m l : Int) (h : C16.In3 f m l) (v : Int) (hv : Hid (C16.syV f m l = v)) (w : World) : Calls Try.prog 32 #[.int .i64 f, .int .i64 m, .int .i64 l] w fun e w' => e = .returned (.tuple #[.int .i32 v, .bool true]) ∧ w.grownBy w' none := by
  rw [← hv.out]
  exact (C16.pSyl_yes f m l h w).mono (fun e w' h => ⟨h.1, by rw [h.2]; exact grownBy_refl _ _⟩)
theorem pPaS (u : Int) (h : C16.InS u) (f m l : Int) (h1 : Hid ((u - 44032) / 588 = f ∧ (u - 44032) % 588 / 28 = m ∧ (u - 44032) % 28 = l)) (w : World) : Calls Try.prog 22 #[.int .i32 u] w fun e w' => e = .returned (.tuple #[.int .i64 f, .int .i64 m, .int .i64 l, .bool true]) ∧ w.grownBy w' none := by
  obtain ⟨e1, e2, e3⟩ := h1.out
  rw [← e1, ← e2, ← e3]
  exact (C16.pParts_yes u h w).mono (fun e w' h => ⟨h.1, by rw [h.2]; exact grownBy_refl _ _⟩)
theorem pPaN (u : Int) (h : ¬ C16.InS u) (w : World) : Calls Try.prog 22 #[.int .i32 u] w fun e w' => e = .returned (.tuple #[.int .i64 0, .int .i64 0, .int .i64 0, .bool false]) ∧ w.grownBy w' none :=
  (C16.pParts_no u h w).mono (fun e w' h => ⟨h.1, by rw [h.2]; exact grownBy_refl _ _⟩)
set_option maxRecDepth 100000 in
set_option maxHeartbeats 1000000 in
theorem pp_no (w : World) (b c p k : Nat) (hb : b < 256) (hc : c < 256) (e1 : (b : Int) * 256 = (p : Int)) (o1 : bits .or .i64 (p : Int) (c : Int) = (k : Int)) (x y z : Int) (hU : Hid (upT (k : Int) = (x, y, z, false))) : Calls Try.prog 19 #[.int .u8 (b : Int), .int .u8 (c : Int)] w fun e w' => e = .returned (.agg (gZ 10 2 0 0)) ∧ w.grownBy w' none := by
  have w1 : IntKind.i64.wrap (b : Int) = (b : Int) := wraps_i64 _ (by omega) (by omega)
  have w2 : IntKind.i64.wrap (p : Int) = (p : Int) := wraps_i64 _ (by omega) (by omega)
  have w3 : IntKind.i64.wrap (c : Int) = (c : Int) := wraps_i64 _ (by omega) (by omega)
  go_enter Try.func19, Try.ntmps19
  go_upto_region 1 with (first
    | (refine wpList_allocC _ rfl 28 rfl (gZ 0 0 0 0) (zeroG _) ?_; intro w1 rs1 hgr))
  have hG1 : Hid (w.grownBy w1 none) := Hid.mk' hgr
  have hB2 : Hid (w.heap.size ≤ w.heap.size) := Hid.mk' (Nat.le_refl _)
  obtain ⟨B, hBe⟩ : ∃ B, Hid (w.heap.size = B) := ⟨_, Hid.mk' rfl⟩
  replace hB2 : Hid (w.heap.size ≤ B) := Hid.mk' (by rw [← hBe.out]; exact hB2.out)
  rw [hBe.out] at rs1
  first | rw [hBe.out] | skip
  clear hgr
  go_wp2_with (first
    | (go_at_call 15; refine (pUnpack (k : Int) x y z false hU _).mono ?_; rintro e w2 ⟨rfl, hg⟩; have rs2 := rs1.kept0 hg; have hG2 : Hid (w.grownBy w2 none) := Hid.mk' (gt hG1.out hg); clear rs1 hg )
    | (refine wpList_storeC _ rfl 28 _ _ rfl B (gZ 0 0 0 0) (gZ 10 2 0 0) infoG rfl (gC_one _ _ _ _ _ _ _ _ _) rfl rfl rs2 ?_; intro wz rsz hgz))
  refine bodyPost_ret (v := .agg (gZ 10 2 0 0)) (results_cell_row Try.results19 _ wz B 28 _ (0, 0) _ rfl rsz Try.underlying28 rfl infoG) rfl ⟨rfl, ?_⟩
  exact grownBy_new hG2.out hgz (fun k hk => by have h5 := Option.some.inj hk; have h6 := hB2.out; omega)
set_option maxRecDepth 100000 in
set_option maxHeartbeats 1000000 in
theorem pp_yes (w : World) (b c p k : Nat) (hb : b < 256) (hc : c < 256) (e1 : (b : Int) * 256 = (p : Int)) (o1 : bits .or .i64 (p : Int) (c : Int) = (k : Int)) (x y z v : Int) (hU : Hid (upT (k : Int) = (x, y, z, true))) (h3 : C16.In3 x y z) (hv : Hid (C16.syV x y z = v)) : Calls Try.prog 19 #[.int .u8 (b : Int), .int .u8 (c : Int)] w fun e w' => e = .returned (.agg (gZ 0 2 1 v)) ∧ w.grownBy w' none := by
  have w1 : IntKind.i64.wrap (b : Int) = (b : Int) := wraps_i64 _ (by omega) (by omega)
  have w2 : IntKind.i64.wrap (p : Int) = (p : Int) := wraps_i64 _ (by omega) (by omega)
  have w3 : IntKind.i64.wrap (c : Int) = (c : Int) := wraps_i64 _ (by omega) (by omega)
  go_enter Try.func19, Try.ntmps19
  go_upto_region 1 with (first
    | (refine wpList_allocC _ rfl 28 rfl (gZ 0 0 0 0) (zeroG _) ?_; intro w1 rs1 hgr))
  have hG1 : Hid (w.grownBy w1 none) := Hid.mk' hgr
  have hB2 : Hid (w.heap.size ≤ w.heap.size) := Hid.mk' (Nat.le_refl _)
  obtain ⟨B, hBe⟩ : ∃ B, Hid (w.heap.size = B) := ⟨_, Hid.mk' rfl⟩
  replace hB2 : Hid (w.heap.size ≤ B) := Hid.mk' (by rw [← hBe.out]; exact hB2.out)
  rw [hBe.out] at rs1
  first | rw [hBe.out] | skip
  clear hgr
  go_wp2_with (first
    | (go_at_call 15; refine (pUnpack (k : Int) x y z true hU _).mono ?_; rintro e w2 ⟨rfl, hg⟩; have rs2 := rs1.kept0 hg; have hG2 : Hid (w.grownBy w2 none) := Hid.mk' (gt hG1.out hg); clear rs1 hg )
    | (go_at_call 32; refine (pSyS x y z h3 v hv _).mono ?_; rintro e w3 ⟨rfl, hg⟩; have rs3 := rs2.kept0 hg; have hG3 : Hid (w.grownBy w3 none) := Hid.mk' (gt hG2.out hg); clear rs2 hg )
    | (refine wpList_storeC _ rfl 28 _ _ rfl B (gZ 0 0 0 0) (gZ 0 2 1 v) infoG rfl (gC_one _ _ _ _ _ _ _ _ _) rfl rfl rs3 ?_; intro wz rsz hgz))
  refine bodyPost_ret (v := .agg (gZ 0 2 1 v)) (results_cell_row Try.results19 _ wz B 28 _ (0, 0) _ rfl rsz Try.underlying28 rfl infoG) rfl ⟨rfl, ?_⟩
  exact grownBy_new hG3.out hgz (fun k hk => by have h5 := Option.some.inj hk; have h6 := hB2.out; omega)
set_option maxRecDepth 100000 in
set_option maxHeartbeats 1000000 in
theorem pg_more (w : World) (ao : Option Addr) (cap : Nat) : Calls Try.prog 9 #[.slice ao 0 cap] w fun e w' => e = .returned (.agg (gZ 1 0 0 0)) ∧ w.grownBy w' none := by
  go_enter Try.func9, Try.ntmps9
  go_upto_region 1 with (first
    | (refine wpList_allocC _ rfl 28 rfl (gZ 0 0 0 0) (zeroG _) ?_; intro w1 rs1 hgr))
  have hG1 : Hid (w.grownBy w1 none) := Hid.mk' hgr
  have hB2 : Hid (w.heap.size ≤ w.heap.size) := Hid.mk' (Nat.le_refl _)
  obtain ⟨B, hBe⟩ : ∃ B, Hid (w.heap.size = B) := ⟨_, Hid.mk' rfl⟩
  replace hB2 : Hid (w.heap.size ≤ B) := Hid.mk' (by rw [← hBe.out]; exact hB2.out)
  rw [hBe.out] at rs1
  first | rw [hBe.out] | skip
  clear hgr
  go_wp2_with (first
    | (refine wpList_storeC _ rfl 28 _ _ rfl B (gZ 0 0 0 0) (gZ 1 0 0 0) infoG rfl (gC_one _ _ _ _ _ _ _ _ _) rfl rfl rs1 ?_; intro wz rsz hgz))
  refine bodyPost_ret (v := .agg (gZ 1 0 0 0)) (results_cell_row Try.results9 _ wz B 28 _ (0, 0) _ rfl rsz Try.underlying28 rfl infoG) rfl ⟨rfl, ?_⟩
  exact grownBy_new hG1.out hgz (fun k hk => by have h5 := Option.some.inj hk; have h6 := hB2.out; omega)
set_option maxRecDepth 100000 in
set_option maxHeartbeats 1000000 in
theorem pg_won (w : World) (g o : Nat) (hy0 : Hid (∀ wx, w.grownBy wx none → wx.cell? ⟨g, o, none⟩ = some (.int .u8 92))) (len cap : Nat) (hl2 : len ≤ cap) (hl3 : cap ≤ 9223372036854775807) (hl1 : 0 < len) (hl4 : ((len : Int) == 0) = false)  : Calls Try.prog 9 #[.slice (some ⟨g, o, none⟩) len cap] w fun e w' => e = .returned (.agg (gZ 0 1 1 8361)) ∧ w.grownBy w' none := by
  have hl8 : (0 : Int) < (len : Int) := by omega
  go_enter Try.func9, Try.ntmps9
  go_upto_region 1 with (first
    | (refine wpList_allocC _ rfl 28 rfl (gZ 0 0 0 0) (zeroG _) ?_; intro w1 rs1 hgr))
  have hG1 : Hid (w.grownBy w1 none) := Hid.mk' hgr
  have hB2 : Hid (w.heap.size ≤ w.heap.size) := Hid.mk' (Nat.le_refl _)
  obtain ⟨B, hBe⟩ : ∃ B, Hid (w.heap.size = B) := ⟨_, Hid.mk' rfl⟩
  replace hB2 : Hid (w.heap.size ≤ B) := Hid.mk' (by rw [← hBe.out]; exact hB2.out)
  rw [hBe.out] at rs1
  first | rw [hBe.out] | skip
  clear hgr
  have y0 := hy0.out _ hG1.out
  go_wp2_with (first
    | (refine wpList_storeC _ rfl 28 _ _ rfl B (gZ 0 0 0 0) (gZ 0 1 1 8361) infoG rfl (gC_one _ _ _ _ _ _ _ _ _) rfl rfl rs1 ?_; intro wz rsz hgz))
  refine bodyPost_ret (v := .agg (gZ 0 1 1 8361)) (results_cell_row Try.results9 _ wz B 28 _ (0, 0) _ rfl rsz Try.underlying28 rfl infoG) rfl ⟨rfl, ?_⟩
  exact grownBy_new hG1.out hgz (fun k hk => by have h5 := Option.some.inj hk; have h6 := hB2.out; omega)
set_option maxRecDepth 100000 in
set_option maxHeartbeats 1000000 in
theorem pg_low (w : World) (g o : Nat) (b : Nat) (hy0 : Hid (∀ wx, w.grownBy wx none → wx.cell? ⟨g, o, none⟩ = some (.int .u8 (b : Int)))) (len cap : Nat) (hl2 : len ≤ cap) (hl3 : cap ≤ 9223372036854775807) (hl1 : 0 < len) (hl4 : ((len : Int) == 0) = false) (h1 : b < 128) (h2 : ¬ b = 92) : Calls Try.prog 9 #[.slice (some ⟨g, o, none⟩) len cap] w fun e w' => e = .returned (.agg (gZ 0 1 1 (b : Int))) ∧ w.grownBy w' none := by
  have hl8 : (0 : Int) < (len : Int) := by omega
  have n1 : ((b : Int) == 92) = false := by simp; omega
  have p1 : (b : Int) < 128 := by omega
  have p2 : IntKind.i32.wrap (b : Int) = (b : Int) := by rw [IntKind.wrap_i32]; omega
  go_enter Try.func9, Try.ntmps9
  go_upto_region 1 with (first
    | (refine wpList_allocC _ rfl 28 rfl (gZ 0 0 0 0) (zeroG _) ?_; intro w1 rs1 hgr))
  have hG1 : Hid (w.grownBy w1 none) := Hid.mk' hgr
  have hB2 : Hid (w.heap.size ≤ w.heap.size) := Hid.mk' (Nat.le_refl _)
  obtain ⟨B, hBe⟩ : ∃ B, Hid (w.heap.size = B) := ⟨_, Hid.mk' rfl⟩
  replace hB2 : Hid (w.heap.size ≤ B) := Hid.mk' (by rw [← hBe.out]; exact hB2.out)
  rw [hBe.out] at rs1
  first | rw [hBe.out] | skip
  clear hgr
  have y0 := hy0.out _ hG1.out
  go_wp2_with (first
    | (refine wpList_storeC _ rfl 28 _ _ rfl B (gZ 0 0 0 0) (gZ 0 1 1 (b : Int)) infoG rfl (gC_one _ _ _ _ _ _ _ _ _) rfl rfl rs1 ?_; intro wz rsz hgz))
  refine bodyPost_ret (v := .agg (gZ 0 1 1 (b : Int))) (results_cell_row Try.results9 _ wz B 28 _ (0, 0) _ rfl rsz Try.underlying28 rfl infoG) rfl ⟨rfl, ?_⟩
  exact grownBy_new hG1.out hgz (fun k hk => by have h5 := Option.some.inj hk; have h6 := hB2.out; omega)
set_option maxRecDepth 100000 in
set_option maxHeartbeats 1000000 in
theorem pg_bad (w : World) (g o : Nat) (b : Nat) (hy0 : Hid (∀ wx, w.grownBy wx none → wx.cell? ⟨g, o, none⟩ = some (.int .u8 (b : Int)))) (len cap : Nat) (hl2 : len ≤ cap) (hl3 : cap ≤ 9223372036854775807) (hl1 : 0 < len) (hl4 : ((len : Int) == 0) = false) (h1 : 128 ≤ b) (h2 : b < 256) (hH : Hid (bgR b = false)) : Calls Try.prog 9 #[.slice (some ⟨g, o, none⟩) len cap] w fun e w' => e = .returned (.agg (gZ 10 1 0 0)) ∧ w.grownBy w' none := by
  have hl8 : (0 : Int) < (len : Int) := by omega
  have n1 : ((b : Int) == 92) = false := by simp; omega
  have p1 : ¬ (b : Int) < 128 := by omega
  go_enter Try.func9, Try.ntmps9
  go_upto_region 1 with (first
    | (refine wpList_allocC _ rfl 28 rfl (gZ 0 0 0 0) (zeroG _) ?_; intro w1 rs1 hgr))
  have hG1 : Hid (w.grownBy w1 none) := Hid.mk' hgr
  have hB2 : Hid (w.heap.size ≤ w.heap.size) := Hid.mk' (Nat.le_refl _)
  obtain ⟨B, hBe⟩ : ∃ B, Hid (w.heap.size = B) := ⟨_, Hid.mk' rfl⟩
  replace hB2 : Hid (w.heap.size ≤ B) := Hid.mk' (by rw [← hBe.out]; exact hB2.out)
  rw [hBe.out] at rs1
  first | rw [hBe.out] | skip
  clear hgr
  have y0 := hy0.out _ hG1.out
  go_wp2_with (first
    | (go_at_call 18; refine (pBegins b h1 h2 false hH _).mono ?_; rintro e w2 ⟨rfl, hg⟩; have rs2 := rs1.kept0 hg; have hG2 : Hid (w.grownBy w2 none) := Hid.mk' (gt hG1.out hg); clear y0; have y0 := hy0.out _ hG2.out; clear rs1 hg )
    | (refine wpList_storeC _ rfl 28 _ _ rfl B (gZ 0 0 0 0) (gZ 10 1 0 0) infoG rfl (gC_one _ _ _ _ _ _ _ _ _) rfl rfl rs2 ?_; intro wz rsz hgz))
  refine bodyPost_ret (v := .agg (gZ 10 1 0 0)) (results_cell_row Try.results9 _ wz B 28 _ (0, 0) _ rfl rsz Try.underlying28 rfl infoG) rfl ⟨rfl, ?_⟩
  exact grownBy_new hG2.out hgz (fun k hk => by have h5 := Option.some.inj hk; have h6 := hB2.out; omega)
set_option maxRecDepth 100000 in
set_option maxHeartbeats 1000000 in
theorem pg_one (w : World) (g o : Nat) (b : Nat) (hy0 : Hid (∀ wx, w.grownBy wx none → wx.cell? ⟨g, o, none⟩ = some (.int .u8 (b : Int)))) (cap : Nat) (hl2 : 1 ≤ cap) (hl3 : cap ≤ 9223372036854775807) (h1 : 128 ≤ b) (h2 : b < 256) (hH : Hid (bgR b = true)) : Calls Try.prog 9 #[.slice (some ⟨g, o, none⟩) 1 cap] w fun e w' => e = .returned (.agg (gZ 1 0 0 0)) ∧ w.grownBy w' none := by
  have n1 : ((b : Int) == 92) = false := by simp; omega
  have p1 : ¬ (b : Int) < 128 := by omega
  go_enter Try.func9, Try.ntmps9
  go_upto_region 1 with (first
    | (refine wpList_allocC _ rfl 28 rfl (gZ 0 0 0 0) (zeroG _) ?_; intro w1 rs1 hgr))
  have hG1 : Hid (w.grownBy w1 none) := Hid.mk' hgr
  have hB2 : Hid (w.heap.size ≤ w.heap.size) := Hid.mk' (Nat.le_refl _)
  obtain ⟨B, hBe⟩ : ∃ B, Hid (w.heap.size = B) := ⟨_, Hid.mk' rfl⟩
  replace hB2 : Hid (w.heap.size ≤ B) := Hid.mk' (by rw [← hBe.out]; exact hB2.out)
  rw [hBe.out] at rs1
  first | rw [hBe.out] | skip
  clear hgr
  have y0 := hy0.out _ hG1.out
  go_wp2_with (first
    | (go_at_call 18; refine (pBegins b h1 h2 true hH _).mono ?_; rintro e w2 ⟨rfl, hg⟩; have rs2 := rs1.kept0 hg; have hG2 : Hid (w.grownBy w2 none) := Hid.mk' (gt hG1.out hg); clear y0; have y0 := hy0.out _ hG2.out; clear rs1 hg )
    | (refine wpList_storeC _ rfl 28 _ _ rfl B (gZ 0 0 0 0) (gZ 1 0 0 0) infoG rfl (gC_one _ _ _ _ _ _ _ _ _) rfl rfl rs2 ?_; intro wz rsz hgz))
  refine bodyPost_ret (v := .agg (gZ 1 0 0 0)) (results_cell_row Try.results9 _ wz B 28 _ (0, 0) _ rfl rsz Try.underlying28 rfl infoG) rfl ⟨rfl, ?_⟩
  exact grownBy_new hG2.out hgz (fun k hk => by have h5 := Option.some.inj hk; have h6 := hB2.out; omega)
set_option maxRecDepth 100000 in
set_option maxHeartbeats 1000000 in
theorem pg_pair (w : World) (g o : Nat) (b : Nat) (hy0 : Hid (∀ wx, w.grownBy wx none → wx.cell? ⟨g, o, none⟩ = some (.int .u8 (b : Int)))) (c : Nat) (hy1 : Hid (∀ wx, w.grownBy wx none → wx.cell? ⟨g, o + 1, none⟩ = some (.int .u8 (c : Int)))) (len cap : Nat) (hl2 : len ≤ cap) (hl3 : cap ≤ 9223372036854775807) (hl1 : 1 < len) (hl4 : ((len : Int) == 0) = false) (hl5 : ((len : Int) == 1) = false) (h1 : 128 ≤ b) (h2 : b < 256) (hH : Hid (bgR b = true)) (ge gn gk ga : Int) (hp : Hid (∀ w1, w.grownBy w1 none → Calls Try.prog 19 #[.int .u8 (b : Int), .int .u8 (c : Int)] w1 fun e w2 => e = .returned (.agg (gZ ge gn gk ga)) ∧ w1.grownBy w2 none)) : Calls Try.prog 9 #[.slice (some ⟨g, o, none⟩) len cap] w fun e w' => e = .returned (.agg (gZ ge gn gk ga)) ∧ w.grownBy w' none := by
  have hl7 : 0 < len := by omega
  have hl8 : (0 : Int) < (len : Int) := by omega
  have hl9 : (1 : Int) < (len : Int) := by omega
  have n1 : ((b : Int) == 92) = false := by simp; omega
  have p1 : ¬ (b : Int) < 128 := by omega
  go_enter Try.func9, Try.ntmps9
  go_upto_region 1 with (first
    | (refine wpList_allocC _ rfl 28 rfl (gZ 0 0 0 0) (zeroG _) ?_; intro w1 rs1 hgr))
  have hG1 : Hid (w.grownBy w1 none) := Hid.mk' hgr
  have hB2 : Hid (w.heap.size ≤ w.heap.size) := Hid.mk' (Nat.le_refl _)
  obtain ⟨B, hBe⟩ : ∃ B, Hid (w.heap.size = B) := ⟨_, Hid.mk' rfl⟩
  replace hB2 : Hid (w.heap.size ≤ B) := Hid.mk' (by rw [← hBe.out]; exact hB2.out)
  rw [hBe.out] at rs1
  first | rw [hBe.out] | skip
  clear hgr
  have y0 := hy0.out _ hG1.out
  go_upto_region 11 with (first
    | (go_at_call 18; refine (pBegins b h1 h2 true hH _).mono ?_; rintro e w2 ⟨rfl, hg⟩; have rs2 := rs1.kept0 hg; have hG2 : Hid (w.grownBy w2 none) := Hid.mk' (gt hG1.out hg); clear y0; have y0 := hy0.out _ hG2.out; clear rs1 hg ))
  have hS : Hid (∀ wx, w2.grownBy wx none → wx.cell? ⟨g, o, none⟩ = some (.int .u8 (b : Int)) ∧ wx.cell? ⟨g, o + 1, none⟩ = some (.int .u8 (c : Int))) := Hid.mk' (fun wx hgx => ⟨hy0.out _ (gt hG2.out hgx), hy1.out _ (gt hG2.out hgx)⟩)
  refine wp_region_held_drew (S := fun wx => wx.cell? ⟨g, o, none⟩ = some (.int .u8 (b : Int)) ∧ wx.cell? ⟨g, o + 1, none⟩ = some (.int .u8 (c : Int))) (by kernel_rfl) (hS.out _ (grownBy_drew (grownBy_refl _ _))) (fun hHeld => ?_)
  refine wpAnyH_take (i := 0) (v := ?_) rfl (by kernel_rfl) (by kernel_rfl) (by kernel_rfl) (fun _ _ _ h => h) (Or.inl ⟨by rfl, ?_⟩) (by assumption) ?_; rotate_left
  · (intro w hSw; (try dsimp only at hSw); go_simp; try with_reducible rfl)
  try simp only [List.getElem_toArray, List.getElem_cons_zero, Act.put, List.setIfInBounds_toArray, List.set_cons_zero, List.set_cons_succ]
  refine wpAnyH_take (i := 1) (v := ?_) rfl (by kernel_rfl) (by kernel_rfl) (by kernel_rfl) (fun _ _ _ h => h) (Or.inl ⟨by rfl, ?_⟩) (by assumption) ?_; rotate_left
  · (intro w hSw; (try dsimp only at hSw); go_simp; try with_reducible rfl)
  try simp only [List.getElem_toArray, List.getElem_cons_zero, List.getElem_cons_succ, Act.put, List.setIfInBounds_toArray, List.set_cons_zero, List.set_cons_succ]
  refine wpAnyH_take (i := 2) (v := ?_) rfl (by kernel_rfl) (by kernel_rfl) (by kernel_rfl) (fun _ _ _ h => h) (Or.inl ⟨by rfl, ?_⟩) (by assumption) ?_; rotate_left
  · (intro w hSw; (try dsimp only at hSw); go_simp; try with_reducible rfl)
  try simp only [List.getElem_toArray, List.getElem_cons_zero, List.getElem_cons_succ, Act.put, List.setIfInBounds_toArray, List.set_cons_zero, List.set_cons_succ]
  refine wpAnyH_take (i := 3) (v := ?_) rfl (by kernel_rfl) (by kernel_rfl) (by kernel_rfl) (fun _ _ _ h => h) (Or.inl ⟨by rfl, ?_⟩) (by assumption) ?_; rotate_left
  · (intro w hSw; (try dsimp only at hSw); go_simp; try with_reducible rfl)
  try simp only [List.getElem_toArray, List.getElem_cons_zero, List.getElem_cons_succ, Act.put, List.setIfInBounds_toArray, List.set_cons_zero, List.set_cons_succ]
  refine wpAnyH_take (i := 4) (v := ?_) rfl (by kernel_rfl) (by kernel_rfl) (by kernel_rfl) (fun _ _ _ h => h) (Or.inl ⟨by rfl, ?_⟩) (by assumption) ?_; rotate_left
  · (intro w hSw; (try dsimp only at hSw); go_simp; try with_reducible rfl)
  try simp only [List.getElem_toArray, List.getElem_cons_zero, List.getElem_cons_succ, Act.put, List.setIfInBounds_toArray, List.set_cons_zero, List.set_cons_succ]
  refine wpAnyH_take (i := 5) (v := ?_) rfl (by kernel_rfl) (by kernel_rfl) (by kernel_rfl) (fun _ _ _ h => h) (Or.inl ⟨by rfl, ?_⟩) (by assumption) ?_; rotate_left
  · (intro w hSw; (try dsimp only at hSw); go_simp; try with_reducible rfl)
  try simp only [List.getElem_toArray, List.getElem_cons_zero, List.getElem_cons_succ, Act.put, List.setIfInBounds_toArray, List.set_cons_zero, List.set_cons_succ]
  refine wpAnyH_ready (rs := [6]) (by kernel_rfl) (by simp) ?_
  refine AllReadyH.cons rfl (fun K hK => ?_) AllReadyH.nil
  go_simp
  go_at_call 19; refine (hp.out _ (grownBy_drew hG2.out)).mono ?_; rintro e w3 ⟨rfl, hg⟩; have hg3 : w2.grownBy w3 none := gt (grownBy_drew (grownBy_refl _ _)) hg; have rs3 := rs2.kept0 hg3; have hG3 : Hid (w.grownBy w3 none) := Hid.mk' (gt hG2.out hg3)
  refine hK.out _ _ (hS.out _ hg3) (fun hHeld => ?_)
  clear hK K
  try simp only [List.getElem_toArray, List.getElem_cons_zero, List.getElem_cons_succ, Act.put, List.setIfInBounds_toArray, List.set_cons_zero, List.set_cons_succ]
  refine wpAnyH_ready (rs := [7]) (by kernel_rfl) (by simp) ?_
  refine AllReadyH.cons rfl (fun K hK => ?_) AllReadyH.nil
  refine step_storeC (by rfl) 28 _ _ rfl B (gZ 0 0 0 0) (gZ ge gn gk ga) infoG rfl (gC_one _ _ _ _ _ _ _ _ _) rfl rfl rs3 ?_; intro wz rsz hgz; have hb1 := World.block_lt_of_cell? w ⟨g, o, none⟩ (hy0.out _ (grownBy_refl _ _)); have hne : some g ≠ some B := (by intro e; have h5 := Option.some.inj e; have h6 := hB2.out; have h7 : g < w.heap.size := hb1; have h8 : g = B := h5; omega); have hyz := hgz.cell (hy0.out _ hG3.out) hne; have hyz1 := hgz.cell (hy1.out _ hG3.out) hne
  refine hK.out _ _ ⟨hyz, hyz1⟩ (fun hHeld => ?_)
  clear hK K
  try simp only [List.getElem_toArray, List.getElem_cons_zero, List.getElem_cons_succ, Act.put, List.setIfInBounds_toArray, List.set_cons_zero, List.set_cons_succ]
  refine wpAnyH_done (by kernel_rfl) ?_ _
  (try go_wp2)
  refine bodyPost_ret (v := .agg (gZ ge gn gk ga)) (results_cell_row Try.results9 _ wz B 28 _ (0, 0) _ rfl rsz Try.underlying28 rfl infoG) rfl ⟨rfl, ?_⟩
  exact grownBy_new hG3.out hgz (fun k hk => by have h5 := Option.some.inj hk; have h6 := hB2.out; omega)
set_option maxRecDepth 100000 in
set_option maxHeartbeats 1000000 in
theorem ps_won (w : World) : Calls Try.prog 11 #[.int .i32 8361] w fun e w' => e = .returned (.agg (pZ 0 (str [b8 92]))) ∧ w.grownBy w' none := by
  go_enter Try.func11, Try.ntmps11
  go_upto_region 1 with (first
    | (refine wpList_allocC _ rfl 32 rfl (pZ 0 ⟨#[]⟩) (zeroP _) ?_; intro w1 rs1 hgr))
  have hG1 : Hid (w.grownBy w1 none) := Hid.mk' hgr
  have hB2 : Hid (w.heap.size ≤ w.heap.size) := Hid.mk' (Nat.le_refl _)
  obtain ⟨B, hBe⟩ : ∃ B, Hid (w.heap.size = B) := ⟨_, Hid.mk' rfl⟩
  replace hB2 : Hid (w.heap.size ≤ B) := Hid.mk' (by rw [← hBe.out]; exact hB2.out)
  rw [hBe.out] at rs1
  first | rw [hBe.out] | skip
  clear hgr
  have hcv : (convert 22 9 (.slice (some ⟨w1.heap.size, 0, none⟩) 1 1)).run Try.prog (w1.alloc (.cells #[.int .u8 92] 5)) = .ok (.string (str [b8 92])) (w1.alloc (.cells #[.int .u8 92] 5)) := conv_one (b := 92) (by decide) w1
  go_wp2_with (first
    | (refine wpList_storeC _ rfl 32 _ _ rfl B (pZ 0 ⟨#[]⟩) (pZ 0 (str [b8 92])) infoP rfl (pC_one _ _ _ _ _ _) rfl rfl (rs1.kept0 (World.grownBy_alloc _ _ _)) ?_; intro wz rsz hgz))
  refine bodyPost_ret (v := .agg (pZ 0 (str [b8 92]))) (results_cell_row Try.results11 _ wz B 32 _ (0, 0) _ rfl rsz Try.underlying32 rfl infoP) rfl ⟨rfl, ?_⟩
  exact grownBy_new (gt hG1.out (World.grownBy_alloc _ _ _)) hgz (fun k hk => by have h5 := Option.some.inj hk; have h6 := hB2.out; omega)
set_option maxRecDepth 100000 in
set_option maxHeartbeats 1000000 in
theorem ps_back (w : World) : Calls Try.prog 11 #[.int .i32 92] w fun e w' => e = .returned (.agg (pZ 11 ⟨#[]⟩)) ∧ w.grownBy w' none := by
  go_enter Try.func11, Try.ntmps11
  go_upto_region 1 with (first
    | (refine wpList_allocC _ rfl 32 rfl (pZ 0 ⟨#[]⟩) (zeroP _) ?_; intro w1 rs1 hgr))
  have hG1 : Hid (w.grownBy w1 none) := Hid.mk' hgr
  have hB2 : Hid (w.heap.size ≤ w.heap.size) := Hid.mk' (Nat.le_refl _)
  obtain ⟨B, hBe⟩ : ∃ B, Hid (w.heap.size = B) := ⟨_, Hid.mk' rfl⟩
  replace hB2 : Hid (w.heap.size ≤ B) := Hid.mk' (by rw [← hBe.out]; exact hB2.out)
  rw [hBe.out] at rs1
  first | rw [hBe.out] | skip
  clear hgr
  go_wp2_with (first
    | (refine wpList_storeC _ rfl 32 _ _ rfl B (pZ 0 ⟨#[]⟩) (pZ 11 ⟨#[]⟩) infoP rfl (pC_one _ _ _ _ _ _) rfl rfl rs1 ?_; intro wz rsz hgz))
  refine bodyPost_ret (v := .agg (pZ 11 ⟨#[]⟩)) (results_cell_row Try.results11 _ wz B 32 _ (0, 0) _ rfl rsz Try.underlying32 rfl infoP) rfl ⟨rfl, ?_⟩
  exact grownBy_new hG1.out hgz (fun k hk => by have h5 := Option.some.inj hk; have h6 := hB2.out; omega)
set_option maxRecDepth 100000 in
set_option maxHeartbeats 1000000 in
theorem ps_low (b : Nat) (hb : b < 128) (hn : ¬ b = 92) (w : World) : Calls Try.prog 11 #[.int .i32 (b : Int)] w fun e w' => e = .returned (.agg (pZ 0 (str [b8 b]))) ∧ w.grownBy w' none := by
  have n1 : ((b : Int) == 8361) = false := by simp; omega
  have n2 : ((b : Int) == 92) = false := by simp; omega
  have n3 : decide (0 ≤ (b : Int)) = true := decide_eq_true (by omega)
  have n4 : decide ((b : Int) < 128) = true := decide_eq_true (by omega)
  have n5 : (b : Int) < 256 := by omega
  go_enter Try.func11, Try.ntmps11
  go_upto_region 1 with (first
    | (refine wpList_allocC _ rfl 32 rfl (pZ 0 ⟨#[]⟩) (zeroP _) ?_; intro w1 rs1 hgr))
  have hG1 : Hid (w.grownBy w1 none) := Hid.mk' hgr
  have hB2 : Hid (w.heap.size ≤ w.heap.size) := Hid.mk' (Nat.le_refl _)
  obtain ⟨B, hBe⟩ : ∃ B, Hid (w.heap.size = B) := ⟨_, Hid.mk' rfl⟩
  replace hB2 : Hid (w.heap.size ≤ B) := Hid.mk' (by rw [← hBe.out]; exact hB2.out)
  rw [hBe.out] at rs1
  first | rw [hBe.out] | skip
  clear hgr
  have hcv := conv_one (show b < 256 by omega) w1
  go_wp2_with (first
    | (refine wpList_storeC _ rfl 32 _ _ rfl B (pZ 0 ⟨#[]⟩) (pZ 0 (str [b8 b])) infoP rfl (pC_one _ _ _ _ _ _) rfl rfl (rs1.kept0 (World.grownBy_alloc _ _ _)) ?_; intro wz rsz hgz))
  refine bodyPost_ret (v := .agg (pZ 0 (str [b8 b]))) (results_cell_row Try.results11 _ wz B 32 _ (0, 0) _ rfl rsz Try.underlying32 rfl infoP) rfl ⟨rfl, ?_⟩
  exact grownBy_new (gt hG1.out (World.grownBy_alloc _ _ _)) hgz (fun k hk => by have h5 := Option.some.inj hk; have h6 := hB2.out; omega)
set_option maxRecDepth 100000 in
set_option maxHeartbeats 1000000 in
theorem ps_nonea (u : Int) (h1 : ¬ u = 8361) (h2 : ¬ u = 92) (h3 : u < 0) (hS : ¬ C16.InS u) (w : World) : Calls Try.prog 11 #[.int .i32 u] w fun e w' => e = .returned (.agg (pZ 11 ⟨#[]⟩)) ∧ w.grownBy w' none := by
  have n1 : (u == 8361) = false := by simpa using h1
  have n2 : (u == 92) = false := by simpa using h2
  have n3 : decide (0 ≤ u) = false := decide_eq_false (by omega)
  go_enter Try.func11, Try.ntmps11
  go_upto_region 1 with (first
    | (refine wpList_allocC _ rfl 32 rfl (pZ 0 ⟨#[]⟩) (zeroP _) ?_; intro w1 rs1 hgr))
  have hG1 : Hid (w.grownBy w1 none) := Hid.mk' hgr
  have hB2 : Hid (w.heap.size ≤ w.heap.size) := Hid.mk' (Nat.le_refl _)
  obtain ⟨B, hBe⟩ : ∃ B, Hid (w.heap.size = B) := ⟨_, Hid.mk' rfl⟩
  replace hB2 : Hid (w.heap.size ≤ B) := Hid.mk' (by rw [← hBe.out]; exact hB2.out)
  rw [hBe.out] at rs1
  first | rw [hBe.out] | skip
  clear hgr
  go_wp2_with (first
    | (go_at_call 22; refine (pPaN u hS _).mono ?_; rintro e w2 ⟨rfl, hg⟩; have rs2 := rs1.kept0 hg; have hG2 : Hid (w.grownBy w2 none) := Hid.mk' (gt hG1.out hg); clear rs1 hg )
    | (refine wpList_storeC _ rfl 32 _ _ rfl B (pZ 0 ⟨#[]⟩) (pZ 11 ⟨#[]⟩) infoP rfl (pC_one _ _ _ _ _ _) rfl rfl rs2 ?_; intro wz rsz hgz))
  refine bodyPost_ret (v := .agg (pZ 11 ⟨#[]⟩)) (results_cell_row Try.results11 _ wz B 32 _ (0, 0) _ rfl rsz Try.underlying32 rfl infoP) rfl ⟨rfl, ?_⟩
  exact grownBy_new hG2.out hgz (fun k hk => by have h5 := Option.some.inj hk; have h6 := hB2.out; omega)
set_option maxRecDepth 100000 in
set_option maxHeartbeats 1000000 in
theorem ps_noneb (u : Int) (h1 : ¬ u = 8361) (h2 : ¬ u = 92) (h3 : 128 ≤ u) (hS : ¬ C16.InS u) (w : World) : Calls Try.prog 11 #[.int .i32 u] w fun e w' => e = .returned (.agg (pZ 11 ⟨#[]⟩)) ∧ w.grownBy w' none := by
  have n1 : (u == 8361) = false := by simpa using h1
  have n2 : (u == 92) = false := by simpa using h2
  have n3 : decide (0 ≤ u) = true := decide_eq_true (by omega)
  have n4 : decide (u < 128) = false := decide_eq_false (by omega)
  go_enter Try.func11, Try.ntmps11
  go_upto_region 1 with (first
    | (refine wpList_allocC _ rfl 32 rfl (pZ 0 ⟨#[]⟩) (zeroP _) ?_; intro w1 rs1 hgr))
  have hG1 : Hid (w.grownBy w1 none) := Hid.mk' hgr
  have hB2 : Hid (w.heap.size ≤ w.heap.size) := Hid.mk' (Nat.le_refl _)
  obtain ⟨B, hBe⟩ : ∃ B, Hid (w.heap.size = B) := ⟨_, Hid.mk' rfl⟩
  replace hB2 : Hid (w.heap.size ≤ B) := Hid.mk' (by rw [← hBe.out]; exact hB2.out)
  rw [hBe.out] at rs1
  first | rw [hBe.out] | skip
  clear hgr
  go_wp2_with (first
    | (go_at_call 22; refine (pPaN u hS _).mono ?_; rintro e w2 ⟨rfl, hg⟩; have rs2 := rs1.kept0 hg; have hG2 : Hid (w.grownBy w2 none) := Hid.mk' (gt hG1.out hg); clear rs1 hg )
    | (refine wpList_storeC _ rfl 32 _ _ rfl B (pZ 0 ⟨#[]⟩) (pZ 11 ⟨#[]⟩) infoP rfl (pC_one _ _ _ _ _ _) rfl rfl rs2 ?_; intro wz rsz hgz))
  refine bodyPost_ret (v := .agg (pZ 11 ⟨#[]⟩)) (results_cell_row Try.results11 _ wz B 32 _ (0, 0) _ rfl rsz Try.underlying32 rfl infoP) rfl ⟨rfl, ?_⟩
  exact grownBy_new hG2.out hgz (fun k hk => by have h5 := Option.some.inj hk; have h6 := hB2.out; omega)
set_option maxRecDepth 100000 in
set_option maxHeartbeats 1000000 in
theorem ps_syl (u : Int) (h1 : ¬ u = 8361) (h2 : ¬ u = 92) (h3 : 128 ≤ u) (hS : C16.InS u) (f m l : Int) (hQ : Hid ((u - 44032) / 588 = f ∧ (u - 44032) % 588 / 28 = m ∧ (u - 44032) % 28 = l)) (k : Nat) (hK : Hid (pkT f m l = ((k : Int), true))) (q x y : Nat) (e1 : (k : Int) / 256 = (q : Int)) (e2 : IntKind.u8.wrap (q : Int) = (x : Int)) (e3 : IntKind.u8.wrap (k : Int) = (y : Int)) (hx : x < 256) (hy : y < 256) (w : World) : Calls Try.prog 11 #[.int .i32 u] w fun e w' => e = .returned (.agg (pZ 0 (str [b8 x, b8 y]))) ∧ w.grownBy w' none := by
  have n1 : (u == 8361) = false := by simpa using h1
  have n2 : (u == 92) = false := by simpa using h2
  have n3 : decide (0 ≤ u) = true := decide_eq_true (by omega)
  have n4 : decide (u < 128) = false := decide_eq_false (by omega)
  go_enter Try.func11, Try.ntmps11
  go_upto_region 1 with (first
    | (refine wpList_allocC _ rfl 32 rfl (pZ 0 ⟨#[]⟩) (zeroP _) ?_; intro w1 rs1 hgr))
  have hG1 : Hid (w.grownBy w1 none) := Hid.mk' hgr
  have hB2 : Hid (w.heap.size ≤ w.heap.size) := Hid.mk' (Nat.le_refl _)
  obtain ⟨B, hBe⟩ : ∃ B, Hid (w.heap.size = B) := ⟨_, Hid.mk' rfl⟩
  replace hB2 : Hid (w.heap.size ≤ B) := Hid.mk' (by rw [← hBe.out]; exact hB2.out)
  rw [hBe.out] at rs1
  first | rw [hBe.out] | skip
  clear hgr
  go_upto_region 12 with (first
    | (go_at_call 22; refine (pPaS u hS f m l hQ _).mono ?_; rintro e w2 ⟨rfl, hg⟩; have rs2 := rs1.kept0 hg; have hG2 : Hid (w.grownBy w2 none) := Hid.mk' (gt hG1.out hg); clear rs1 hg )
    | (go_at_call 13; refine (pPack f m l (k : Int) true hK _).mono ?_; rintro e w3 ⟨rfl, hg⟩; have rs3 := rs2.kept0 hg; have hG3 : Hid (w.grownBy w3 none) := Hid.mk' (gt hG2.out hg); clear rs2 hg )
    | (refine wpList_allocC _ rfl 50 rfl (aC 0 0) (zeroA2 _) ?_; intro w4 vsp4 hg; have hsp : Hid (w.heap.size ≤ w3.heap.size) := Hid.mk' hG3.out.size; have hnep : Hid (B < w3.heap.size) := Hid.mk' rs3.lt; obtain ⟨Vp, hVp⟩ : ∃ V, Hid (w3.heap.size = V) := ⟨_, Hid.mk' rfl⟩; have rs4 := rs3.kept0 hg; have hG4 : Hid (w.grownBy w4 none) := Hid.mk' (gt hG3.out hg); clear rs3 hg ; rw [hVp.out] at vsp4 hsp hnep; rw [hVp.out])
    | (refine wpList_storeC _ rfl 50 _ _ rfl Vp (aC 0 0) (aC (x : Int) (y : Int)) infoA2 rfl (aC_one _ _) rfl rfl vsp4 ?_; intro w5 vsp5 hg; have rs5 := rs4.kept hg (by have := hnep.out; intro e; have h5 := Option.some.inj e; omega); have hG5 : Hid (w.grownBy w5 none) := Hid.mk' (grownBy_new hG4.out hg (fun q hq => by have h5 := Option.some.inj hq; have h6 := hsp.out; omega)); clear rs4 hg vsp4 ; have hcv := conv_ca hx hy vsp5))
  go_wp2_with (first
    | (refine wpList_storeC _ rfl 32 _ _ rfl B (pZ 0 ⟨#[]⟩) (pZ 0 (str [b8 x, b8 y])) infoP rfl (pC_one _ _ _ _ _ _) rfl rfl rs5 ?_; intro wz rsz hgz))
  refine bodyPost_ret (v := .agg (pZ 0 (str [b8 x, b8 y]))) (results_cell_row Try.results11 _ wz B 32 _ (0, 0) _ rfl rsz Try.underlying32 rfl infoP) rfl ⟨rfl, ?_⟩
  exact grownBy_new hG5.out hgz (fun k hk => by have h5 := Option.some.inj hk; have h6 := hB2.out; omega)
end Go.Proofs.Ytdphkpjamclhjaa.C19

/- WideBack: walks. -/
import Derived.Test.YtkfcciacoplgmaaWBackM
import Derived.Deep.RegionHeld3
import Derived.BigQuiet
namespace Go.Proofs.Ytkfcciacoplgmaa.Wd
open Go.ChangeShapes Go.WideShapes Go.ChangeAt Go.RowKit Go.Proofs.Ytkfcciacoplgmaa.Mem Go.Proofs.Ytkfcciacoplgmaa.Ucs
set_option linter.unusedVariables false
set_option linter.unusedSimpArgs false

set_option maxRecDepth 100000 in
set_option maxHeartbeats 4000000 in
theorem back82_okno1 (a0 a1 u : Int) (hr : Hid (wrap64 ((IntKind.u64.wrap a0).tmod 8) = 5)) (hm : Hid (wrap64 ((IntKind.u64.wrap a1).tmod 3) = 2)) (ao : Option Addr) (cap : Nat) (L : List UInt8) (w : World) (hB : Hid (Bytes w ao L)) (hLc : L.length ≤ cap) (hcm : cap ≤ 140737488351232) (B : List UInt8) (hBl : B.length ≤ 8) (hB0 : 0 < B.length) (hR : Hid (getR 8 2 0 0 0 L = ⟨1, 0, 0, 0, 0⟩)) (hS : Hid (setR 8 2 0 0 0 u = ⟨0, B, 2⟩)) (hG : Hid (getR 8 2 0 0 0 (B ++ L) = ⟨0, (B.length : Int), 1, u, 2⟩)) : Calls Try.prog 5 #[.int .i64 a0, .int .i64 a1, .int .i32 u, .slice ao L.length cap] w fun e w' => e = .returned (.bool true) ∧ Below w.heap.size w w' := by
  have r' := hr.out
  have m' := hm.out
  clear hr hm
  obtain ⟨i0, hi, hz0, hz1, hz2⟩ := info_parts info5
  go_enter Try.func5, Try.ntmps5
  go_upto_region 17 with (first | (go_at_call 15; refine (works_any _).mono ?_; rintro e w1 ⟨rfl, hg1⟩) | (go_at_call 13; refine (set_lit 8 2 0 0 0 u _ 0 B 2 hS.out (str B) rfl).mono ?_; rintro e w2 ⟨rfl, hg2⟩; have sb := res_alloc (blk_kept (heap_alloc_new w1 (.cells #[.int .i64 2, .int .i64 0, .int .u32 0, .int .i32 0] 24)) hg2) (.cells #[.int .i64 0, .string (str B), .int .i64 2, .int .i64 0, .int .u32 0, .int .i32 0] 33); obtain ⟨c3, w3, hcv, hE, hg3⟩ := conv_own (P := Try.prog) (w2.alloc (.cells #[.int .i64 0, .string (str B), .int .i64 2, .int .i64 0, .int .u32 0, .int .i32 0] 33)) 9 25 (str B) Try.underlying9 Try.underlying25 Try.underlying5 (by rw [str_size]; omega); rw [show (w2.alloc (.cells #[.int .i64 0, .string (str B), .int .i64 2, .int .i64 0, .int .u32 0, .int .i32 0] 33)).heap.size = w2.heap.size + 1 by simp, str_data] at hcv hE; have sb3 := blk_kept sb hg3; have gb3 := blk_kept (heap_alloc_new w2 (.cells #[.int .i64 0, .string (str B), .int .i64 2, .int .i64 0, .int .u32 0, .int .i32 0] 33)) hg3) | (at_builtin; refine wpList_append_E rfl _ _ 25 25 rfl i0 Try.underlying25 hi hz0 hz1 hz2 _ _ B rfl hE _ rfl L (src_of (hB.out.kept0 (by (repeat (first | with_reducible exact grownBy_refl _ _ | (with_reducible refine gs ?_ ?_; first | omega | (simp; omega)) | with_reducible refine ga ?_ | with_reducible refine gd ?_ | with_reducible refine gdn ?_ | with_reducible refine gt ?_ (by assumption))))) 25 cap Try.underlying25) (by omega) ?_; intro aD cD wD hDb hDg hDc hDm; have hsz2 : w1.heap.size + 1 ≤ w2.heap.size := (by have hsz := hg2.size; simp at hsz; omega); have sD := Hid.mk' (blk_keptg sb3 hDg (by omega)); have pD := Hid.mk' (blk_keptg gb3 hDg (by omega)); have hgD : Hid (w.grownBy wD none) := grownBy_new (gt (ga (gt (ga hg1) hg2)) hg3) hDg (by intro g e; have hsz := hg1.size; simp at e; omega); have sE := sD.out; have rs0 := cell_at sE 0 rfl; have rs1 := cell_at sE 1 rfl; have rs2 := cell_at sE 2 rfl; have rs3 := cell_at sE 3 rfl; have fzs := froz_at sE; clear sE; have pE := pD.out; have rp0 := cell_at pE 0 rfl; have rp1 := cell_at pE 1 rfl; have rp2 := cell_at pE 2 rfl; have rp3 := cell_at pE 3 rfl; have rp4 := cell_at pE 4 rfl; have rp5 := cell_at pE 5 rfl; have fzp := froz_at pE; clear pE; clear fzs fzp))
  have HDb : Hid (Bytes wD aD (B ++ L)) := hDb
  have hDc' : B.length + L.length ≤ cD := by rw [List.length_append] at hDc; exact hDc
  clear hDb hDg hDc hsz2 gb3 sb3 sb hcv hE hg3 hg2 hg1
  generalize w2.heap.size = bp at *
  generalize w1.heap.size = bs at *
  have hc0 : ¬ cD = 0 := by omega
  have hc0' : ¬ (cD : Int) = 0 := by omega
  have zB : (str B).size = B.length := str_size B
  have hx1 : B.length + L.length ≤ 140737488355328 := by omega
  have hbs : bs < wD.heap.size := lt_of_block sD.out
  have hbp : bp < wD.heap.size := lt_of_block pD.out
  go_cut [14] (fun t14 wx => ∃ gb, t14 = .pointer (some ⟨gb, 0, none⟩) ∧ Hid (wx.heap[gb]? = some (.cells #[.int .i64 0, .int .i64 (B.length : Int), .int .i64 1, .int .i32 u, .int .i32 0, .int .i64 2, .int .i64 0, .int .u32 0, .int .i32 0] 28 (0, 0))) ∧ Hid (wx.heap[bs]? = some (.cells #[.int .i64 2, .int .i64 0, .int .u32 0, .int .i32 0] 24 (0, 0))) ∧ Hid (wx.heap[bp]? = some (.cells #[.int .i64 0, .string (str B), .int .i64 2, .int .i64 0, .int .u32 0, .int .i32 0] 33 (0, 0))) ∧ Hid (w.grownBy wx none))
  case first =>
    go_region_with (first | (go_at_call 9; refine (get_lit 8 2 0 0 0 _ (B.length + L.length) cD (B ++ L) _ ?_ (by rw [List.length_append]) hx1 hDc' hDm _ _ _ _ _ hG.out).mono ?_; exact HDb.out.kept0 (by (repeat (first | with_reducible exact grownBy_refl _ _ | (with_reducible refine gs ?_ ?_; first | omega | (simp; omega)) | with_reducible refine ga ?_ | with_reducible refine gd ?_ | with_reducible refine gdn ?_ | with_reducible refine gt ?_ (by assumption)))); rintro e wE ⟨rfl, hgE⟩; have hDE : wD.grownBy wE none := (by (repeat (first | with_reducible exact grownBy_refl _ _ | (with_reducible refine gs ?_ ?_; first | omega | (simp; omega)) | with_reducible refine ga ?_ | with_reducible refine gd ?_ | with_reducible refine gdn ?_ | with_reducible refine gt ?_ (by assumption)))); (try (have rb := res_cells (grownBy_of_drew hgE); have rc := Hid.mk' rb; have r0 := cell_at rb 0 rfl; have r1 := cell_at rb 1 rfl; have r2 := cell_at rb 2 rfl; have r3 := cell_at rb 3 rfl; have r4 := cell_at rb 4 rfl; have r5 := cell_at rb 5 rfl; have r6 := cell_at rb 6 rfl; have r7 := cell_at rb 7 rfl; have r8 := cell_at rb 8 rfl; have fz := froz_at rb; clear rb))))
    all_goals go_wp2_with fail
    all_goals go_meet
    all_goals (first | with_reducible exact cutA hgD.out sD.out pD.out hDE | with_reducible exact cutB hgD.out sD.out pD.out hDE rc.out hbs hbp)
  case rest =>
    obtain ⟨gb, rfl, hgb, hsb, hpb, hgE2⟩ := hcut
    clear hgD HDb sD pD hbs hbp rs0 rs1 rs2 rs3 rp0 rp1 rp2 rp3 rp4 rp5
    have sE := hsb.out
    have pE := hpb.out
    have gE := hgb.out
    have rs0 := cell_at sE 0 rfl
    have rs1 := cell_at sE 1 rfl
    have rs2 := cell_at sE 2 rfl
    have rs3 := cell_at sE 3 rfl
    have fzs := froz_at sE
    clear sE
    have rp0 := cell_at pE 0 rfl
    have rp1 := cell_at pE 1 rfl
    have rp2 := cell_at pE 2 rfl
    have rp3 := cell_at pE 3 rfl
    have rp4 := cell_at pE 4 rfl
    have rp5 := cell_at pE 5 rfl
    have fzp := froz_at pE
    clear pE
    have rg0 := cell_at gE 0 rfl
    have rg1 := cell_at gE 1 rfl
    have rg2 := cell_at gE 2 rfl
    have rg3 := cell_at gE 3 rfl
    have rg4 := cell_at gE 4 rfl
    have rg5 := cell_at gE 5 rfl
    have rg6 := cell_at gE 6 rfl
    have rg7 := cell_at gE 7 rfl
    have rg8 := cell_at gE 8 rfl
    have fzg := froz_at gE
    clear gE
    clear fzs fzp fzg
    go_upto_region 21 with (first | (go_at_call 9; refine (get_lit 8 2 0 0 0 _ L.length cap L _ ?_ rfl (by omega) hLc (by omega) _ _ _ _ _ hR.out).mono ?_; exact hB.out.kept0 hgE2.out; rintro e wF ⟨rfl, hgF⟩; have sH := Hid.mk' (res_alloc (blk_kept hsb.out hgF) (.cells #[.int .i64 1, .int .i64 0, .int .i64 0, .int .i32 0, .int .i32 0, .int .i64 0, .int .i64 0, .int .u32 0, .int .i32 0] 28)); clear rs0 rs1 rs2 rs3 rp0 rp1 rp2 rp3 rp4 rp5 rg0 rg1 rg2 rg3 rg4 rg5 rg6 rg7 rg8; have sE := sH.out; have rs0 := cell_at sE 0 rfl; have rs1 := cell_at sE 1 rfl; have rs2 := cell_at sE 2 rfl; have rs3 := cell_at sE 3 rfl; have fzs := froz_at sE; clear sE; clear fzs))
    have hgF2 : Hid (w.grownBy (wF.alloc (.cells #[.int .i64 1, .int .i64 0, .int .i64 0, .int .i32 0, .int .i32 0, .int .i64 0, .int .i64 0, .int .u32 0, .int .i32 0] 28)) none) := ga (gt hgE2.out hgF)
    go_quiet (fail)
    go_wp2
    go_ret
    refine ⟨rfl, below_g ?_⟩
    have hgE3 := hgE2.out
    (repeat (first | with_reducible exact grownBy_refl _ _ | (with_reducible refine gs ?_ ?_; first | omega | (simp; omega)) | with_reducible refine ga ?_ | with_reducible refine gd ?_ | with_reducible refine gdn ?_ | with_reducible refine gt ?_ (by assumption)))

set_option maxRecDepth 100000 in
set_option maxHeartbeats 4000000 in
theorem back82_okno10 (a0 a1 u : Int) (hr : Hid (wrap64 ((IntKind.u64.wrap a0).tmod 8) = 5)) (hm : Hid (wrap64 ((IntKind.u64.wrap a1).tmod 3) = 2)) (ao : Option Addr) (cap : Nat) (L : List UInt8) (w : World) (hB : Hid (Bytes w ao L)) (hLc : L.length ≤ cap) (hcm : cap ≤ 140737488351232) (B : List UInt8) (hBl : B.length ≤ 8) (hB0 : 0 < B.length) (rn : Int) (hR : Hid (getR 8 2 0 0 0 L = ⟨10, rn, 0, 0, 2⟩)) (hS : Hid (setR 8 2 0 0 0 u = ⟨0, B, 2⟩)) (hG : Hid (getR 8 2 0 0 0 (B ++ L) = ⟨0, (B.length : Int), 1, u, 2⟩)) : Calls Try.prog 5 #[.int .i64 a0, .int .i64 a1, .int .i32 u, .slice ao L.length cap] w fun e w' => e = .returned (.bool true) ∧ Below w.heap.size w w' := by
  have r' := hr.out
  have m' := hm.out
  clear hr hm
  obtain ⟨i0, hi, hz0, hz1, hz2⟩ := info_parts info5
  go_enter Try.func5, Try.ntmps5
  go_upto_region 17 with (first | (go_at_call 15; refine (works_any _).mono ?_; rintro e w1 ⟨rfl, hg1⟩) | (go_at_call 13; refine (set_lit 8 2 0 0 0 u _ 0 B 2 hS.out (str B) rfl).mono ?_; rintro e w2 ⟨rfl, hg2⟩; have sb := res_alloc (blk_kept (heap_alloc_new w1 (.cells #[.int .i64 2, .int .i64 0, .int .u32 0, .int .i32 0] 24)) hg2) (.cells #[.int .i64 0, .string (str B), .int .i64 2, .int .i64 0, .int .u32 0, .int .i32 0] 33); obtain ⟨c3, w3, hcv, hE, hg3⟩ := conv_own (P := Try.prog) (w2.alloc (.cells #[.int .i64 0, .string (str B), .int .i64 2, .int .i64 0, .int .u32 0, .int .i32 0] 33)) 9 25 (str B) Try.underlying9 Try.underlying25 Try.underlying5 (by rw [str_size]; omega); rw [show (w2.alloc (.cells #[.int .i64 0, .string (str B), .int .i64 2, .int .i64 0, .int .u32 0, .int .i32 0] 33)).heap.size = w2.heap.size + 1 by simp, str_data] at hcv hE; have sb3 := blk_kept sb hg3; have gb3 := blk_kept (heap_alloc_new w2 (.cells #[.int .i64 0, .string (str B), .int .i64 2, .int .i64 0, .int .u32 0, .int .i32 0] 33)) hg3) | (at_builtin; refine wpList_append_E rfl _ _ 25 25 rfl i0 Try.underlying25 hi hz0 hz1 hz2 _ _ B rfl hE _ rfl L (src_of (hB.out.kept0 (by (repeat (first | with_reducible exact grownBy_refl _ _ | (with_reducible refine gs ?_ ?_; first | omega | (simp; omega)) | with_reducible refine ga ?_ | with_reducible refine gd ?_ | with_reducible refine gdn ?_ | with_reducible refine gt ?_ (by assumption))))) 25 cap Try.underlying25) (by omega) ?_; intro aD cD wD hDb hDg hDc hDm; have hsz2 : w1.heap.size + 1 ≤ w2.heap.size := (by have hsz := hg2.size; simp at hsz; omega); have sD := Hid.mk' (blk_keptg sb3 hDg (by omega)); have pD := Hid.mk' (blk_keptg gb3 hDg (by omega)); have hgD : Hid (w.grownBy wD none) := grownBy_new (gt (ga (gt (ga hg1) hg2)) hg3) hDg (by intro g e; have hsz := hg1.size; simp at e; omega); have sE := sD.out; have rs0 := cell_at sE 0 rfl; have rs1 := cell_at sE 1 rfl; have rs2 := cell_at sE 2 rfl; have rs3 := cell_at sE 3 rfl; have fzs := froz_at sE; clear sE; have pE := pD.out; have rp0 := cell_at pE 0 rfl; have rp1 := cell_at pE 1 rfl; have rp2 := cell_at pE 2 rfl; have rp3 := cell_at pE 3 rfl; have rp4 := cell_at pE 4 rfl; have rp5 := cell_at pE 5 rfl; have fzp := froz_at pE; clear pE; clear fzs fzp))
  have HDb : Hid (Bytes wD aD (B ++ L)) := hDb
  have hDc' : B.length + L.length ≤ cD := by rw [List.length_append] at hDc; exact hDc
  clear hDb hDg hDc hsz2 gb3 sb3 sb hcv hE hg3 hg2 hg1
  generalize w2.heap.size = bp at *
  generalize w1.heap.size = bs at *
  have hc0 : ¬ cD = 0 := by omega
  have hc0' : ¬ (cD : Int) = 0 := by omega
  have zB : (str B).size = B.length := str_size B
  have hx1 : B.length + L.length ≤ 140737488355328 := by omega
  have hbs : bs < wD.heap.size := lt_of_block sD.out
  have hbp : bp < wD.heap.size := lt_of_block pD.out
  go_cut [14] (fun t14 wx => ∃ gb, t14 = .pointer (some ⟨gb, 0, none⟩) ∧ Hid (wx.heap[gb]? = some (.cells #[.int .i64 0, .int .i64 (B.length : Int), .int .i64 1, .int .i32 u, .int .i32 0, .int .i64 2, .int .i64 0, .int .u32 0, .int .i32 0] 28 (0, 0))) ∧ Hid (wx.heap[bs]? = some (.cells #[.int .i64 2, .int .i64 0, .int .u32 0, .int .i32 0] 24 (0, 0))) ∧ Hid (wx.heap[bp]? = some (.cells #[.int .i64 0, .string (str B), .int .i64 2, .int .i64 0, .int .u32 0, .int .i32 0] 33 (0, 0))) ∧ Hid (w.grownBy wx none))
  case first =>
    go_region_with (first | (go_at_call 9; refine (get_lit 8 2 0 0 0 _ (B.length + L.length) cD (B ++ L) _ ?_ (by rw [List.length_append]) hx1 hDc' hDm _ _ _ _ _ hG.out).mono ?_; exact HDb.out.kept0 (by (repeat (first | with_reducible exact grownBy_refl _ _ | (with_reducible refine gs ?_ ?_; first | omega | (simp; omega)) | with_reducible refine ga ?_ | with_reducible refine gd ?_ | with_reducible refine gdn ?_ | with_reducible refine gt ?_ (by assumption)))); rintro e wE ⟨rfl, hgE⟩; have hDE : wD.grownBy wE none := (by (repeat (first | with_reducible exact grownBy_refl _ _ | (with_reducible refine gs ?_ ?_; first | omega | (simp; omega)) | with_reducible refine ga ?_ | with_reducible refine gd ?_ | with_reducible refine gdn ?_ | with_reducible refine gt ?_ (by assumption)))); (try (have rb := res_cells (grownBy_of_drew hgE); have rc := Hid.mk' rb; have r0 := cell_at rb 0 rfl; have r1 := cell_at rb 1 rfl; have r2 := cell_at rb 2 rfl; have r3 := cell_at rb 3 rfl; have r4 := cell_at rb 4 rfl; have r5 := cell_at rb 5 rfl; have r6 := cell_at rb 6 rfl; have r7 := cell_at rb 7 rfl; have r8 := cell_at rb 8 rfl; have fz := froz_at rb; clear rb))))
    all_goals go_wp2_with fail
    all_goals go_meet
    all_goals (first | with_reducible exact cutA hgD.out sD.out pD.out hDE | with_reducible exact cutB hgD.out sD.out pD.out hDE rc.out hbs hbp)
  case rest =>
    obtain ⟨gb, rfl, hgb, hsb, hpb, hgE2⟩ := hcut
    clear hgD HDb sD pD hbs hbp rs0 rs1 rs2 rs3 rp0 rp1 rp2 rp3 rp4 rp5
    have sE := hsb.out
    have pE := hpb.out
    have gE := hgb.out
    have rs0 := cell_at sE 0 rfl
    have rs1 := cell_at sE 1 rfl
    have rs2 := cell_at sE 2 rfl
    have rs3 := cell_at sE 3 rfl
    have fzs := froz_at sE
    clear sE
    have rp0 := cell_at pE 0 rfl
    have rp1 := cell_at pE 1 rfl
    have rp2 := cell_at pE 2 rfl
    have rp3 := cell_at pE 3 rfl
    have rp4 := cell_at pE 4 rfl
    have rp5 := cell_at pE 5 rfl
    have fzp := froz_at pE
    clear pE
    have rg0 := cell_at gE 0 rfl
    have rg1 := cell_at gE 1 rfl
    have rg2 := cell_at gE 2 rfl
    have rg3 := cell_at gE 3 rfl
    have rg4 := cell_at gE 4 rfl
    have rg5 := cell_at gE 5 rfl
    have rg6 := cell_at gE 6 rfl
    have rg7 := cell_at gE 7 rfl
    have rg8 := cell_at gE 8 rfl
    have fzg := froz_at gE
    clear gE
    clear fzs fzp fzg
    go_upto_region 21 with (first | (go_at_call 9; refine (get_lit 8 2 0 0 0 _ L.length cap L _ ?_ rfl (by omega) hLc (by omega) _ _ _ _ _ hR.out).mono ?_; exact hB.out.kept0 hgE2.out; rintro e wF ⟨rfl, hgF⟩; have sH := Hid.mk' (res_alloc (blk_kept hsb.out hgF) (.cells #[.int .i64 10, .int .i64 rn, .int .i64 0, .int .i32 0, .int .i32 0, .int .i64 2, .int .i64 0, .int .u32 0, .int .i32 0] 28)); clear rs0 rs1 rs2 rs3 rp0 rp1 rp2 rp3 rp4 rp5 rg0 rg1 rg2 rg3 rg4 rg5 rg6 rg7 rg8; have sE := sH.out; have rs0 := cell_at sE 0 rfl; have rs1 := cell_at sE 1 rfl; have rs2 := cell_at sE 2 rfl; have rs3 := cell_at sE 3 rfl; have fzs := froz_at sE; clear sE; clear fzs))
    have hgF2 : Hid (w.grownBy (wF.alloc (.cells #[.int .i64 10, .int .i64 rn, .int .i64 0, .int .i32 0, .int .i32 0, .int .i64 2, .int .i64 0, .int .u32 0, .int .i32 0] 28)) none) := ga (gt hgE2.out hgF)
    go_quiet (fail)
    go_wp2
    go_ret
    refine ⟨rfl, below_g ?_⟩
    have hgE3 := hgE2.out
    (repeat (first | with_reducible exact grownBy_refl _ _ | (with_reducible refine gs ?_ ?_; first | omega | (simp; omega)) | with_reducible refine ga ?_ | with_reducible refine gd ?_ | with_reducible refine gdn ?_ | with_reducible refine gt ?_ (by assumption)))

set_option maxRecDepth 100000 in
set_option maxHeartbeats 4000000 in
theorem back82_okyes (a0 a1 u : Int) (hr : Hid (wrap64 ((IntKind.u64.wrap a0).tmod 8) = 5)) (hm : Hid (wrap64 ((IntKind.u64.wrap a1).tmod 3) = 2)) (ao : Option Addr) (cap : Nat) (L : List UInt8) (w : World) (hB : Hid (Bytes w ao L)) (hLc : L.length ≤ cap) (hcm : cap ≤ 140737488351232) (B : List UInt8) (hBl : B.length ≤ 8) (hB0 : 0 < B.length) (ra : Int) (N : Nat) (hN : N ≤ L.length) (hR : Hid (getR 8 2 0 0 0 L = ⟨0, (N : Int), 1, ra, 2⟩)) (hY : Hid (setR 8 2 0 0 0 ra = ⟨0, L.take N, 2⟩)) (hS : Hid (setR 8 2 0 0 0 u = ⟨0, B, 2⟩)) (hG : Hid (getR 8 2 0 0 0 (B ++ L) = ⟨0, (B.length : Int), 1, u, 2⟩)) : Calls Try.prog 5 #[.int .i64 a0, .int .i64 a1, .int .i32 u, .slice ao L.length cap] w fun e w' => e = .returned (.bool true) ∧ Below w.heap.size w w' := by
  have r' := hr.out
  have m' := hm.out
  clear hr hm
  obtain ⟨i0, hi, hz0, hz1, hz2⟩ := info_parts info5
  go_enter Try.func5, Try.ntmps5
  go_upto_region 17 with (first | (go_at_call 15; refine (works_any _).mono ?_; rintro e w1 ⟨rfl, hg1⟩) | (go_at_call 13; refine (set_lit 8 2 0 0 0 u _ 0 B 2 hS.out (str B) rfl).mono ?_; rintro e w2 ⟨rfl, hg2⟩; have sb := res_alloc (blk_kept (heap_alloc_new w1 (.cells #[.int .i64 2, .int .i64 0, .int .u32 0, .int .i32 0] 24)) hg2) (.cells #[.int .i64 0, .string (str B), .int .i64 2, .int .i64 0, .int .u32 0, .int .i32 0] 33); obtain ⟨c3, w3, hcv, hE, hg3⟩ := conv_own (P := Try.prog) (w2.alloc (.cells #[.int .i64 0, .string (str B), .int .i64 2, .int .i64 0, .int .u32 0, .int .i32 0] 33)) 9 25 (str B) Try.underlying9 Try.underlying25 Try.underlying5 (by rw [str_size]; omega); rw [show (w2.alloc (.cells #[.int .i64 0, .string (str B), .int .i64 2, .int .i64 0, .int .u32 0, .int .i32 0] 33)).heap.size = w2.heap.size + 1 by simp, str_data] at hcv hE; have sb3 := blk_kept sb hg3; have gb3 := blk_kept (heap_alloc_new w2 (.cells #[.int .i64 0, .string (str B), .int .i64 2, .int .i64 0, .int .u32 0, .int .i32 0] 33)) hg3) | (at_builtin; refine wpList_append_E rfl _ _ 25 25 rfl i0 Try.underlying25 hi hz0 hz1 hz2 _ _ B rfl hE _ rfl L (src_of (hB.out.kept0 (by (repeat (first | with_reducible exact grownBy_refl _ _ | (with_reducible refine gs ?_ ?_; first | omega | (simp; omega)) | with_reducible refine ga ?_ | with_reducible refine gd ?_ | with_reducible refine gdn ?_ | with_reducible refine gt ?_ (by assumption))))) 25 cap Try.underlying25) (by omega) ?_; intro aD cD wD hDb hDg hDc hDm; have hsz2 : w1.heap.size + 1 ≤ w2.heap.size := (by have hsz := hg2.size; simp at hsz; omega); have sD := Hid.mk' (blk_keptg sb3 hDg (by omega)); have pD := Hid.mk' (blk_keptg gb3 hDg (by omega)); have hgD : Hid (w.grownBy wD none) := grownBy_new (gt (ga (gt (ga hg1) hg2)) hg3) hDg (by intro g e; have hsz := hg1.size; simp at e; omega); have sE := sD.out; have rs0 := cell_at sE 0 rfl; have rs1 := cell_at sE 1 rfl; have rs2 := cell_at sE 2 rfl; have rs3 := cell_at sE 3 rfl; have fzs := froz_at sE; clear sE; have pE := pD.out; have rp0 := cell_at pE 0 rfl; have rp1 := cell_at pE 1 rfl; have rp2 := cell_at pE 2 rfl; have rp3 := cell_at pE 3 rfl; have rp4 := cell_at pE 4 rfl; have rp5 := cell_at pE 5 rfl; have fzp := froz_at pE; clear pE; clear fzs fzp))
  have HDb : Hid (Bytes wD aD (B ++ L)) := hDb
  have hDc' : B.length + L.length ≤ cD := by rw [List.length_append] at hDc; exact hDc
  clear hDb hDg hDc hsz2 gb3 sb3 sb hcv hE hg3 hg2 hg1
  generalize w2.heap.size = bp at *
  generalize w1.heap.size = bs at *
  have hc0 : ¬ cD = 0 := by omega
  have hc0' : ¬ (cD : Int) = 0 := by omega
  have zB : (str B).size = B.length := str_size B
  have hx1 : B.length + L.length ≤ 140737488355328 := by omega
  have hbs : bs < wD.heap.size := lt_of_block sD.out
  have hbp : bp < wD.heap.size := lt_of_block pD.out
  go_cut [14] (fun t14 wx => ∃ gb, t14 = .pointer (some ⟨gb, 0, none⟩) ∧ Hid (wx.heap[gb]? = some (.cells #[.int .i64 0, .int .i64 (B.length : Int), .int .i64 1, .int .i32 u, .int .i32 0, .int .i64 2, .int .i64 0, .int .u32 0, .int .i32 0] 28 (0, 0))) ∧ Hid (wx.heap[bs]? = some (.cells #[.int .i64 2, .int .i64 0, .int .u32 0, .int .i32 0] 24 (0, 0))) ∧ Hid (wx.heap[bp]? = some (.cells #[.int .i64 0, .string (str B), .int .i64 2, .int .i64 0, .int .u32 0, .int .i32 0] 33 (0, 0))) ∧ Hid (w.grownBy wx none))
  case first =>
    go_region_with (first | (go_at_call 9; refine (get_lit 8 2 0 0 0 _ (B.length + L.length) cD (B ++ L) _ ?_ (by rw [List.length_append]) hx1 hDc' hDm _ _ _ _ _ hG.out).mono ?_; exact HDb.out.kept0 (by (repeat (first | with_reducible exact grownBy_refl _ _ | (with_reducible refine gs ?_ ?_; first | omega | (simp; omega)) | with_reducible refine ga ?_ | with_reducible refine gd ?_ | with_reducible refine gdn ?_ | with_reducible refine gt ?_ (by assumption)))); rintro e wE ⟨rfl, hgE⟩; have hDE : wD.grownBy wE none := (by (repeat (first | with_reducible exact grownBy_refl _ _ | (with_reducible refine gs ?_ ?_; first | omega | (simp; omega)) | with_reducible refine ga ?_ | with_reducible refine gd ?_ | with_reducible refine gdn ?_ | with_reducible refine gt ?_ (by assumption)))); (try (have rb := res_cells (grownBy_of_drew hgE); have rc := Hid.mk' rb; have r0 := cell_at rb 0 rfl; have r1 := cell_at rb 1 rfl; have r2 := cell_at rb 2 rfl; have r3 := cell_at rb 3 rfl; have r4 := cell_at rb 4 rfl; have r5 := cell_at rb 5 rfl; have r6 := cell_at rb 6 rfl; have r7 := cell_at rb 7 rfl; have r8 := cell_at rb 8 rfl; have fz := froz_at rb; clear rb))))
    all_goals go_wp2_with fail
    all_goals go_meet
    all_goals (first | with_reducible exact cutA hgD.out sD.out pD.out hDE | with_reducible exact cutB hgD.out sD.out pD.out hDE rc.out hbs hbp)
  case rest =>
    obtain ⟨gb, rfl, hgb, hsb, hpb, hgE2⟩ := hcut
    clear hgD HDb sD pD hbs hbp rs0 rs1 rs2 rs3 rp0 rp1 rp2 rp3 rp4 rp5
    have sE := hsb.out
    have pE := hpb.out
    have gE := hgb.out
    have rs0 := cell_at sE 0 rfl
    have rs1 := cell_at sE 1 rfl
    have rs2 := cell_at sE 2 rfl
    have rs3 := cell_at sE 3 rfl
    have fzs := froz_at sE
    clear sE
    have rp0 := cell_at pE 0 rfl
    have rp1 := cell_at pE 1 rfl
    have rp2 := cell_at pE 2 rfl
    have rp3 := cell_at pE 3 rfl
    have rp4 := cell_at pE 4 rfl
    have rp5 := cell_at pE 5 rfl
    have fzp := froz_at pE
    clear pE
    have rg0 := cell_at gE 0 rfl
    have rg1 := cell_at gE 1 rfl
    have rg2 := cell_at gE 2 rfl
    have rg3 := cell_at gE 3 rfl
    have rg4 := cell_at gE 4 rfl
    have rg5 := cell_at gE 5 rfl
    have rg6 := cell_at gE 6 rfl
    have rg7 := cell_at gE 7 rfl
    have rg8 := cell_at gE 8 rfl
    have fzg := froz_at gE
    clear gE
    clear fzs fzp fzg
    go_upto_region 21 with (first | (go_at_call 9; refine (get_lit 8 2 0 0 0 _ L.length cap L _ ?_ rfl (by omega) hLc (by omega) _ _ _ _ _ hR.out).mono ?_; exact hB.out.kept0 hgE2.out; rintro e wF ⟨rfl, hgF⟩; have sH := Hid.mk' (res_alloc (blk_kept hsb.out hgF) (.cells #[.int .i64 0, .int .i64 (N : Int), .int .i64 1, .int .i32 ra, .int .i32 0, .int .i64 2, .int .i64 0, .int .u32 0, .int .i32 0] 28)); clear rs0 rs1 rs2 rs3 rp0 rp1 rp2 rp3 rp4 rp5 rg0 rg1 rg2 rg3 rg4 rg5 rg6 rg7 rg8; have sE := sH.out; have rs0 := cell_at sE 0 rfl; have rs1 := cell_at sE 1 rfl; have rs2 := cell_at sE 2 rfl; have rs3 := cell_at sE 3 rfl; have fzs := froz_at sE; clear sE; clear fzs))
    have hgF2 : Hid (w.grownBy (wF.alloc (.cells #[.int .i64 0, .int .i64 (N : Int), .int .i64 1, .int .i32 ra, .int .i32 0, .int .i64 2, .int .i64 0, .int .u32 0, .int .i32 0] 28)) none) := ga (gt hgE2.out hgF)
    have hH1 : Hid ((wF.alloc (.cells #[.int .i64 0, .int .i64 (N : Int), .int .i64 1, .int .i32 ra, .int .i32 0, .int .i64 2, .int .i64 0, .int .u32 0, .int .i32 0] 28)).heap[wF.heap.size]? = some (.cells #[.int .i64 0, .int .i64 (N : Int), .int .i64 1, .int .i32 ra, .int .i32 0, .int .i64 2, .int .i64 0, .int .u32 0, .int .i32 0] 28 (0, 0))) := heap_alloc_new wF _
    have hB5 : Hid (Bytes (wF.alloc (.cells #[.int .i64 0, .int .i64 (N : Int), .int .i64 1, .int .i32 ra, .int .i32 0, .int .i64 2, .int .i64 0, .int .u32 0, .int .i32 0] 28)) ao L) := hB.out.kept0 hgF2.out
    clear rs0 rs1 rs2 rs3 hgF hgE2 hsb hpb hgb
    generalize wF.alloc (.cells #[.int .i64 0, .int .i64 (N : Int), .int .i64 1, .int .i32 ra, .int .i32 0, .int .i64 2, .int .i64 0, .int .u32 0, .int .i32 0] 28) = wa at *
    generalize wF.heap.size = hb at *
    have hS0 := heldM2 (cap := cap) hN hH1.out sH.out hB5.out (gd (grownBy_refl wa none))
    have n1 : (0 : Int) ≤ (N : Int) := by omega
    have n2 : (N : Int) ≤ (L.length : Int) := by omega
    have n3 : (N : Int) ≤ (cap : Int) := by omega
    go_region_held3 (fun w' => w'.cell? ⟨hb, 0, none⟩ = some (.int .i64 0) ∧ w'.cell? ⟨hb, 1, none⟩ = some (.int .i64 (N : Int)) ∧ w'.cell? ⟨hb, 3, none⟩ = some (.int .i32 ra) ∧ w'.cell? ⟨bs, 0, none⟩ = some (.int .i64 2) ∧ w'.cell? ⟨bs, 1, none⟩ = some (.int .i64 0) ∧ w'.cell? ⟨bs, 2, none⟩ = some (.int .u32 0) ∧ w'.cell? ⟨bs, 3, none⟩ = some (.int .i32 0) ∧ (convert 25 9 (.slice ao N cap)).run Try.prog w' = .ok (.string (str (L.take N))) w') (first | assumption) (first | (go_at_call 13; refine (set_lit 8 2 0 0 0 ra _ 0 (L.take N) 2 hY.out (str (L.take N)) rfl).mono ?_; rintro e wG ⟨rfl, hgG⟩; have hS1 := heldM2 (cap := cap) hN hH1.out sH.out hB5.out (show wa.grownBy wG none by (repeat (first | with_reducible exact grownBy_refl _ _ | (with_reducible refine gs ?_ ?_; first | omega | (simp; omega)) | with_reducible refine ga ?_ | with_reducible refine gd ?_ | with_reducible refine gdn ?_ | with_reducible refine gt ?_ (by assumption))))))
    go_wp2
    go_ret
    refine ⟨rfl, below_g ?_⟩
    have hgF3 := hgF2.out
    (repeat (first | with_reducible exact grownBy_refl _ _ | (with_reducible refine gs ?_ ?_; first | omega | (simp; omega)) | with_reducible refine ga ?_ | with_reducible refine gd ?_ | with_reducible refine gdn ?_ | with_reducible refine gt ?_ (by assumption)))
end Go.Proofs.Ytkfcciacoplgmaa.Wd

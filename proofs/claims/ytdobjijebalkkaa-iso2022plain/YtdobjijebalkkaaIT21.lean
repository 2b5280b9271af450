/- The document's Set of layer 21: the ways in common, and of JP. -/
import Derived.Test.YtdobjijebalkkaaIS21
import Derived.Test.YtdobjijebalkkaaCs
import Derived.Test.YtdobjijebalkkaaConvApp
import Derived.Deep.RegionHeld3
namespace Go.Proofs.Ytdobjijebalkkaa.C21
open Go.ChangeShapes Go.WideShapes Go.ChangeAt Go.RowKit Go.Proofs.Ytdobjijebalkkaa.Mem Go.Proofs.Ytdobjijebalkkaa.Cb Go.Proofs.Ytdobjijebalkkaa.Sp
set_option linter.unusedVariables false
set_option linter.unusedSimpArgs false

theorem after_alloc {n : Nat} {args : Array Value} {w : World} {ob : Obj} {R : Value} (h : Calls Try.prog n args (w.alloc ob) (fun e w' => e = .returned R ∧ (w.alloc ob).grownBy w' none)) : Calls Try.prog n args (w.alloc ob) (fun e w' => e = .returned R ∧ w.grownBy w' none) :=
  h.mono (fun e w' h => ⟨h.1, gt (World.grownBy_alloc _ _ _) h.2⟩)
set_option maxRecDepth 100000 in
set_option maxHeartbeats 1000000 in
theorem s_kind (k md bi ac he u : Int) (hk : Hid (has k = false)) (w : World) : Calls Try.prog 15 #[.int .i64 k, stV md bi ac he, .int .i32 u] w fun e w' => e = .returned (.agg (pM 5 ⟨#[]⟩ 0)) ∧ w.grownBy w' none := by
  go_enter Try.func15, Try.ntmps15
  go_upto_region 1 with (first
    | (refine wpList_boxC _ rfl 24 _ rfl (sC md bi ac he) rfl ?_; intro w1 ss1 hg1)
    | (refine wpList_allocC _ rfl 35 rfl (pZ 0 ⟨#[]⟩) (zeroP _) ?_; intro w2 rs2 hg2))
  have hG2 : Hid (w.grownBy w2 none) := Hid.mk' (gt hg1 hg2)
  have ss2 := ss1.kept0 hg2
  have hB2 : Hid (w.heap.size ≤ w1.heap.size) := Hid.mk' hg1.size
  clear hg1 hg2 ss1
  generalize w1.heap.size = B at *
  obtain ⟨SB, hSB⟩ : ∃ SB, Hid (w.heap.size = SB) := ⟨_, Hid.mk' rfl⟩
  rw [hSB.out] at ss2
  rw [hSB.out]
  have s0 := ss2.cell 0 rfl
  go_wp2_with (first
    | (go_at_call 11; refine (hasRef k false hk _).mono ?_; rintro e w3 ⟨rfl, hg⟩; have rs3 := rs2.kept0 hg; have ss3 := ss2.kept0 hg; have hG3 : Hid (w.grownBy w3 none) := Hid.mk' (gt hG2.out hg); clear s0; have s0 := ss3.cell 0 rfl; clear rs2 hg ss2)
    | (refine wpList_loadC _ rfl 24 _ rfl _ Try.underlying24 rfl SB (sC md bi ac he) infoS rfl (by first | exact ss3 | exact ss2) ?_)
    | (refine wpList_storeC _ rfl 35 _ _ rfl B (pZ 0 ⟨#[]⟩) (pM 5 ⟨#[]⟩ 0) infoP rfl (pC_one _ _ _ _ _ _) rfl rfl rs3 ?_; intro wz rsz hgz))
  refine bodyPost_ret (v := .agg (pM 5 ⟨#[]⟩ 0)) (results_cell_row Try.results15 _ wz B 35 _ (0, 0) _ rfl rsz Try.underlying35 rfl infoP) rfl ⟨rfl, ?_⟩
  exact grownBy_new hG3.out hgz (fun k hk => by have h5 := Option.some.inj hk; have h6 := hB2.out; omega)
set_option maxRecDepth 100000 in
set_option maxHeartbeats 1000000 in
theorem s_no (k md bi ac he u : Int) (hk : Hid (has k = true)) (hm : Hid (mo md bi ac he = 3)) (w : World) : Calls Try.prog 15 #[.int .i64 k, stV md bi ac he, .int .i32 u] w fun e w' => e = .returned (.agg (pM 7 ⟨#[]⟩ 0)) ∧ w.grownBy w' none := by
  go_enter Try.func15, Try.ntmps15
  go_upto_region 1 with (first
    | (refine wpList_boxC _ rfl 24 _ rfl (sC md bi ac he) rfl ?_; intro w1 ss1 hg1)
    | (refine wpList_allocC _ rfl 35 rfl (pZ 0 ⟨#[]⟩) (zeroP _) ?_; intro w2 rs2 hg2))
  have hG2 : Hid (w.grownBy w2 none) := Hid.mk' (gt hg1 hg2)
  have ss2 := ss1.kept0 hg2
  have hB2 : Hid (w.heap.size ≤ w1.heap.size) := Hid.mk' hg1.size
  clear hg1 hg2 ss1
  generalize w1.heap.size = B at *
  obtain ⟨SB, hSB⟩ : ∃ SB, Hid (w.heap.size = SB) := ⟨_, Hid.mk' rfl⟩
  rw [hSB.out] at ss2
  rw [hSB.out]
  have s0 := ss2.cell 0 rfl
  go_wp2_with (first
    | (go_at_call 11; refine (hasRef k true hk _).mono ?_; rintro e w3 ⟨rfl, hg⟩; have rs3 := rs2.kept0 hg; have ss3 := ss2.kept0 hg; have hG3 : Hid (w.grownBy w3 none) := Hid.mk' (gt hG2.out hg); clear s0; have s0 := ss3.cell 0 rfl; clear rs2 hg ss2)
    | (go_at_call 24; refine (fits_no k hk md bi ac he hm _).mono ?_; rintro e w4 ⟨rfl, hg⟩; have rs4 := rs3.kept0 hg; have ss4 := ss3.kept0 hg; have hG4 : Hid (w.grownBy w4 none) := Hid.mk' (gt hG3.out hg); clear s0; have s0 := ss4.cell 0 rfl; clear rs3 hg ss3)
    | (refine wpList_loadC _ rfl 24 _ rfl _ Try.underlying24 rfl SB (sC md bi ac he) infoS rfl (by first | exact ss4 | exact ss3 | exact ss2) ?_)
    | (refine wpList_storeC _ rfl 35 _ _ rfl B (pZ 0 ⟨#[]⟩) (pM 7 ⟨#[]⟩ 0) infoP rfl (pC_one _ _ _ _ _ _) rfl rfl rs4 ?_; intro wz rsz hgz))
  refine bodyPost_ret (v := .agg (pM 7 ⟨#[]⟩ 0)) (results_cell_row Try.results15 _ wz B 35 _ (0, 0) _ rfl rsz Try.underlying35 rfl infoP) rfl ⟨rfl, ?_⟩
  exact grownBy_new hG4.out hgz (fun k hk => by have h5 := Option.some.inj hk; have h6 := hB2.out; omega)
set_option maxRecDepth 100000 in
set_option maxHeartbeats 1000000 in
theorem s_esc83 (m : Nat) (hm : m < 3) (u : Int) (h : u = 27) (w : World) : Calls Try.prog 15 #[.int .i64 83, stV (m : Int) 0 0 0, .int .i32 u] w fun e w' => e = .returned (.agg (pM 11 ⟨#[]⟩ 0)) ∧ w.grownBy w' none := by
  have f0 : (u == 27) = true := by first | (simp; done) | (simp; omega)
  clear h
  go_enter Try.func15, Try.ntmps15
  go_upto_region 1 with (first
    | (refine wpList_boxC _ rfl 24 _ rfl (sC (m : Int) 0 0 0) rfl ?_; intro w1 ss1 hg1)
    | (refine wpList_allocC _ rfl 35 rfl (pZ 0 ⟨#[]⟩) (zeroP _) ?_; intro w2 rs2 hg2))
  have hG2 : Hid (w.grownBy w2 none) := Hid.mk' (gt hg1 hg2)
  have ss2 := ss1.kept0 hg2
  have hB2 : Hid (w.heap.size ≤ w1.heap.size) := Hid.mk' hg1.size
  clear hg1 hg2 ss1
  generalize w1.heap.size = B at *
  obtain ⟨SB, hSB⟩ : ∃ SB, Hid (w.heap.size = SB) := ⟨_, Hid.mk' rfl⟩
  rw [hSB.out] at ss2
  rw [hSB.out]
  have s0 := ss2.cell 0 rfl
  go_upto_region 5 with (first
    | (go_at_call 11; refine (hasRef 83 true (Hid.mk' (by decide)) _).mono ?_; rintro e w3 ⟨rfl, hg⟩; have rs3 := rs2.kept0 hg; have ss3 := ss2.kept0 hg; have hG3 : Hid (w.grownBy w3 none) := Hid.mk' (gt hG2.out hg); clear s0; have s0 := ss3.cell 0 rfl; clear rs2 hg ss2)
    | (go_at_call 24; refine (fits_yes 83 (Hid.mk' (by decide)) m hm _).mono ?_; rintro e w4 ⟨rfl, hg⟩; have rs4 := rs3.kept0 hg; have ss4 := ss3.kept0 hg; have hG4 : Hid (w.grownBy w4 none) := Hid.mk' (gt hG3.out hg); clear s0; have s0 := ss4.cell 0 rfl; clear rs3 hg ss3)
    | (refine wpList_loadC _ rfl 24 _ rfl _ Try.underlying24 rfl SB (sC (m : Int) 0 0 0) infoS rfl (by first | exact ss4 | exact ss3 | exact ss2) ?_))
  go_upto_region 6 with fail
  go_wp2_with (first
    | (refine wpList_loadC _ rfl 24 _ rfl _ Try.underlying24 rfl SB (sC (m : Int) 0 0 0) infoS rfl (by first | exact ss4 | exact ss3 | exact ss2) ?_)
    | (refine wpList_storeC _ rfl 35 _ _ rfl B (pZ 0 ⟨#[]⟩) (pM 11 ⟨#[]⟩ 0) infoP rfl (pC_one _ _ _ _ _ _) rfl rfl rs4 ?_; intro wz rsz hgz))
  refine bodyPost_ret (v := .agg (pM 11 ⟨#[]⟩ 0)) (results_cell_row Try.results15 _ wz B 35 _ (0, 0) _ rfl rsz Try.underlying35 rfl infoP) rfl ⟨rfl, ?_⟩
  exact grownBy_new hG4.out hgz (fun k hk => by have h5 := Option.some.inj hk; have h6 := hB2.out; omega)
set_option maxRecDepth 100000 in
set_option maxHeartbeats 1000000 in
theorem s_esc88 (m : Nat) (hm : m < 3) (u : Int) (h : u = 27) (w : World) : Calls Try.prog 15 #[.int .i64 88, stV (m : Int) 0 0 0, .int .i32 u] w fun e w' => e = .returned (.agg (pM 11 ⟨#[]⟩ 0)) ∧ w.grownBy w' none := by
  have f0 : (u == 27) = true := by first | (simp; done) | (simp; omega)
  clear h
  go_enter Try.func15, Try.ntmps15
  go_upto_region 1 with (first
    | (refine wpList_boxC _ rfl 24 _ rfl (sC (m : Int) 0 0 0) rfl ?_; intro w1 ss1 hg1)
    | (refine wpList_allocC _ rfl 35 rfl (pZ 0 ⟨#[]⟩) (zeroP _) ?_; intro w2 rs2 hg2))
  have hG2 : Hid (w.grownBy w2 none) := Hid.mk' (gt hg1 hg2)
  have ss2 := ss1.kept0 hg2
  have hB2 : Hid (w.heap.size ≤ w1.heap.size) := Hid.mk' hg1.size
  clear hg1 hg2 ss1
  generalize w1.heap.size = B at *
  obtain ⟨SB, hSB⟩ : ∃ SB, Hid (w.heap.size = SB) := ⟨_, Hid.mk' rfl⟩
  rw [hSB.out] at ss2
  rw [hSB.out]
  have s0 := ss2.cell 0 rfl
  go_upto_region 5 with (first
    | (go_at_call 11; refine (hasRef 88 true (Hid.mk' (by decide)) _).mono ?_; rintro e w3 ⟨rfl, hg⟩; have rs3 := rs2.kept0 hg; have ss3 := ss2.kept0 hg; have hG3 : Hid (w.grownBy w3 none) := Hid.mk' (gt hG2.out hg); clear s0; have s0 := ss3.cell 0 rfl; clear rs2 hg ss2)
    | (go_at_call 24; refine (fits_yes 88 (Hid.mk' (by decide)) m hm _).mono ?_; rintro e w4 ⟨rfl, hg⟩; have rs4 := rs3.kept0 hg; have ss4 := ss3.kept0 hg; have hG4 : Hid (w.grownBy w4 none) := Hid.mk' (gt hG3.out hg); clear s0; have s0 := ss4.cell 0 rfl; clear rs3 hg ss3)
    | (refine wpList_loadC _ rfl 24 _ rfl _ Try.underlying24 rfl SB (sC (m : Int) 0 0 0) infoS rfl (by first | exact ss4 | exact ss3 | exact ss2) ?_))
  go_upto_region 6 with fail
  go_wp2_with (first
    | (refine wpList_loadC _ rfl 24 _ rfl _ Try.underlying24 rfl SB (sC (m : Int) 0 0 0) infoS rfl (by first | exact ss4 | exact ss3 | exact ss2) ?_)
    | (refine wpList_storeC _ rfl 35 _ _ rfl B (pZ 0 ⟨#[]⟩) (pM 11 ⟨#[]⟩ 0) infoP rfl (pC_one _ _ _ _ _ _) rfl rfl rs4 ?_; intro wz rsz hgz))
  refine bodyPost_ret (v := .agg (pM 11 ⟨#[]⟩ 0)) (results_cell_row Try.results15 _ wz B 35 _ (0, 0) _ rfl rsz Try.underlying35 rfl infoP) rfl ⟨rfl, ?_⟩
  exact grownBy_new hG4.out hgz (fun k hk => by have h5 := Option.some.inj hk; have h6 := hB2.out; omega)
set_option maxRecDepth 100000 in
set_option maxHeartbeats 1000000 in
theorem s_so14 (m : Nat) (hm : m < 3) (u : Int) (h : u = 14) (w : World) : Calls Try.prog 15 #[.int .i64 88, stV (m : Int) 0 0 0, .int .i32 u] w fun e w' => e = .returned (.agg (pM 11 ⟨#[]⟩ 0)) ∧ w.grownBy w' none := by
  have f0 : (u == 27) = false := by first | (simp; done) | (simp; omega)
  have f1 : (u == 14) = true := by first | (simp; done) | (simp; omega)
  clear h
  go_enter Try.func15, Try.ntmps15
  go_upto_region 1 with (first
    | (refine wpList_boxC _ rfl 24 _ rfl (sC (m : Int) 0 0 0) rfl ?_; intro w1 ss1 hg1)
    | (refine wpList_allocC _ rfl 35 rfl (pZ 0 ⟨#[]⟩) (zeroP _) ?_; intro w2 rs2 hg2))
  have hG2 : Hid (w.grownBy w2 none) := Hid.mk' (gt hg1 hg2)
  have ss2 := ss1.kept0 hg2
  have hB2 : Hid (w.heap.size ≤ w1.heap.size) := Hid.mk' hg1.size
  clear hg1 hg2 ss1
  generalize w1.heap.size = B at *
  obtain ⟨SB, hSB⟩ : ∃ SB, Hid (w.heap.size = SB) := ⟨_, Hid.mk' rfl⟩
  rw [hSB.out] at ss2
  rw [hSB.out]
  have s0 := ss2.cell 0 rfl
  go_upto_region 5 with (first
    | (go_at_call 11; refine (hasRef 88 true (Hid.mk' (by decide)) _).mono ?_; rintro e w3 ⟨rfl, hg⟩; have rs3 := rs2.kept0 hg; have ss3 := ss2.kept0 hg; have hG3 : Hid (w.grownBy w3 none) := Hid.mk' (gt hG2.out hg); clear s0; have s0 := ss3.cell 0 rfl; clear rs2 hg ss2)
    | (go_at_call 24; refine (fits_yes 88 (Hid.mk' (by decide)) m hm _).mono ?_; rintro e w4 ⟨rfl, hg⟩; have rs4 := rs3.kept0 hg; have ss4 := ss3.kept0 hg; have hG4 : Hid (w.grownBy w4 none) := Hid.mk' (gt hG3.out hg); clear s0; have s0 := ss4.cell 0 rfl; clear rs3 hg ss3)
    | (refine wpList_loadC _ rfl 24 _ rfl _ Try.underlying24 rfl SB (sC (m : Int) 0 0 0) infoS rfl (by first | exact ss4 | exact ss3 | exact ss2) ?_))
  go_upto_region 6 with fail
  go_wp2_with (first
    | (refine wpList_loadC _ rfl 24 _ rfl _ Try.underlying24 rfl SB (sC (m : Int) 0 0 0) infoS rfl (by first | exact ss4 | exact ss3 | exact ss2) ?_)
    | (refine wpList_storeC _ rfl 35 _ _ rfl B (pZ 0 ⟨#[]⟩) (pM 11 ⟨#[]⟩ 0) infoP rfl (pC_one _ _ _ _ _ _) rfl rfl rs4 ?_; intro wz rsz hgz))
  refine bodyPost_ret (v := .agg (pM 11 ⟨#[]⟩ 0)) (results_cell_row Try.results15 _ wz B 35 _ (0, 0) _ rfl rsz Try.underlying35 rfl infoP) rfl ⟨rfl, ?_⟩
  exact grownBy_new hG4.out hgz (fun k hk => by have h5 := Option.some.inj hk; have h6 := hB2.out; omega)
set_option maxRecDepth 100000 in
set_option maxHeartbeats 1000000 in
theorem s_so15 (m : Nat) (hm : m < 3) (u : Int) (h : u = 15) (w : World) : Calls Try.prog 15 #[.int .i64 88, stV (m : Int) 0 0 0, .int .i32 u] w fun e w' => e = .returned (.agg (pM 11 ⟨#[]⟩ 0)) ∧ w.grownBy w' none := by
  have f0 : (u == 27) = false := by first | (simp; done) | (simp; omega)
  have f1 : (u == 14) = false := by first | (simp; done) | (simp; omega)
  have f2 : (u == 15) = true := by first | (simp; done) | (simp; omega)
  clear h
  go_enter Try.func15, Try.ntmps15
  go_upto_region 1 with (first
    | (refine wpList_boxC _ rfl 24 _ rfl (sC (m : Int) 0 0 0) rfl ?_; intro w1 ss1 hg1)
    | (refine wpList_allocC _ rfl 35 rfl (pZ 0 ⟨#[]⟩) (zeroP _) ?_; intro w2 rs2 hg2))
  have hG2 : Hid (w.grownBy w2 none) := Hid.mk' (gt hg1 hg2)
  have ss2 := ss1.kept0 hg2
  have hB2 : Hid (w.heap.size ≤ w1.heap.size) := Hid.mk' hg1.size
  clear hg1 hg2 ss1
  generalize w1.heap.size = B at *
  obtain ⟨SB, hSB⟩ : ∃ SB, Hid (w.heap.size = SB) := ⟨_, Hid.mk' rfl⟩
  rw [hSB.out] at ss2
  rw [hSB.out]
  have s0 := ss2.cell 0 rfl
  go_upto_region 5 with (first
    | (go_at_call 11; refine (hasRef 88 true (Hid.mk' (by decide)) _).mono ?_; rintro e w3 ⟨rfl, hg⟩; have rs3 := rs2.kept0 hg; have ss3 := ss2.kept0 hg; have hG3 : Hid (w.grownBy w3 none) := Hid.mk' (gt hG2.out hg); clear s0; have s0 := ss3.cell 0 rfl; clear rs2 hg ss2)
    | (go_at_call 24; refine (fits_yes 88 (Hid.mk' (by decide)) m hm _).mono ?_; rintro e w4 ⟨rfl, hg⟩; have rs4 := rs3.kept0 hg; have ss4 := ss3.kept0 hg; have hG4 : Hid (w.grownBy w4 none) := Hid.mk' (gt hG3.out hg); clear s0; have s0 := ss4.cell 0 rfl; clear rs3 hg ss3)
    | (refine wpList_loadC _ rfl 24 _ rfl _ Try.underlying24 rfl SB (sC (m : Int) 0 0 0) infoS rfl (by first | exact ss4 | exact ss3 | exact ss2) ?_))
  go_upto_region 6 with fail
  go_wp2_with (first
    | (refine wpList_loadC _ rfl 24 _ rfl _ Try.underlying24 rfl SB (sC (m : Int) 0 0 0) infoS rfl (by first | exact ss4 | exact ss3 | exact ss2) ?_)
    | (refine wpList_storeC _ rfl 35 _ _ rfl B (pZ 0 ⟨#[]⟩) (pM 11 ⟨#[]⟩ 0) infoP rfl (pC_one _ _ _ _ _ _) rfl rfl rs4 ?_; intro wz rsz hgz))
  refine bodyPost_ret (v := .agg (pM 11 ⟨#[]⟩ 0)) (results_cell_row Try.results15 _ wz B 35 _ (0, 0) _ rfl rsz Try.underlying35 rfl infoP) rfl ⟨rfl, ?_⟩
  exact grownBy_new hG4.out hgz (fun k hk => by have h5 := Option.some.inj hk; have h6 := hB2.out; omega)
set_option maxRecDepth 100000 in
set_option maxHeartbeats 1000000 in
theorem s_kr (m : Nat) (hm : m < 3) (u : Int) (h27 : u ≠ 27) (h14 : u ≠ 14) (h15 : u ≠ 15) (ge d : Int) (s : ByteArray) (w : World) (aO : Hid (∀ wx, Calls Try.prog 29 #[stV (m : Int) 0 0 0, .int .i32 u] wx fun x w' => x = .returned (.agg (pM ge s d)) ∧ wx.grownBy w' none)) : Calls Try.prog 15 #[.int .i64 88, stV (m : Int) 0 0 0, .int .i32 u] w fun e w' => e = .returned (.agg (pM ge s d)) ∧ w.grownBy w' none := by
  have f0 : (u == 27) = false := by first | (simp; done) | (simp; omega)
  have f1 : (u == 14) = false := by first | (simp; done) | (simp; omega)
  have f2 : (u == 15) = false := by first | (simp; done) | (simp; omega)
  go_enter Try.func15, Try.ntmps15
  go_upto_region 1 with (first
    | (refine wpList_boxC _ rfl 24 _ rfl (sC (m : Int) 0 0 0) rfl ?_; intro w1 ss1 hg1)
    | (refine wpList_allocC _ rfl 35 rfl (pZ 0 ⟨#[]⟩) (zeroP _) ?_; intro w2 rs2 hg2))
  have hG2 : Hid (w.grownBy w2 none) := Hid.mk' (gt hg1 hg2)
  have ss2 := ss1.kept0 hg2
  have hB2 : Hid (w.heap.size ≤ w1.heap.size) := Hid.mk' hg1.size
  clear hg1 hg2 ss1
  generalize w1.heap.size = B at *
  obtain ⟨SB, hSB⟩ : ∃ SB, Hid (w.heap.size = SB) := ⟨_, Hid.mk' rfl⟩
  rw [hSB.out] at ss2
  rw [hSB.out]
  have s0 := ss2.cell 0 rfl
  go_upto_region 5 with (first
    | (go_at_call 11; refine (hasRef 88 true (Hid.mk' (by decide)) _).mono ?_; rintro e w3 ⟨rfl, hg⟩; have rs3 := rs2.kept0 hg; have ss3 := ss2.kept0 hg; have hG3 : Hid (w.grownBy w3 none) := Hid.mk' (gt hG2.out hg); clear s0; have s0 := ss3.cell 0 rfl; clear rs2 hg ss2)
    | (go_at_call 24; refine (fits_yes 88 (Hid.mk' (by decide)) m hm _).mono ?_; rintro e w4 ⟨rfl, hg⟩; have rs4 := rs3.kept0 hg; have ss4 := ss3.kept0 hg; have hG4 : Hid (w.grownBy w4 none) := Hid.mk' (gt hG3.out hg); clear s0; have s0 := ss4.cell 0 rfl; clear rs3 hg ss3)
    | (refine wpList_loadC _ rfl 24 _ rfl _ Try.underlying24 rfl SB (sC (m : Int) 0 0 0) infoS rfl (by first | exact ss5 | exact ss4 | exact ss3 | exact ss2) ?_))
  go_upto_region 8 with fail
  go_wp2_with (first
    | (go_at_call 29; refine (aO.out _).mono ?_; rintro e w5 ⟨rfl, hg⟩; have rs5 := rs4.kept0 hg; have ss5 := ss4.kept0 hg; have hG5 : Hid (w.grownBy w5 none) := Hid.mk' (gt hG4.out hg); clear s0; have s0 := ss5.cell 0 rfl; clear rs4 hg ss4)
    | (refine wpList_loadC _ rfl 24 _ rfl _ Try.underlying24 rfl SB (sC (m : Int) 0 0 0) infoS rfl (by first | exact ss5 | exact ss4 | exact ss3 | exact ss2) ?_)
    | (refine wpList_storeC _ rfl 35 _ _ rfl B (pZ 0 ⟨#[]⟩) (pM ge s d) infoP rfl (pC_one _ _ _ _ _ _) rfl rfl rs5 ?_; intro wz rsz hgz))
  refine bodyPost_ret (v := .agg (pM ge s d)) (results_cell_row Try.results15 _ wz B 35 _ (0, 0) _ rfl rsz Try.underlying35 rfl infoP) rfl ⟨rfl, ?_⟩
  exact grownBy_new hG5.out hgz (fun k hk => by have h5 := Option.some.inj hk; have h6 := hB2.out; omega)
set_option maxRecDepth 100000 in
set_option maxHeartbeats 1000000 in
theorem j_low (m : Nat) (hm : m < 3) (n : Nat) (hn : n < 128) (h27 : n ≠ 27) (w : World) : Calls Try.prog 15 #[.int .i64 83, stV (m : Int) 0 0 0, .int .i32 (n : Int)] w fun e w' => e = .returned (.agg (pM 0 (str (ld m 0 [27, 40, 66] ++ [b8 n])) 0)) ∧ w.grownBy w' none := by
  have f0 : ((n : Int) == 27) = false := by first | (simp; done) | (simp; omega)
  have f1 : decide (0 ≤ (n : Int)) = true := by first | (simp; done) | (simp; omega)
  have f2 : decide ((n : Int) < 128) = true := by first | (simp; done) | (simp; omega)
  have p2 : (n : Int) < 256 := by omega
  go_enter Try.func15, Try.ntmps15
  go_upto_region 1 with (first
    | (refine wpList_boxC _ rfl 24 _ rfl (sC (m : Int) 0 0 0) rfl ?_; intro w1 ss1 hg1)
    | (refine wpList_allocC _ rfl 35 rfl (pZ 0 ⟨#[]⟩) (zeroP _) ?_; intro w2 rs2 hg2))
  have hG2 : Hid (w.grownBy w2 none) := Hid.mk' (gt hg1 hg2)
  have ss2 := ss1.kept0 hg2
  have hB2 : Hid (w.heap.size ≤ w1.heap.size) := Hid.mk' hg1.size
  clear hg1 hg2 ss1
  generalize w1.heap.size = B at *
  obtain ⟨SB, hSB⟩ : ∃ SB, Hid (w.heap.size = SB) := ⟨_, Hid.mk' rfl⟩
  rw [hSB.out] at ss2
  rw [hSB.out]
  have s0 := ss2.cell 0 rfl
  go_upto_region 5 with (first
    | (go_at_call 11; refine (hasRef 83 true (Hid.mk' (by decide)) _).mono ?_; rintro e w3 ⟨rfl, hg⟩; have rs3 := rs2.kept0 hg; have ss3 := ss2.kept0 hg; have hG3 : Hid (w.grownBy w3 none) := Hid.mk' (gt hG2.out hg); clear s0; have s0 := ss3.cell 0 rfl; clear rs2 hg ss2)
    | (go_at_call 24; refine (fits_yes 83 (Hid.mk' (by decide)) m hm _).mono ?_; rintro e w4 ⟨rfl, hg⟩; have rs4 := rs3.kept0 hg; have ss4 := ss3.kept0 hg; have hG4 : Hid (w.grownBy w4 none) := Hid.mk' (gt hG3.out hg); clear s0; have s0 := ss4.cell 0 rfl; clear rs3 hg ss3; have hcv := conv_one (show n < 256 by omega) w4)
    | (refine wpList_loadC _ rfl 24 _ rfl _ Try.underlying24 rfl SB (sC (m : Int) 0 0 0) infoS rfl (by first | exact ss5 | exact ss4 | exact ss3 | exact ss2) ?_))
  go_upto_region 10 with fail
  go_wp2_with (first
    | (go_at_call 30; refine (after_alloc (ledRef m 0 [27, 40, 66] [b8 n] (by decide) (by simp) _)).mono ?_; rintro e w5 ⟨rfl, hg⟩; have rs5 := rs4.kept0 hg; have ss5 := ss4.kept0 hg; have hG5 : Hid (w.grownBy w5 none) := Hid.mk' (gt hG4.out hg); clear s0; have s0 := ss5.cell 0 rfl; clear rs4 hg ss4)
    | (refine wpList_loadC _ rfl 24 _ rfl _ Try.underlying24 rfl SB (sC (m : Int) 0 0 0) infoS rfl (by first | exact ss5 | exact ss4 | exact ss3 | exact ss2) ?_)
    | (refine wpList_storeC _ rfl 35 _ _ rfl B (pZ 0 ⟨#[]⟩) (pM 0 (str (ld m 0 [27, 40, 66] ++ [b8 n])) 0) infoP rfl (pC_one _ _ _ _ _ _) rfl rfl rs5 ?_; intro wz rsz hgz))
  refine bodyPost_ret (v := .agg (pM 0 (str (ld m 0 [27, 40, 66] ++ [b8 n])) 0)) (results_cell_row Try.results15 _ wz B 35 _ (0, 0) _ rfl rsz Try.underlying35 rfl infoP) rfl ⟨rfl, ?_⟩
  exact grownBy_new hG5.out hgz (fun k hk => by have h5 := Option.some.inj hk; have h6 := hB2.out; omega)
set_option maxRecDepth 100000 in
set_option maxHeartbeats 1000000 in
theorem j_y (m : Nat) (hm : m < 3) (u : Int) (hu : u = 165) (w : World) : Calls Try.prog 15 #[.int .i64 83, stV (m : Int) 0 0 0, .int .i32 u] w fun e w' => e = .returned (.agg (pM 0 (str (ld m 1 [27, 40, 74] ++ [b8 92])) 1)) ∧ w.grownBy w' none := by
  have aH : Hid (∀ wx, Calls Try.prog 31 #[.int .i32 u] wx fun e w' => e = .returned (.tuple #[.int .u8 92, .bool true]) ∧ wx.grownBy w' none) := Hid.mk' (fun wx => by subst hu; exact (C14.refHalfByte_any 165 wx (some 92) (Hid.mk' (by decide +kernel))).mono (fun e w' h => ⟨h.1, by rw [h.2]; exact grownBy_refl _ _⟩))
  have f0 : (u == 27) = false := by first | (simp; done) | (simp; omega)
  have f1 : decide (0 ≤ u) = true := by first | (simp; done) | (simp; omega)
  have f2 : decide (u < 128) = false := by first | (simp; done) | (simp; omega)
  have f3 : (u == 165) = true := by first | (simp; done) | (simp; omega)
  clear hu
  go_enter Try.func15, Try.ntmps15
  go_upto_region 1 with (first
    | (refine wpList_boxC _ rfl 24 _ rfl (sC (m : Int) 0 0 0) rfl ?_; intro w1 ss1 hg1)
    | (refine wpList_allocC _ rfl 35 rfl (pZ 0 ⟨#[]⟩) (zeroP _) ?_; intro w2 rs2 hg2))
  have hG2 : Hid (w.grownBy w2 none) := Hid.mk' (gt hg1 hg2)
  have ss2 := ss1.kept0 hg2
  have hB2 : Hid (w.heap.size ≤ w1.heap.size) := Hid.mk' hg1.size
  clear hg1 hg2 ss1
  generalize w1.heap.size = B at *
  obtain ⟨SB, hSB⟩ : ∃ SB, Hid (w.heap.size = SB) := ⟨_, Hid.mk' rfl⟩
  rw [hSB.out] at ss2
  rw [hSB.out]
  have s0 := ss2.cell 0 rfl
  go_upto_region 5 with (first
    | (go_at_call 11; refine (hasRef 83 true (Hid.mk' (by decide)) _).mono ?_; rintro e w3 ⟨rfl, hg⟩; have rs3 := rs2.kept0 hg; have ss3 := ss2.kept0 hg; have hG3 : Hid (w.grownBy w3 none) := Hid.mk' (gt hG2.out hg); clear s0; have s0 := ss3.cell 0 rfl; clear rs2 hg ss2)
    | (go_at_call 24; refine (fits_yes 83 (Hid.mk' (by decide)) m hm _).mono ?_; rintro e w4 ⟨rfl, hg⟩; have rs4 := rs3.kept0 hg; have ss4 := ss3.kept0 hg; have hG4 : Hid (w.grownBy w4 none) := Hid.mk' (gt hG3.out hg); clear s0; have s0 := ss4.cell 0 rfl; clear rs3 hg ss3)
    | (refine wpList_loadC _ rfl 24 _ rfl _ Try.underlying24 rfl SB (sC (m : Int) 0 0 0) infoS rfl (by first | exact ss6 | exact ss5 | exact ss4 | exact ss3 | exact ss2) ?_))
  go_upto_region 12 with fail
  go_upto_region 13 with (first
    | (go_at_call 31; refine (aH.out _).mono ?_; rintro e w5 ⟨rfl, hg⟩; have rs5 := rs4.kept0 hg; have ss5 := ss4.kept0 hg; have hG5 : Hid (w.grownBy w5 none) := Hid.mk' (gt hG4.out hg); clear s0; have s0 := ss5.cell 0 rfl; clear rs4 hg ss4; have hcv := conv_one (show 92 < 256 by omega) w5; simp only [Int.cast_ofNat_Int] at hcv))
  go_wp2_with (first
    | (go_at_call 30; refine (after_alloc (ledRef m 1 [27, 40, 74] [b8 92] (by decide) (by simp) _)).mono ?_; rintro e w6 ⟨rfl, hg⟩; have rs6 := rs5.kept0 hg; have ss6 := ss5.kept0 hg; have hG6 : Hid (w.grownBy w6 none) := Hid.mk' (gt hG5.out hg); clear s0; have s0 := ss6.cell 0 rfl; clear rs5 hg ss5)
    | (refine wpList_loadC _ rfl 24 _ rfl _ Try.underlying24 rfl SB (sC (m : Int) 0 0 0) infoS rfl (by first | exact ss6 | exact ss5 | exact ss4 | exact ss3 | exact ss2) ?_)
    | (refine wpList_storeC _ rfl 35 _ _ rfl B (pZ 0 ⟨#[]⟩) (pM 0 (str (ld m 1 [27, 40, 74] ++ [b8 92])) 1) infoP rfl (pC_one _ _ _ _ _ _) rfl rfl rs6 ?_; intro wz rsz hgz))
  refine bodyPost_ret (v := .agg (pM 0 (str (ld m 1 [27, 40, 74] ++ [b8 92])) 1)) (results_cell_row Try.results15 _ wz B 35 _ (0, 0) _ rfl rsz Try.underlying35 rfl infoP) rfl ⟨rfl, ?_⟩
  exact grownBy_new hG6.out hgz (fun k hk => by have h5 := Option.some.inj hk; have h6 := hB2.out; omega)
set_option maxRecDepth 100000 in
set_option maxHeartbeats 1000000 in
theorem j_o (m : Nat) (hm : m < 3) (u : Int) (hu : u = 8254) (w : World) : Calls Try.prog 15 #[.int .i64 83, stV (m : Int) 0 0 0, .int .i32 u] w fun e w' => e = .returned (.agg (pM 0 (str (ld m 1 [27, 40, 74] ++ [b8 126])) 1)) ∧ w.grownBy w' none := by
  have aH : Hid (∀ wx, Calls Try.prog 31 #[.int .i32 u] wx fun e w' => e = .returned (.tuple #[.int .u8 126, .bool true]) ∧ wx.grownBy w' none) := Hid.mk' (fun wx => by subst hu; exact (C14.refHalfByte_any 8254 wx (some 126) (Hid.mk' (by decide +kernel))).mono (fun e w' h => ⟨h.1, by rw [h.2]; exact grownBy_refl _ _⟩))
  have f0 : (u == 27) = false := by first | (simp; done) | (simp; omega)
  have f1 : decide (0 ≤ u) = true := by first | (simp; done) | (simp; omega)
  have f2 : decide (u < 128) = false := by first | (simp; done) | (simp; omega)
  have f3 : (u == 165) = false := by first | (simp; done) | (simp; omega)
  have f4 : (u == 8254) = true := by first | (simp; done) | (simp; omega)
  clear hu
  go_enter Try.func15, Try.ntmps15
  go_upto_region 1 with (first
    | (refine wpList_boxC _ rfl 24 _ rfl (sC (m : Int) 0 0 0) rfl ?_; intro w1 ss1 hg1)
    | (refine wpList_allocC _ rfl 35 rfl (pZ 0 ⟨#[]⟩) (zeroP _) ?_; intro w2 rs2 hg2))
  have hG2 : Hid (w.grownBy w2 none) := Hid.mk' (gt hg1 hg2)
  have ss2 := ss1.kept0 hg2
  have hB2 : Hid (w.heap.size ≤ w1.heap.size) := Hid.mk' hg1.size
  clear hg1 hg2 ss1
  generalize w1.heap.size = B at *
  obtain ⟨SB, hSB⟩ : ∃ SB, Hid (w.heap.size = SB) := ⟨_, Hid.mk' rfl⟩
  rw [hSB.out] at ss2
  rw [hSB.out]
  have s0 := ss2.cell 0 rfl
  go_upto_region 5 with (first
    | (go_at_call 11; refine (hasRef 83 true (Hid.mk' (by decide)) _).mono ?_; rintro e w3 ⟨rfl, hg⟩; have rs3 := rs2.kept0 hg; have ss3 := ss2.kept0 hg; have hG3 : Hid (w.grownBy w3 none) := Hid.mk' (gt hG2.out hg); clear s0; have s0 := ss3.cell 0 rfl; clear rs2 hg ss2)
    | (go_at_call 24; refine (fits_yes 83 (Hid.mk' (by decide)) m hm _).mono ?_; rintro e w4 ⟨rfl, hg⟩; have rs4 := rs3.kept0 hg; have ss4 := ss3.kept0 hg; have hG4 : Hid (w.grownBy w4 none) := Hid.mk' (gt hG3.out hg); clear s0; have s0 := ss4.cell 0 rfl; clear rs3 hg ss3)
    | (refine wpList_loadC _ rfl 24 _ rfl _ Try.underlying24 rfl SB (sC (m : Int) 0 0 0) infoS rfl (by first | exact ss6 | exact ss5 | exact ss4 | exact ss3 | exact ss2) ?_))
  go_upto_region 12 with fail
  go_upto_region 13 with (first
    | (go_at_call 31; refine (aH.out _).mono ?_; rintro e w5 ⟨rfl, hg⟩; have rs5 := rs4.kept0 hg; have ss5 := ss4.kept0 hg; have hG5 : Hid (w.grownBy w5 none) := Hid.mk' (gt hG4.out hg); clear s0; have s0 := ss5.cell 0 rfl; clear rs4 hg ss4; have hcv := conv_one (show 126 < 256 by omega) w5; simp only [Int.cast_ofNat_Int] at hcv))
  go_wp2_with (first
    | (go_at_call 30; refine (after_alloc (ledRef m 1 [27, 40, 74] [b8 126] (by decide) (by simp) _)).mono ?_; rintro e w6 ⟨rfl, hg⟩; have rs6 := rs5.kept0 hg; have ss6 := ss5.kept0 hg; have hG6 : Hid (w.grownBy w6 none) := Hid.mk' (gt hG5.out hg); clear s0; have s0 := ss6.cell 0 rfl; clear rs5 hg ss5)
    | (refine wpList_loadC _ rfl 24 _ rfl _ Try.underlying24 rfl SB (sC (m : Int) 0 0 0) infoS rfl (by first | exact ss6 | exact ss5 | exact ss4 | exact ss3 | exact ss2) ?_)
    | (refine wpList_storeC _ rfl 35 _ _ rfl B (pZ 0 ⟨#[]⟩) (pM 0 (str (ld m 1 [27, 40, 74] ++ [b8 126])) 1) infoP rfl (pC_one _ _ _ _ _ _) rfl rfl rs6 ?_; intro wz rsz hgz))
  refine bodyPost_ret (v := .agg (pM 0 (str (ld m 1 [27, 40, 74] ++ [b8 126])) 1)) (results_cell_row Try.results15 _ wz B 35 _ (0, 0) _ rfl rsz Try.underlying35 rfl infoP) rfl ⟨rfl, ?_⟩
  exact grownBy_new hG6.out hgz (fun k hk => by have h5 := Option.some.inj hk; have h6 := hB2.out; omega)
set_option maxRecDepth 100000 in
set_option maxHeartbeats 1000000 in
theorem j_nonep (m : Nat) (hm : m < 3) (u : Int) (h1 : 128 ≤ u) (h5 : u ≠ 165) (h6 : u ≠ 8254) (A D : Nat) (hP : Hid (C14.plT u = (A, D, false))) (w : World) : Calls Try.prog 15 #[.int .i64 83, stV (m : Int) 0 0 0, .int .i32 u] w fun e w' => e = .returned (.agg (pM 11 ⟨#[]⟩ 0)) ∧ w.grownBy w' none := by
  have f0 : (u == 27) = false := by first | (simp; done) | (simp; omega)
  have f1 : decide (0 ≤ u) = true := by first | (simp; done) | (simp; omega)
  have f2 : decide (u < 128) = false := by first | (simp; done) | (simp; omega)
  have f3 : (u == 165) = false := by first | (simp; done) | (simp; omega)
  have f4 : (u == 8254) = false := by first | (simp; done) | (simp; omega)
  go_enter Try.func15, Try.ntmps15
  go_upto_region 1 with (first
    | (refine wpList_boxC _ rfl 24 _ rfl (sC (m : Int) 0 0 0) rfl ?_; intro w1 ss1 hg1)
    | (refine wpList_allocC _ rfl 35 rfl (pZ 0 ⟨#[]⟩) (zeroP _) ?_; intro w2 rs2 hg2))
  have hG2 : Hid (w.grownBy w2 none) := Hid.mk' (gt hg1 hg2)
  have ss2 := ss1.kept0 hg2
  have hB2 : Hid (w.heap.size ≤ w1.heap.size) := Hid.mk' hg1.size
  clear hg1 hg2 ss1
  generalize w1.heap.size = B at *
  obtain ⟨SB, hSB⟩ : ∃ SB, Hid (w.heap.size = SB) := ⟨_, Hid.mk' rfl⟩
  rw [hSB.out] at ss2
  rw [hSB.out]
  have s0 := ss2.cell 0 rfl
  go_upto_region 5 with (first
    | (go_at_call 11; refine (hasRef 83 true (Hid.mk' (by decide)) _).mono ?_; rintro e w3 ⟨rfl, hg⟩; have rs3 := rs2.kept0 hg; have ss3 := ss2.kept0 hg; have hG3 : Hid (w.grownBy w3 none) := Hid.mk' (gt hG2.out hg); clear s0; have s0 := ss3.cell 0 rfl; clear rs2 hg ss2)
    | (go_at_call 24; refine (fits_yes 83 (Hid.mk' (by decide)) m hm _).mono ?_; rintro e w4 ⟨rfl, hg⟩; have rs4 := rs3.kept0 hg; have ss4 := ss3.kept0 hg; have hG4 : Hid (w.grownBy w4 none) := Hid.mk' (gt hG3.out hg); clear s0; have s0 := ss4.cell 0 rfl; clear rs3 hg ss3)
    | (refine wpList_loadC _ rfl 24 _ rfl _ Try.underlying24 rfl SB (sC (m : Int) 0 0 0) infoS rfl (by first | exact ss5 | exact ss4 | exact ss3 | exact ss2) ?_))
  go_upto_region 14 with fail
  go_wp2_with (first
    | (go_at_call 32; refine (C14.refPlace_any u _ A D false hP).mono ?_; rintro e w5 ⟨rfl, hg⟩; have rs5 := rs4.kept0 hg; have ss5 := ss4.kept0 hg; have hG5 : Hid (w.grownBy w5 none) := Hid.mk' (gt hG4.out hg); clear s0; have s0 := ss5.cell 0 rfl; clear rs4 hg ss4)
    | (refine wpList_loadC _ rfl 24 _ rfl _ Try.underlying24 rfl SB (sC (m : Int) 0 0 0) infoS rfl (by first | exact ss5 | exact ss4 | exact ss3 | exact ss2) ?_)
    | (refine wpList_storeC _ rfl 35 _ _ rfl B (pZ 0 ⟨#[]⟩) (pM 11 ⟨#[]⟩ 0) infoP rfl (pC_one _ _ _ _ _ _) rfl rfl rs5 ?_; intro wz rsz hgz))
  refine bodyPost_ret (v := .agg (pM 11 ⟨#[]⟩ 0)) (results_cell_row Try.results15 _ wz B 35 _ (0, 0) _ rfl rsz Try.underlying35 rfl infoP) rfl ⟨rfl, ?_⟩
  exact grownBy_new hG5.out hgz (fun k hk => by have h5 := Option.some.inj hk; have h6 := hB2.out; omega)
set_option maxRecDepth 100000 in
set_option maxHeartbeats 1000000 in
theorem j_nonen (m : Nat) (hm : m < 3) (u : Int) (h1 : u < 0) (h5 : u ≠ 165) (h6 : u ≠ 8254) (A D : Nat) (hP : Hid (C14.plT u = (A, D, false))) (w : World) : Calls Try.prog 15 #[.int .i64 83, stV (m : Int) 0 0 0, .int .i32 u] w fun e w' => e = .returned (.agg (pM 11 ⟨#[]⟩ 0)) ∧ w.grownBy w' none := by
  have f0 : (u == 27) = false := by first | (simp; done) | (simp; omega)
  have f1 : decide (0 ≤ u) = false := by first | (simp; done) | (simp; omega)
  have f2 : (u == 165) = false := by first | (simp; done) | (simp; omega)
  have f3 : (u == 8254) = false := by first | (simp; done) | (simp; omega)
  go_enter Try.func15, Try.ntmps15
  go_upto_region 1 with (first
    | (refine wpList_boxC _ rfl 24 _ rfl (sC (m : Int) 0 0 0) rfl ?_; intro w1 ss1 hg1)
    | (refine wpList_allocC _ rfl 35 rfl (pZ 0 ⟨#[]⟩) (zeroP _) ?_; intro w2 rs2 hg2))
  have hG2 : Hid (w.grownBy w2 none) := Hid.mk' (gt hg1 hg2)
  have ss2 := ss1.kept0 hg2
  have hB2 : Hid (w.heap.size ≤ w1.heap.size) := Hid.mk' hg1.size
  clear hg1 hg2 ss1
  generalize w1.heap.size = B at *
  obtain ⟨SB, hSB⟩ : ∃ SB, Hid (w.heap.size = SB) := ⟨_, Hid.mk' rfl⟩
  rw [hSB.out] at ss2
  rw [hSB.out]
  have s0 := ss2.cell 0 rfl
  go_upto_region 5 with (first
    | (go_at_call 11; refine (hasRef 83 true (Hid.mk' (by decide)) _).mono ?_; rintro e w3 ⟨rfl, hg⟩; have rs3 := rs2.kept0 hg; have ss3 := ss2.kept0 hg; have hG3 : Hid (w.grownBy w3 none) := Hid.mk' (gt hG2.out hg); clear s0; have s0 := ss3.cell 0 rfl; clear rs2 hg ss2)
    | (go_at_call 24; refine (fits_yes 83 (Hid.mk' (by decide)) m hm _).mono ?_; rintro e w4 ⟨rfl, hg⟩; have rs4 := rs3.kept0 hg; have ss4 := ss3.kept0 hg; have hG4 : Hid (w.grownBy w4 none) := Hid.mk' (gt hG3.out hg); clear s0; have s0 := ss4.cell 0 rfl; clear rs3 hg ss3)
    | (refine wpList_loadC _ rfl 24 _ rfl _ Try.underlying24 rfl SB (sC (m : Int) 0 0 0) infoS rfl (by first | exact ss5 | exact ss4 | exact ss3 | exact ss2) ?_))
  go_upto_region 14 with fail
  go_wp2_with (first
    | (go_at_call 32; refine (C14.refPlace_any u _ A D false hP).mono ?_; rintro e w5 ⟨rfl, hg⟩; have rs5 := rs4.kept0 hg; have ss5 := ss4.kept0 hg; have hG5 : Hid (w.grownBy w5 none) := Hid.mk' (gt hG4.out hg); clear s0; have s0 := ss5.cell 0 rfl; clear rs4 hg ss4)
    | (refine wpList_loadC _ rfl 24 _ rfl _ Try.underlying24 rfl SB (sC (m : Int) 0 0 0) infoS rfl (by first | exact ss5 | exact ss4 | exact ss3 | exact ss2) ?_)
    | (refine wpList_storeC _ rfl 35 _ _ rfl B (pZ 0 ⟨#[]⟩) (pM 11 ⟨#[]⟩ 0) infoP rfl (pC_one _ _ _ _ _ _) rfl rfl rs5 ?_; intro wz rsz hgz))
  refine bodyPost_ret (v := .agg (pM 11 ⟨#[]⟩ 0)) (results_cell_row Try.results15 _ wz B 35 _ (0, 0) _ rfl rsz Try.underlying35 rfl infoP) rfl ⟨rfl, ?_⟩
  exact grownBy_new hG5.out hgz (fun k hk => by have h5 := Option.some.inj hk; have h6 := hB2.out; omega)
set_option maxRecDepth 100000 in
set_option maxHeartbeats 1000000 in
theorem j_place (m : Nat) (hm : m < 3) (u : Int) (h1 : 128 ≤ u) (h5 : u ≠ 165) (h6 : u ≠ 8254) (A D : Nat) (hA : A ≤ 94) (hD : D ≤ 94) (hP : Hid (C14.plT u = (A, D, true))) (w : World) : Calls Try.prog 15 #[.int .i64 83, stV (m : Int) 0 0 0, .int .i32 u] w fun e w' => e = .returned (.agg (pM 0 (str (ld m 2 [27, 36, 66] ++ [b8 (A + 32), b8 (D + 32)])) 2)) ∧ w.grownBy w' none := by
  have f0 : (u == 27) = false := by first | (simp; done) | (simp; omega)
  have f1 : decide (0 ≤ u) = true := by first | (simp; done) | (simp; omega)
  have f2 : decide (u < 128) = false := by first | (simp; done) | (simp; omega)
  have f3 : (u == 165) = false := by first | (simp; done) | (simp; omega)
  have f4 : (u == 8254) = false := by first | (simp; done) | (simp; omega)
  go_enter Try.func15, Try.ntmps15
  go_upto_region 1 with (first
    | (refine wpList_boxC _ rfl 24 _ rfl (sC (m : Int) 0 0 0) rfl ?_; intro w1 ss1 hg1)
    | (refine wpList_allocC _ rfl 35 rfl (pZ 0 ⟨#[]⟩) (zeroP _) ?_; intro w2 rs2 hg2))
  have hG2 : Hid (w.grownBy w2 none) := Hid.mk' (gt hg1 hg2)
  have ss2 := ss1.kept0 hg2
  have hB2 : Hid (w.heap.size ≤ w1.heap.size) := Hid.mk' hg1.size
  clear hg1 hg2 ss1
  generalize w1.heap.size = B at *
  obtain ⟨SB, hSB⟩ : ∃ SB, Hid (w.heap.size = SB) := ⟨_, Hid.mk' rfl⟩
  rw [hSB.out] at ss2
  rw [hSB.out]
  have s0 := ss2.cell 0 rfl
  go_upto_region 5 with (first
    | (go_at_call 11; refine (hasRef 83 true (Hid.mk' (by decide)) _).mono ?_; rintro e w3 ⟨rfl, hg⟩; have rs3 := rs2.kept0 hg; have ss3 := ss2.kept0 hg; have hG3 : Hid (w.grownBy w3 none) := Hid.mk' (gt hG2.out hg); clear s0; have s0 := ss3.cell 0 rfl; clear rs2 hg ss2)
    | (go_at_call 24; refine (fits_yes 83 (Hid.mk' (by decide)) m hm _).mono ?_; rintro e w4 ⟨rfl, hg⟩; have rs4 := rs3.kept0 hg; have ss4 := ss3.kept0 hg; have hG4 : Hid (w.grownBy w4 none) := Hid.mk' (gt hG3.out hg); clear s0; have s0 := ss4.cell 0 rfl; clear rs3 hg ss3)
    | (refine wpList_loadC _ rfl 24 _ rfl _ Try.underlying24 rfl SB (sC (m : Int) 0 0 0) infoS rfl (by first | exact ss5 | exact ss4 | exact ss3 | exact ss2) ?_))
  go_upto_region 14 with fail
  go_upto_region 15 with (first
    | (go_at_call 32; refine (C14.refPlace_any u _ A D true hP).mono ?_; rintro e w5 ⟨rfl, hg⟩; have rs5 := rs4.kept0 hg; have ss5 := ss4.kept0 hg; have hG5 : Hid (w.grownBy w5 none) := Hid.mk' (gt hG4.out hg); clear s0; have s0 := ss5.cell 0 rfl; clear rs4 hg ss4))
  go_upto_region 17 with fail
  have hD5 : w5.grownBy w5.drew none := gd (grownBy_refl w5 none)
  have hcl : Hid (∀ wx, w5.grownBy wx none → (fun w' => w'.cell? ⟨SB, 0, none⟩ = some (.int .i64 (m : Int)) ∧ w'.cell? ⟨SB, 1, none⟩ = some (.int .i64 0) ∧ w'.cell? ⟨SB, 2, none⟩ = some (.int .u32 0) ∧ w'.cell? ⟨SB, 3, none⟩ = some (.int .i32 0)) wx) := Hid.mk' (fun wx hg => ⟨(ss5.kept0 hg).cell 0 rfl, (ss5.kept0 hg).cell 1 rfl, (ss5.kept0 hg).cell 2 rfl, (ss5.kept0 hg).cell 3 rfl⟩)
  have hne : Hid (some SB ≠ some B) := Hid.mk' (by intro e; have h5 := Option.some.inj e; have := ss5.ne rs5 (by decide); omega)
  have rs50 := Hid.mk' rs5
  have ss50 := Hid.mk' ss5
  clear s0 rs5 ss5
  refine wp_region_held_drew (S := fun w' => w'.cell? ⟨SB, 0, none⟩ = some (.int .i64 (m : Int)) ∧ w'.cell? ⟨SB, 1, none⟩ = some (.int .i64 0) ∧ w'.cell? ⟨SB, 2, none⟩ = some (.int .u32 0) ∧ w'.cell? ⟨SB, 3, none⟩ = some (.int .i32 0)) (by kernel_rfl) (hcl.out _ hD5) (fun hHeld => ?_)
  refine wpAnyH_take (i := 0) (v := ?_) rfl (by kernel_rfl) (by kernel_rfl) (by kernel_rfl) (fun _ _ _ h => h) (Or.inl ⟨by rfl, ?_⟩) (by assumption) ?_; rotate_left
  · (intro w hSw; (try dsimp only at hSw); go_simp; try with_reducible rfl)
  try simp only [List.getElem_toArray, List.getElem_cons_zero, Act.put, List.setIfInBounds_toArray, List.set_cons_zero, List.set_cons_succ]
  refine wpAnyH_take (i := 1) (v := ?_) rfl (by kernel_rfl) (by kernel_rfl) (by kernel_rfl) (fun _ _ _ h => h) (Or.inl ⟨by rfl, ?_⟩) (by assumption) ?_; rotate_left
  · (intro w hSw; (try dsimp only at hSw); go_simp; try with_reducible rfl)
  try simp only [List.getElem_toArray, List.getElem_cons_zero, List.getElem_cons_succ, Act.put, List.setIfInBounds_toArray, List.set_cons_zero, List.set_cons_succ]
  refine wpAnyH_take (i := 2) (v := ?_) rfl (by kernel_rfl) (by kernel_rfl) (by kernel_rfl) (fun _ _ _ h => h) (Or.inl ⟨by rfl, ?_⟩) (by assumption) ?_; rotate_left
  · (intro w hSw; (try dsimp only at hSw); go_simp; try with_reducible rfl)
  try simp only [List.getElem_toArray, List.getElem_cons_zero, List.getElem_cons_succ, Act.put, List.setIfInBounds_toArray, List.set_cons_zero, List.set_cons_succ]
  refine wpAnyH_ready (rs := [3]) (by kernel_rfl) (by simp) ?_
  refine AllReadyH.cons rfl (fun K hK => ?_) AllReadyH.nil
  go_simp
  refine (twoRef A D hA hD _).mono ?_; rintro e w6 ⟨rfl, hg⟩; have hg56 : Hid (w5.grownBy w6 none) := Hid.mk' (gt hD5 hg); clear hg; try dsimp only
  refine hK.out _ _ (hcl.out _ hg56.out) (fun hHeld => ?_)
  clear hK K
  try simp only [List.getElem_toArray, List.getElem_cons_zero, List.getElem_cons_succ, Act.put, List.setIfInBounds_toArray, List.set_cons_zero, List.set_cons_succ]
  refine wpAnyH_ready (rs := [4]) (by kernel_rfl) (by simp) ?_
  refine AllReadyH.cons rfl (fun K hK => ?_) AllReadyH.nil
  go_simp
  refine (ledRef m 2 [27, 36, 66] [b8 (A + 32), b8 (D + 32)] (by decide) (by simp) _).mono ?_; rintro e w7 ⟨rfl, hg⟩; have hg57 : Hid (w5.grownBy w7 none) := Hid.mk' (gt hg56.out hg); clear hg; try dsimp only
  refine hK.out _ _ (hcl.out _ hg57.out) (fun hHeld => ?_)
  clear hK K
  try simp only [List.getElem_toArray, List.getElem_cons_zero, List.getElem_cons_succ, Act.put, List.setIfInBounds_toArray, List.set_cons_zero, List.set_cons_succ]
  refine wpAnyH_ready (rs := [5]) (by kernel_rfl) (by simp) ?_
  refine AllReadyH.cons rfl (fun K hK => ?_) AllReadyH.nil
  refine step_storeC (by rfl) 35 _ _ (by rfl) B (pZ 0 ⟨#[]⟩) (pM 0 (str (ld m 2 [27, 36, 66] ++ [b8 (A + 32), b8 (D + 32)])) 2) infoP rfl (pC_one _ _ _ _ _ _) (by simp [Act.eval]) (by simp [Act.eval]) (rs50.out.kept0 hg57.out) ?_
  intro wz rsz hgz
  have ssz := (ss50.out.kept0 hg57.out).kept hgz hne.out
  refine hK.out _ _ ⟨ssz.cell 0 rfl, ssz.cell 1 rfl, ssz.cell 2 rfl, ssz.cell 3 rfl⟩ (fun hHeld => ?_)
  clear hK K
  try simp only [List.getElem_toArray, List.getElem_cons_zero, List.getElem_cons_succ, Act.put, List.setIfInBounds_toArray, List.set_cons_zero, List.set_cons_succ]
  refine wpAnyH_done (by kernel_rfl) ?_ _
  go_wp2_with fail
  refine bodyPost_ret (v := .agg (pM 0 (str (ld m 2 [27, 36, 66] ++ [b8 (A + 32), b8 (D + 32)])) 2)) (results_cell_row Try.results15 _ wz B 35 _ (0, 0) _ rfl rsz Try.underlying35 rfl infoP) rfl ⟨rfl, ?_⟩
  exact grownBy_new (gt hG5.out hg57.out) hgz (fun k hk => by have h5 := Option.some.inj hk; have h6 := hB2.out; omega)
end Go.Proofs.Ytdobjijebalkkaa.C21

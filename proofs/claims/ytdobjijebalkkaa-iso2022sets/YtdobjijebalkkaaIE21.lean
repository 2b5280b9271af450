/- The document's End of layer 21: walks. -/
import Derived.Test.YtdobjijebalkkaaIS21
import Derived.Test.YtdobjijebalkkaaCs
import Derived.Test.YtdobjijebalkkaaConvApp
import Derived.Deep.RegionHeld3
namespace Go.Proofs.Ytdobjijebalkkaa.C21
open Go.ChangeShapes Go.WideShapes Go.ChangeAt Go.RowKit Go.Proofs.Ytdobjijebalkkaa.Mem Go.Proofs.Ytdobjijebalkkaa.Cb Go.Proofs.Ytdobjijebalkkaa.Sp
set_option linter.unusedVariables false
set_option linter.unusedSimpArgs false

theorem results_tct {P : Program} {fn : Func} {a p u : Tmp} {ty : TypeId} (h : fn.results = #[.tmp a, .cell p ty, .tmp u]) (tmps : Array Value) (w : World) (g : Nat) (t : TypeId) (cs : Array Value) (fr : Nat × Nat) (d : TypeDesc)
    (hp : tmps.getD p undef = .pointer (some ⟨g, 0, none⟩)) (hg : w.heap[g]? = some (.cells cs t fr))
    (hu : P.underlying ty = some d) (hd : (match d with | .struct _ | .array _ _ => true | _ => false) = true) (hi : (P.info? ty).map (·.size) = some cs.size) (x v : Value) (hx : tmps.getD a undef = x) (hv : tmps.getD u undef = v) :
    (results fn tmps).run P w = .ok (.tuple #[x, .agg cs, v]) w := by
  have hp' : tmps[p]?.getD undef = .pointer (some ⟨g, 0, none⟩) := by simpa using hp
  have hx' : tmps[a]?.getD undef = x := by simpa using hx
  have hv' : tmps[u]?.getD undef = v := by simpa using hv
  simp [results, h, hp', hx', hv', asAddr, run_loadVar_row w g t ty cs fr d hg hu hd hi]
set_option maxRecDepth 100000 in
set_option maxHeartbeats 1000000 in
theorem end_kind (k md bi ac he : Int) (hk : Hid (has k = false)) (w : World) : Calls Try.prog 13 #[.int .i64 k, stV md bi ac he] w fun e w' => e = .returned (.tuple #[.string ⟨#[]⟩, .agg (sC 0 0 0 0), .int .i64 5]) ∧ w.grownBy w' none := by
  go_enter Try.func13, Try.ntmps13
  go_upto_region 1 with (first
    | (refine wpList_boxC _ rfl 24 _ rfl (sC md bi ac he) rfl ?_; intro w1 ss1 hg1)
    | (refine wpList_allocC _ rfl 24 rfl (sC 0 0 0 0) (zeroS _) ?_; intro w2 rs2 hg2))
  have hG2 : Hid (w.grownBy w2 none) := Hid.mk' (gt hg1 hg2)
  have ss2 := ss1.kept0 hg2
  have hB2 : Hid (w.heap.size ≤ w1.heap.size) := Hid.mk' hg1.size
  have hne : Hid (¬ w1.heap.size = w.heap.size) := Hid.mk' (by have := ss1.lt; omega)
  clear hg1 hg2 ss1
  generalize w1.heap.size = B at *
  obtain ⟨SB, hSB⟩ : ∃ SB, Hid (w.heap.size = SB) := ⟨_, Hid.mk' rfl⟩
  rw [hSB.out] at ss2 hne
  rw [hSB.out]
  have s0 := ss2.cell 0 rfl
  go_wp2_with (first
    | (go_at_call 11; refine (hasRef k false hk _).mono ?_; rintro e w3 ⟨rfl, hg⟩; have rs3 := rs2.kept0 hg; have ss3 := ss2.kept0 hg; have hG3 : Hid (w.grownBy w3 none) := Hid.mk' (gt hG2.out hg); clear s0; have s0 := ss3.cell 0 rfl; clear rs2 ss2 hg)
    | (refine wpList_loadC _ rfl 24 _ rfl _ Try.underlying24 rfl SB (sC md bi ac he) infoS rfl (by first | exact ss3 | exact ss2) ?_)
    | (refine wpList_storeC _ rfl 24 _ _ rfl B (sC 0 0 0 0) (sC 0 0 0 0) infoS rfl (sC_one _ _ _ _) rfl rfl rs3 ?_; intro wz rsz hgz))
  refine bodyPost_ret (v := .tuple #[.string ⟨#[]⟩, .agg (sC 0 0 0 0), .int .i64 5]) (results_tct Try.results13 _ wz B 24 _ (0, 0) _ rfl rsz Try.underlying24 rfl infoS _ _ rfl rfl) rfl ⟨rfl, ?_⟩
  exact grownBy_new hG3.out hgz (fun k hk => by have h5 := Option.some.inj hk; have h6 := hB2.out; omega)
set_option maxRecDepth 100000 in
set_option maxHeartbeats 1000000 in
theorem end_no (k md bi ac he : Int) (hk : Hid (has k = true)) (hm : Hid (mo md bi ac he = 3)) (w : World) : Calls Try.prog 13 #[.int .i64 k, stV md bi ac he] w fun e w' => e = .returned (.tuple #[.string ⟨#[]⟩, .agg (sC 0 0 0 0), .int .i64 7]) ∧ w.grownBy w' none := by
  go_enter Try.func13, Try.ntmps13
  go_upto_region 1 with (first
    | (refine wpList_boxC _ rfl 24 _ rfl (sC md bi ac he) rfl ?_; intro w1 ss1 hg1)
    | (refine wpList_allocC _ rfl 24 rfl (sC 0 0 0 0) (zeroS _) ?_; intro w2 rs2 hg2))
  have hG2 : Hid (w.grownBy w2 none) := Hid.mk' (gt hg1 hg2)
  have ss2 := ss1.kept0 hg2
  have hB2 : Hid (w.heap.size ≤ w1.heap.size) := Hid.mk' hg1.size
  have hne : Hid (¬ w1.heap.size = w.heap.size) := Hid.mk' (by have := ss1.lt; omega)
  clear hg1 hg2 ss1
  generalize w1.heap.size = B at *
  obtain ⟨SB, hSB⟩ : ∃ SB, Hid (w.heap.size = SB) := ⟨_, Hid.mk' rfl⟩
  rw [hSB.out] at ss2 hne
  rw [hSB.out]
  have s0 := ss2.cell 0 rfl
  go_wp2_with (first
    | (go_at_call 11; refine (hasRef k true hk _).mono ?_; rintro e w3 ⟨rfl, hg⟩; have rs3 := rs2.kept0 hg; have ss3 := ss2.kept0 hg; have hG3 : Hid (w.grownBy w3 none) := Hid.mk' (gt hG2.out hg); clear s0; have s0 := ss3.cell 0 rfl; clear rs2 ss2 hg)
    | (go_at_call 24; refine (fits_no k hk md bi ac he hm _).mono ?_; rintro e w4 ⟨rfl, hg⟩; have rs4 := rs3.kept0 hg; have ss4 := ss3.kept0 hg; have hG4 : Hid (w.grownBy w4 none) := Hid.mk' (gt hG3.out hg); clear s0; have s0 := ss4.cell 0 rfl; clear rs3 ss3 hg)
    | (refine wpList_loadC _ rfl 24 _ rfl _ Try.underlying24 rfl SB (sC md bi ac he) infoS rfl (by first | exact ss4 | exact ss3 | exact ss2) ?_)
    | (refine wpList_storeC _ rfl 24 _ _ rfl B (sC 0 0 0 0) (sC 0 0 0 0) infoS rfl (sC_one _ _ _ _) rfl rfl rs4 ?_; intro wz rsz hgz))
  refine bodyPost_ret (v := .tuple #[.string ⟨#[]⟩, .agg (sC 0 0 0 0), .int .i64 7]) (results_tct Try.results13 _ wz B 24 _ (0, 0) _ rfl rsz Try.underlying24 rfl infoS _ _ rfl rfl) rfl ⟨rfl, ?_⟩
  exact grownBy_new hG4.out hgz (fun k hk => by have h5 := Option.some.inj hk; have h6 := hB2.out; omega)
set_option maxRecDepth 100000 in
set_option maxHeartbeats 1000000 in
theorem end_83_0  (w : World) : Calls Try.prog 13 #[.int .i64 83, stV 0 0 0 0] w fun e w' => e = .returned (.tuple #[.string ⟨#[]⟩, .agg (sC 0 0 0 0), .int .i64 0]) ∧ w.grownBy w' none := by
  go_enter Try.func13, Try.ntmps13
  go_upto_region 1 with (first
    | (refine wpList_boxC _ rfl 24 _ rfl (sC 0 0 0 0) rfl ?_; intro w1 ss1 hg1)
    | (refine wpList_allocC _ rfl 24 rfl (sC 0 0 0 0) (zeroS _) ?_; intro w2 rs2 hg2))
  have hG2 : Hid (w.grownBy w2 none) := Hid.mk' (gt hg1 hg2)
  have ss2 := ss1.kept0 hg2
  have hB2 : Hid (w.heap.size ≤ w1.heap.size) := Hid.mk' hg1.size
  have hne : Hid (¬ w1.heap.size = w.heap.size) := Hid.mk' (by have := ss1.lt; omega)
  clear hg1 hg2 ss1
  generalize w1.heap.size = B at *
  obtain ⟨SB, hSB⟩ : ∃ SB, Hid (w.heap.size = SB) := ⟨_, Hid.mk' rfl⟩
  rw [hSB.out] at ss2 hne
  rw [hSB.out]
  have s0 := ss2.cell 0 rfl
  go_upto_region 9 with (first
    | (go_at_call 11; refine (hasRef 83 true (Hid.mk' (by decide)) _).mono ?_; rintro e w3 ⟨rfl, hg⟩; have rs3 := rs2.kept0 hg; have ss3 := ss2.kept0 hg; have hG3 : Hid (w.grownBy w3 none) := Hid.mk' (gt hG2.out hg); clear s0; have s0 := ss3.cell 0 rfl; clear rs2 ss2 hg)
    | (go_at_call 24; refine (fit_0 83 (Hid.mk' (by decide)) _).mono ?_; rintro e w4 ⟨rfl, hg⟩; have rs4 := rs3.kept0 hg; have ss4 := ss3.kept0 hg; have hG4 : Hid (w.grownBy w4 none) := Hid.mk' (gt hG3.out hg); clear s0; have s0 := ss4.cell 0 rfl; clear rs3 ss3 hg)
    | (refine wpList_loadC _ rfl 24 _ rfl _ Try.underlying24 rfl SB (sC 0 0 0 0) infoS rfl (by first | exact ss4 | exact ss3 | exact ss2) ?_))
  have hD : w4.grownBy w4.drew none := gd (grownBy_refl w4 none)
  have hcl : Hid (∀ wx, w4.grownBy wx none → (fun w' => w'.cell? ⟨SB, 0, none⟩ = some (.int .i64 0) ∧ w'.cell? ⟨SB, 1, none⟩ = some (.int .i64 0) ∧ w'.cell? ⟨SB, 2, none⟩ = some (.int .u32 0) ∧ w'.cell? ⟨SB, 3, none⟩ = some (.int .i32 0)) wx) := Hid.mk' (fun wx hg => ⟨(ss4.kept0 hg).cell 0 rfl, (ss4.kept0 hg).cell 1 rfl, (ss4.kept0 hg).cell 2 rfl, (ss4.kept0 hg).cell 3 rfl⟩)
  have rsD := rs4.kept0 hD
  have ssD := ss4.kept0 hD
  clear s0
  refine wp_region_held_drew (S := fun w' => w'.cell? ⟨SB, 0, none⟩ = some (.int .i64 0) ∧ w'.cell? ⟨SB, 1, none⟩ = some (.int .i64 0) ∧ w'.cell? ⟨SB, 2, none⟩ = some (.int .u32 0) ∧ w'.cell? ⟨SB, 3, none⟩ = some (.int .i32 0)) (by kernel_rfl) (hcl.out _ hD) (fun hHeld => ?_)
  refine wpAnyH_take (i := 0) (v := ?_) rfl (by kernel_rfl) (by kernel_rfl) (by kernel_rfl) (fun _ _ _ h => h) (Or.inl ⟨by rfl, ?_⟩) (by assumption) ?_; rotate_left
  · (intro w hSw; (try dsimp only at hSw); go_simp; try with_reducible rfl)
  try simp only [List.getElem_toArray, List.getElem_cons_zero, Act.put, List.setIfInBounds_toArray, List.set_cons_zero, List.set_cons_succ]
  refine wpAnyH_take (i := 1) (v := ?_) rfl (by kernel_rfl) (by kernel_rfl) (by kernel_rfl) (fun _ _ _ h => h) (Or.inl ⟨by rfl, ?_⟩) (by assumption) ?_; rotate_left
  · (intro w hSw; (try dsimp only at hSw); go_simp; try with_reducible rfl)
  try simp only [List.getElem_toArray, List.getElem_cons_zero, List.getElem_cons_succ, Act.put, List.setIfInBounds_toArray, List.set_cons_zero, List.set_cons_succ]
  refine wpAnyH_ready (rs := [2]) (by kernel_rfl) (by simp) ?_
  refine AllReadyH.cons rfl (fun K hK => ?_) AllReadyH.nil
  refine step_storeC (by rfl) 24 _ _ (by rfl) B (sC 0 0 0 0) (sC 0 0 0 0) infoS rfl (sC_one _ _ _ _) (by simp [Act.eval]) (by simp [Act.eval]) rsD ?_
  intro wz rsz hgz
  have ssz := ssD.kept hgz (by intro e; have h5 := Option.some.inj e; have h6 := hne.out; omega)
  refine hK.out _ _ ⟨ssz.cell 0 rfl, ssz.cell 1 rfl, ssz.cell 2 rfl, ssz.cell 3 rfl⟩ (fun hHeld => ?_)
  clear hK K
  try simp only [List.getElem_toArray, List.getElem_cons_zero, List.getElem_cons_succ, Act.put, List.setIfInBounds_toArray, List.set_cons_zero, List.set_cons_succ]
  refine wpAnyH_take (i := 3) (v := ?_) rfl (by kernel_rfl) (by kernel_rfl) (by kernel_rfl) (fun _ _ _ h => h) (Or.inl ⟨by rfl, ?_⟩) (by assumption) ?_; rotate_left
  · (intro w hSw; (try dsimp only at hSw); go_simp; try with_reducible rfl)
  try simp only [List.getElem_toArray, List.getElem_cons_zero, List.getElem_cons_succ, Act.put, List.setIfInBounds_toArray, List.set_cons_zero, List.set_cons_succ]
  refine wpAnyH_done (by kernel_rfl) ?_ _
  go_wp2_with fail
  refine bodyPost_ret (v := .tuple #[.string ⟨#[]⟩, .agg (sC 0 0 0 0), .int .i64 0]) (results_tct Try.results13 _ wz B 24 _ (0, 0) _ rfl rsz Try.underlying24 rfl infoS _ _ rfl rfl) rfl ⟨rfl, ?_⟩
  exact grownBy_new (gt hG4.out hD) hgz (fun k hk => by have h5 := Option.some.inj hk; have h6 := hB2.out; omega)
set_option maxRecDepth 100000 in
set_option maxHeartbeats 1000000 in
theorem end_83_1  (w : World) : Calls Try.prog 13 #[.int .i64 83, stV 1 0 0 0] w fun e w' => e = .returned (.tuple #[.string ⟨#[27, 40, 66]⟩, .agg (sC 0 0 0 0), .int .i64 0]) ∧ w.grownBy w' none := by
  go_enter Try.func13, Try.ntmps13
  go_upto_region 1 with (first
    | (refine wpList_boxC _ rfl 24 _ rfl (sC 1 0 0 0) rfl ?_; intro w1 ss1 hg1)
    | (refine wpList_allocC _ rfl 24 rfl (sC 0 0 0 0) (zeroS _) ?_; intro w2 rs2 hg2))
  have hG2 : Hid (w.grownBy w2 none) := Hid.mk' (gt hg1 hg2)
  have ss2 := ss1.kept0 hg2
  have hB2 : Hid (w.heap.size ≤ w1.heap.size) := Hid.mk' hg1.size
  have hne : Hid (¬ w1.heap.size = w.heap.size) := Hid.mk' (by have := ss1.lt; omega)
  clear hg1 hg2 ss1
  generalize w1.heap.size = B at *
  obtain ⟨SB, hSB⟩ : ∃ SB, Hid (w.heap.size = SB) := ⟨_, Hid.mk' rfl⟩
  rw [hSB.out] at ss2 hne
  rw [hSB.out]
  have s0 := ss2.cell 0 rfl
  go_wp2_with (first
    | (go_at_call 11; refine (hasRef 83 true (Hid.mk' (by decide)) _).mono ?_; rintro e w3 ⟨rfl, hg⟩; have rs3 := rs2.kept0 hg; have ss3 := ss2.kept0 hg; have hG3 : Hid (w.grownBy w3 none) := Hid.mk' (gt hG2.out hg); clear s0; have s0 := ss3.cell 0 rfl; clear rs2 ss2 hg)
    | (go_at_call 24; refine (fit_1 83 (Hid.mk' (by decide)) _).mono ?_; rintro e w4 ⟨rfl, hg⟩; have rs4 := rs3.kept0 hg; have ss4 := ss3.kept0 hg; have hG4 : Hid (w.grownBy w4 none) := Hid.mk' (gt hG3.out hg); clear s0; have s0 := ss4.cell 0 rfl; clear rs3 ss3 hg)
    | (refine wpList_loadC _ rfl 24 _ rfl _ Try.underlying24 rfl SB (sC 1 0 0 0) infoS rfl (by first | exact ss4 | exact ss3 | exact ss2) ?_)
    | (refine wpList_storeC _ rfl 24 _ _ rfl B (sC 0 0 0 0) (sC 0 0 0 0) infoS rfl (sC_one _ _ _ _) rfl rfl rs4 ?_; intro wz rsz hgz))
  refine bodyPost_ret (v := .tuple #[.string ⟨#[27, 40, 66]⟩, .agg (sC 0 0 0 0), .int .i64 0]) (results_tct Try.results13 _ wz B 24 _ (0, 0) _ rfl rsz Try.underlying24 rfl infoS _ _ rfl rfl) rfl ⟨rfl, ?_⟩
  exact grownBy_new hG4.out hgz (fun k hk => by have h5 := Option.some.inj hk; have h6 := hB2.out; omega)
set_option maxRecDepth 100000 in
set_option maxHeartbeats 1000000 in
theorem end_83_2  (w : World) : Calls Try.prog 13 #[.int .i64 83, stV 2 0 0 0] w fun e w' => e = .returned (.tuple #[.string ⟨#[27, 40, 66]⟩, .agg (sC 0 0 0 0), .int .i64 0]) ∧ w.grownBy w' none := by
  go_enter Try.func13, Try.ntmps13
  go_upto_region 1 with (first
    | (refine wpList_boxC _ rfl 24 _ rfl (sC 2 0 0 0) rfl ?_; intro w1 ss1 hg1)
    | (refine wpList_allocC _ rfl 24 rfl (sC 0 0 0 0) (zeroS _) ?_; intro w2 rs2 hg2))
  have hG2 : Hid (w.grownBy w2 none) := Hid.mk' (gt hg1 hg2)
  have ss2 := ss1.kept0 hg2
  have hB2 : Hid (w.heap.size ≤ w1.heap.size) := Hid.mk' hg1.size
  have hne : Hid (¬ w1.heap.size = w.heap.size) := Hid.mk' (by have := ss1.lt; omega)
  clear hg1 hg2 ss1
  generalize w1.heap.size = B at *
  obtain ⟨SB, hSB⟩ : ∃ SB, Hid (w.heap.size = SB) := ⟨_, Hid.mk' rfl⟩
  rw [hSB.out] at ss2 hne
  rw [hSB.out]
  have s0 := ss2.cell 0 rfl
  go_wp2_with (first
    | (go_at_call 11; refine (hasRef 83 true (Hid.mk' (by decide)) _).mono ?_; rintro e w3 ⟨rfl, hg⟩; have rs3 := rs2.kept0 hg; have ss3 := ss2.kept0 hg; have hG3 : Hid (w.grownBy w3 none) := Hid.mk' (gt hG2.out hg); clear s0; have s0 := ss3.cell 0 rfl; clear rs2 ss2 hg)
    | (go_at_call 24; refine (fit_2 83 (Hid.mk' (by decide)) _).mono ?_; rintro e w4 ⟨rfl, hg⟩; have rs4 := rs3.kept0 hg; have ss4 := ss3.kept0 hg; have hG4 : Hid (w.grownBy w4 none) := Hid.mk' (gt hG3.out hg); clear s0; have s0 := ss4.cell 0 rfl; clear rs3 ss3 hg)
    | (refine wpList_loadC _ rfl 24 _ rfl _ Try.underlying24 rfl SB (sC 2 0 0 0) infoS rfl (by first | exact ss4 | exact ss3 | exact ss2) ?_)
    | (refine wpList_storeC _ rfl 24 _ _ rfl B (sC 0 0 0 0) (sC 0 0 0 0) infoS rfl (sC_one _ _ _ _) rfl rfl rs4 ?_; intro wz rsz hgz))
  refine bodyPost_ret (v := .tuple #[.string ⟨#[27, 40, 66]⟩, .agg (sC 0 0 0 0), .int .i64 0]) (results_tct Try.results13 _ wz B 24 _ (0, 0) _ rfl rsz Try.underlying24 rfl infoS _ _ rfl rfl) rfl ⟨rfl, ?_⟩
  exact grownBy_new hG4.out hgz (fun k hk => by have h5 := Option.some.inj hk; have h6 := hB2.out; omega)
set_option maxRecDepth 100000 in
set_option maxHeartbeats 1000000 in
theorem end_88_0  (w : World) : Calls Try.prog 13 #[.int .i64 88, stV 0 0 0 0] w fun e w' => e = .returned (.tuple #[.string ⟨#[]⟩, .agg (sC 0 0 0 0), .int .i64 0]) ∧ w.grownBy w' none := by
  go_enter Try.func13, Try.ntmps13
  go_upto_region 1 with (first
    | (refine wpList_boxC _ rfl 24 _ rfl (sC 0 0 0 0) rfl ?_; intro w1 ss1 hg1)
    | (refine wpList_allocC _ rfl 24 rfl (sC 0 0 0 0) (zeroS _) ?_; intro w2 rs2 hg2))
  have hG2 : Hid (w.grownBy w2 none) := Hid.mk' (gt hg1 hg2)
  have ss2 := ss1.kept0 hg2
  have hB2 : Hid (w.heap.size ≤ w1.heap.size) := Hid.mk' hg1.size
  have hne : Hid (¬ w1.heap.size = w.heap.size) := Hid.mk' (by have := ss1.lt; omega)
  clear hg1 hg2 ss1
  generalize w1.heap.size = B at *
  obtain ⟨SB, hSB⟩ : ∃ SB, Hid (w.heap.size = SB) := ⟨_, Hid.mk' rfl⟩
  rw [hSB.out] at ss2 hne
  rw [hSB.out]
  have s0 := ss2.cell 0 rfl
  go_upto_region 9 with (first
    | (go_at_call 11; refine (hasRef 88 true (Hid.mk' (by decide)) _).mono ?_; rintro e w3 ⟨rfl, hg⟩; have rs3 := rs2.kept0 hg; have ss3 := ss2.kept0 hg; have hG3 : Hid (w.grownBy w3 none) := Hid.mk' (gt hG2.out hg); clear s0; have s0 := ss3.cell 0 rfl; clear rs2 ss2 hg)
    | (go_at_call 24; refine (fit_0 88 (Hid.mk' (by decide)) _).mono ?_; rintro e w4 ⟨rfl, hg⟩; have rs4 := rs3.kept0 hg; have ss4 := ss3.kept0 hg; have hG4 : Hid (w.grownBy w4 none) := Hid.mk' (gt hG3.out hg); clear s0; have s0 := ss4.cell 0 rfl; clear rs3 ss3 hg)
    | (refine wpList_loadC _ rfl 24 _ rfl _ Try.underlying24 rfl SB (sC 0 0 0 0) infoS rfl (by first | exact ss4 | exact ss3 | exact ss2) ?_))
  have hD : w4.grownBy w4.drew none := gd (grownBy_refl w4 none)
  have hcl : Hid (∀ wx, w4.grownBy wx none → (fun w' => w'.cell? ⟨SB, 0, none⟩ = some (.int .i64 0) ∧ w'.cell? ⟨SB, 1, none⟩ = some (.int .i64 0) ∧ w'.cell? ⟨SB, 2, none⟩ = some (.int .u32 0) ∧ w'.cell? ⟨SB, 3, none⟩ = some (.int .i32 0)) wx) := Hid.mk' (fun wx hg => ⟨(ss4.kept0 hg).cell 0 rfl, (ss4.kept0 hg).cell 1 rfl, (ss4.kept0 hg).cell 2 rfl, (ss4.kept0 hg).cell 3 rfl⟩)
  have rsD := rs4.kept0 hD
  have ssD := ss4.kept0 hD
  clear s0
  refine wp_region_held_drew (S := fun w' => w'.cell? ⟨SB, 0, none⟩ = some (.int .i64 0) ∧ w'.cell? ⟨SB, 1, none⟩ = some (.int .i64 0) ∧ w'.cell? ⟨SB, 2, none⟩ = some (.int .u32 0) ∧ w'.cell? ⟨SB, 3, none⟩ = some (.int .i32 0)) (by kernel_rfl) (hcl.out _ hD) (fun hHeld => ?_)
  refine wpAnyH_take (i := 0) (v := ?_) rfl (by kernel_rfl) (by kernel_rfl) (by kernel_rfl) (fun _ _ _ h => h) (Or.inl ⟨by rfl, ?_⟩) (by assumption) ?_; rotate_left
  · (intro w hSw; (try dsimp only at hSw); go_simp; try with_reducible rfl)
  try simp only [List.getElem_toArray, List.getElem_cons_zero, Act.put, List.setIfInBounds_toArray, List.set_cons_zero, List.set_cons_succ]
  refine wpAnyH_take (i := 1) (v := ?_) rfl (by kernel_rfl) (by kernel_rfl) (by kernel_rfl) (fun _ _ _ h => h) (Or.inl ⟨by rfl, ?_⟩) (by assumption) ?_; rotate_left
  · (intro w hSw; (try dsimp only at hSw); go_simp; try with_reducible rfl)
  try simp only [List.getElem_toArray, List.getElem_cons_zero, List.getElem_cons_succ, Act.put, List.setIfInBounds_toArray, List.set_cons_zero, List.set_cons_succ]
  refine wpAnyH_ready (rs := [2]) (by kernel_rfl) (by simp) ?_
  refine AllReadyH.cons rfl (fun K hK => ?_) AllReadyH.nil
  refine step_storeC (by rfl) 24 _ _ (by rfl) B (sC 0 0 0 0) (sC 0 0 0 0) infoS rfl (sC_one _ _ _ _) (by simp [Act.eval]) (by simp [Act.eval]) rsD ?_
  intro wz rsz hgz
  have ssz := ssD.kept hgz (by intro e; have h5 := Option.some.inj e; have h6 := hne.out; omega)
  refine hK.out _ _ ⟨ssz.cell 0 rfl, ssz.cell 1 rfl, ssz.cell 2 rfl, ssz.cell 3 rfl⟩ (fun hHeld => ?_)
  clear hK K
  try simp only [List.getElem_toArray, List.getElem_cons_zero, List.getElem_cons_succ, Act.put, List.setIfInBounds_toArray, List.set_cons_zero, List.set_cons_succ]
  refine wpAnyH_take (i := 3) (v := ?_) rfl (by kernel_rfl) (by kernel_rfl) (by kernel_rfl) (fun _ _ _ h => h) (Or.inl ⟨by rfl, ?_⟩) (by assumption) ?_; rotate_left
  · (intro w hSw; (try dsimp only at hSw); go_simp; try with_reducible rfl)
  try simp only [List.getElem_toArray, List.getElem_cons_zero, List.getElem_cons_succ, Act.put, List.setIfInBounds_toArray, List.set_cons_zero, List.set_cons_succ]
  refine wpAnyH_done (by kernel_rfl) ?_ _
  go_wp2_with fail
  refine bodyPost_ret (v := .tuple #[.string ⟨#[]⟩, .agg (sC 0 0 0 0), .int .i64 0]) (results_tct Try.results13 _ wz B 24 _ (0, 0) _ rfl rsz Try.underlying24 rfl infoS _ _ rfl rfl) rfl ⟨rfl, ?_⟩
  exact grownBy_new (gt hG4.out hD) hgz (fun k hk => by have h5 := Option.some.inj hk; have h6 := hB2.out; omega)
set_option maxRecDepth 100000 in
set_option maxHeartbeats 1000000 in
theorem end_88_1  (w : World) : Calls Try.prog 13 #[.int .i64 88, stV 1 0 0 0] w fun e w' => e = .returned (.tuple #[.string ⟨#[]⟩, .agg (sC 1 0 0 0), .int .i64 0]) ∧ w.grownBy w' none := by
  go_enter Try.func13, Try.ntmps13
  go_upto_region 1 with (first
    | (refine wpList_boxC _ rfl 24 _ rfl (sC 1 0 0 0) rfl ?_; intro w1 ss1 hg1)
    | (refine wpList_allocC _ rfl 24 rfl (sC 0 0 0 0) (zeroS _) ?_; intro w2 rs2 hg2))
  have hG2 : Hid (w.grownBy w2 none) := Hid.mk' (gt hg1 hg2)
  have ss2 := ss1.kept0 hg2
  have hB2 : Hid (w.heap.size ≤ w1.heap.size) := Hid.mk' hg1.size
  have hne : Hid (¬ w1.heap.size = w.heap.size) := Hid.mk' (by have := ss1.lt; omega)
  clear hg1 hg2 ss1
  generalize w1.heap.size = B at *
  obtain ⟨SB, hSB⟩ : ∃ SB, Hid (w.heap.size = SB) := ⟨_, Hid.mk' rfl⟩
  rw [hSB.out] at ss2 hne
  rw [hSB.out]
  have s0 := ss2.cell 0 rfl
  go_upto_region 9 with (first
    | (go_at_call 11; refine (hasRef 88 true (Hid.mk' (by decide)) _).mono ?_; rintro e w3 ⟨rfl, hg⟩; have rs3 := rs2.kept0 hg; have ss3 := ss2.kept0 hg; have hG3 : Hid (w.grownBy w3 none) := Hid.mk' (gt hG2.out hg); clear s0; have s0 := ss3.cell 0 rfl; clear rs2 ss2 hg)
    | (go_at_call 24; refine (fit_1 88 (Hid.mk' (by decide)) _).mono ?_; rintro e w4 ⟨rfl, hg⟩; have rs4 := rs3.kept0 hg; have ss4 := ss3.kept0 hg; have hG4 : Hid (w.grownBy w4 none) := Hid.mk' (gt hG3.out hg); clear s0; have s0 := ss4.cell 0 rfl; clear rs3 ss3 hg)
    | (refine wpList_loadC _ rfl 24 _ rfl _ Try.underlying24 rfl SB (sC 1 0 0 0) infoS rfl (by first | exact ss4 | exact ss3 | exact ss2) ?_))
  have hD : w4.grownBy w4.drew none := gd (grownBy_refl w4 none)
  have hcl : Hid (∀ wx, w4.grownBy wx none → (fun w' => w'.cell? ⟨SB, 0, none⟩ = some (.int .i64 1) ∧ w'.cell? ⟨SB, 1, none⟩ = some (.int .i64 0) ∧ w'.cell? ⟨SB, 2, none⟩ = some (.int .u32 0) ∧ w'.cell? ⟨SB, 3, none⟩ = some (.int .i32 0)) wx) := Hid.mk' (fun wx hg => ⟨(ss4.kept0 hg).cell 0 rfl, (ss4.kept0 hg).cell 1 rfl, (ss4.kept0 hg).cell 2 rfl, (ss4.kept0 hg).cell 3 rfl⟩)
  have rsD := rs4.kept0 hD
  have ssD := ss4.kept0 hD
  clear s0
  refine wp_region_held_drew (S := fun w' => w'.cell? ⟨SB, 0, none⟩ = some (.int .i64 1) ∧ w'.cell? ⟨SB, 1, none⟩ = some (.int .i64 0) ∧ w'.cell? ⟨SB, 2, none⟩ = some (.int .u32 0) ∧ w'.cell? ⟨SB, 3, none⟩ = some (.int .i32 0)) (by kernel_rfl) (hcl.out _ hD) (fun hHeld => ?_)
  refine wpAnyH_take (i := 0) (v := ?_) rfl (by kernel_rfl) (by kernel_rfl) (by kernel_rfl) (fun _ _ _ h => h) (Or.inl ⟨by rfl, ?_⟩) (by assumption) ?_; rotate_left
  · (intro w hSw; (try dsimp only at hSw); go_simp; try with_reducible rfl)
  try simp only [List.getElem_toArray, List.getElem_cons_zero, Act.put, List.setIfInBounds_toArray, List.set_cons_zero, List.set_cons_succ]
  refine wpAnyH_take (i := 1) (v := ?_) rfl (by kernel_rfl) (by kernel_rfl) (by kernel_rfl) (fun _ _ _ h => h) (Or.inl ⟨by rfl, ?_⟩) (by assumption) ?_; rotate_left
  · (intro w hSw; (try dsimp only at hSw); go_simp; try with_reducible rfl)
  try simp only [List.getElem_toArray, List.getElem_cons_zero, List.getElem_cons_succ, Act.put, List.setIfInBounds_toArray, List.set_cons_zero, List.set_cons_succ]
  refine wpAnyH_ready (rs := [2]) (by kernel_rfl) (by simp) ?_
  refine AllReadyH.cons rfl (fun K hK => ?_) AllReadyH.nil
  refine step_storeC (by rfl) 24 _ _ (by rfl) B (sC 0 0 0 0) (sC 1 0 0 0) infoS rfl (sC_one _ _ _ _) (by simp [Act.eval]) (by simp [Act.eval]) rsD ?_
  intro wz rsz hgz
  have ssz := ssD.kept hgz (by intro e; have h5 := Option.some.inj e; have h6 := hne.out; omega)
  refine hK.out _ _ ⟨ssz.cell 0 rfl, ssz.cell 1 rfl, ssz.cell 2 rfl, ssz.cell 3 rfl⟩ (fun hHeld => ?_)
  clear hK K
  try simp only [List.getElem_toArray, List.getElem_cons_zero, List.getElem_cons_succ, Act.put, List.setIfInBounds_toArray, List.set_cons_zero, List.set_cons_succ]
  refine wpAnyH_take (i := 3) (v := ?_) rfl (by kernel_rfl) (by kernel_rfl) (by kernel_rfl) (fun _ _ _ h => h) (Or.inl ⟨by rfl, ?_⟩) (by assumption) ?_; rotate_left
  · (intro w hSw; (try dsimp only at hSw); go_simp; try with_reducible rfl)
  try simp only [List.getElem_toArray, List.getElem_cons_zero, List.getElem_cons_succ, Act.put, List.setIfInBounds_toArray, List.set_cons_zero, List.set_cons_succ]
  refine wpAnyH_done (by kernel_rfl) ?_ _
  go_wp2_with fail
  refine bodyPost_ret (v := .tuple #[.string ⟨#[]⟩, .agg (sC 1 0 0 0), .int .i64 0]) (results_tct Try.results13 _ wz B 24 _ (0, 0) _ rfl rsz Try.underlying24 rfl infoS _ _ rfl rfl) rfl ⟨rfl, ?_⟩
  exact grownBy_new (gt hG4.out hD) hgz (fun k hk => by have h5 := Option.some.inj hk; have h6 := hB2.out; omega)
set_option maxRecDepth 100000 in
set_option maxHeartbeats 1000000 in
theorem end_88_2  (w : World) : Calls Try.prog 13 #[.int .i64 88, stV 2 0 0 0] w fun e w' => e = .returned (.tuple #[.string ⟨#[15]⟩, .agg (sC 1 0 0 0), .int .i64 0]) ∧ w.grownBy w' none := by
  go_enter Try.func13, Try.ntmps13
  go_upto_region 1 with (first
    | (refine wpList_boxC _ rfl 24 _ rfl (sC 2 0 0 0) rfl ?_; intro w1 ss1 hg1)
    | (refine wpList_allocC _ rfl 24 rfl (sC 0 0 0 0) (zeroS _) ?_; intro w2 rs2 hg2))
  have hG2 : Hid (w.grownBy w2 none) := Hid.mk' (gt hg1 hg2)
  have ss2 := ss1.kept0 hg2
  have hB2 : Hid (w.heap.size ≤ w1.heap.size) := Hid.mk' hg1.size
  have hne : Hid (¬ w1.heap.size = w.heap.size) := Hid.mk' (by have := ss1.lt; omega)
  clear hg1 hg2 ss1
  generalize w1.heap.size = B at *
  obtain ⟨SB, hSB⟩ : ∃ SB, Hid (w.heap.size = SB) := ⟨_, Hid.mk' rfl⟩
  rw [hSB.out] at ss2 hne
  rw [hSB.out]
  have s0 := ss2.cell 0 rfl
  go_wp2_with (first
    | (go_at_call 11; refine (hasRef 88 true (Hid.mk' (by decide)) _).mono ?_; rintro e w3 ⟨rfl, hg⟩; have rs3 := rs2.kept0 hg; have ss3 := ss2.kept0 hg; have hG3 : Hid (w.grownBy w3 none) := Hid.mk' (gt hG2.out hg); clear s0; have s0 := ss3.cell 0 rfl; clear rs2 ss2 hg)
    | (go_at_call 24; refine (fit_2 88 (Hid.mk' (by decide)) _).mono ?_; rintro e w4 ⟨rfl, hg⟩; have rs4 := rs3.kept0 hg; have ss4 := ss3.kept0 hg; have hG4 : Hid (w.grownBy w4 none) := Hid.mk' (gt hG3.out hg); clear s0; have s0 := ss4.cell 0 rfl; clear rs3 ss3 hg)
    | (refine wpList_loadC _ rfl 24 _ rfl _ Try.underlying24 rfl SB (sC 2 0 0 0) infoS rfl (by first | exact ss4 | exact ss3 | exact ss2) ?_)
    | (refine wpList_storeC _ rfl 24 _ _ rfl B (sC 0 0 0 0) (sC 1 0 0 0) infoS rfl (sC_one _ _ _ _) rfl rfl rs4 ?_; intro wz rsz hgz))
  refine bodyPost_ret (v := .tuple #[.string ⟨#[15]⟩, .agg (sC 1 0 0 0), .int .i64 0]) (results_tct Try.results13 _ wz B 24 _ (0, 0) _ rfl rsz Try.underlying24 rfl infoS _ _ rfl rfl) rfl ⟨rfl, ?_⟩
  exact grownBy_new hG4.out hgz (fun k hk => by have h5 := Option.some.inj hk; have h6 := hB2.out; omega)
theorem endRef_any (k md bi ac he : Int) (w : World) (m : Nat) (hm : Hid (mo md bi ac he = m)) : Calls Try.prog 13 #[.int .i64 k, stV md bi ac he] w fun e w' => e = .returned (.tuple #[.string (str (enB k m)), .agg (sC (enM k m : Int) 0 0 0), .int .i64 (enE k m)]) ∧ w.grownBy w' none := by
  cases hk : has k with
  | false =>
    have e1 : enB k m = [] := by unfold enB; rw [if_pos (.inl hk)]
    have e2 : enM k m = 0 := by unfold enM; rw [if_pos (.inl hk)]
    have e3 : enE k m = 5 := by unfold enE; rw [if_pos hk]
    rw [e1, e2, e3]
    exact end_kind k md bi ac he (Hid.mk' hk) w
  | true =>
    have hl := mo_le md bi ac he
    rw [hm.out] at hl
    by_cases h3 : m = 3
    · subst h3
      have e1 : enB k 3 = [] := by unfold enB; rw [if_pos (.inr (by omega))]
      have e2 : enM k 3 = 0 := by unfold enM; rw [if_pos (.inr (by omega))]
      have e3 : enE k 3 = 7 := by unfold enE; rw [hk, if_neg (by simp), if_pos (by omega)]
      rw [e1, e2, e3]
      exact end_no k md bi ac he (Hid.mk' hk) hm w
    · obtain ⟨rfl, rfl, rfl, rfl⟩ := mo_fit hm.out (by omega)
      rcases has_yes hk with rfl | rfl
      · match m, (show m < 3 by omega) with
        | 0, _ => exact end_83_0 w
        | 1, _ => exact end_83_1 w
        | 2, _ => exact end_83_2 w
      · match m, (show m < 3 by omega) with
        | 0, _ => exact end_88_0 w
        | 1, _ => exact end_88_1 w
        | 2, _ => exact end_88_2 w
end Go.Proofs.Ytdobjijebalkkaa.C21

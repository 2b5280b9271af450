/- The document's setKorean of layer 21: walks, a way each. -/
import Derived.Test.YtdobjijebalkkaaIT21
import Derived.Deep.CutRange
namespace Go.Proofs.Ytdobjijebalkkaa.C21
open Go.ChangeShapes Go.WideShapes Go.ChangeAt Go.RowKit Go.Proofs.Ytdobjijebalkkaa.Mem Go.Proofs.Ytdobjijebalkkaa.Cb Go.Proofs.Ytdobjijebalkkaa.Sp
set_option linter.unusedVariables false
set_option linter.unusedSimpArgs false

theorem plT_le {u : Int} {A D : Nat} {ok : Bool} (h : C16.plT u = (A, D, ok)) : A ≤ 94 ∧ D ≤ 94 := by
  cases ok with
  | true => obtain ⟨r1, r2, c1, c2, u0, he⟩ := C16.place_back h; exact ⟨r2, c2⟩
  | false =>
    unfold C16.plT at h
    split at h
    · simp at h
    · simp at h; omega
set_option maxRecDepth 100000 in
set_option maxHeartbeats 1000000 in
theorem k_nonesp (m : Nat) (u : Int) (h1 : 128 ≤ u) (A D : Nat) (hP : Hid (C16.plT u = (A, D, false))) (w : World) : Calls Try.prog 29 #[stV (m : Int) 0 0 0, .int .i32 u] w fun e w' => e = .returned (.agg (pM 11 ⟨#[]⟩ 0)) ∧ w.grownBy w' none := by
  have f0 : decide (0 ≤ u) = true := by first | (simp; done) | (simp; omega)
  have f1 : decide (u < 128) = false := by first | (simp; done) | (simp; omega)
  go_enter Try.func29, Try.ntmps29
  go_upto_region 1 with (first
    | (refine wpList_boxC _ rfl 24 _ rfl (sC (m : Int) 0 0 0) rfl ?_; intro w1 ss1 hg1)
    | (refine wpList_allocC _ rfl 35 rfl (pZ 0 ⟨#[]⟩) (zeroP _) ?_; intro w2 rs2 hg2))
  have hG2 : Hid (w.grownBy w2 none) := Hid.mk' (gt hg1 hg2)
  have ss2 := ss1.kept0 hg2
  have hB2 : Hid (w.heap.size ≤ w1.heap.size) := Hid.mk' hg1.size
  clear hg1 hg2 ss1
  generalize w1.heap.size = B at *
  obtain ⟨SB, hSB⟩ : ∃ SB, Hid (w.heap.size = SB) := ⟨_, Hid.mk' rfl⟩
  rw [hSB.out] at ss2
  rw [hSB.out]
  have s0 := ss2.cell 0 rfl
  go_upto_region 2 with (first
    | (go_at_call 47; refine (C16.refPlace_any u _ A D false hP).mono ?_; rintro e w3 ⟨rfl, hg⟩; have rs3 := rs2.kept0 hg; have ss3 := ss2.kept0 hg; have hG3 : Hid (w.grownBy w3 none) := Hid.mk' (gt hG2.out hg); clear s0; have s0 := ss3.cell 0 rfl; clear rs2 hg ss2))
  go_upto_region 4 with fail
  go_wp2_with (first
    | (refine wpList_loadC _ rfl 24 _ rfl _ Try.underlying24 rfl SB (sC (m : Int) 0 0 0) infoS rfl (by first | exact ss3 | exact ss2) ?_)
    | (refine wpList_storeC _ rfl 35 _ _ rfl B (pZ 0 ⟨#[]⟩) (pM 11 ⟨#[]⟩ 0) infoP rfl (pC_one _ _ _ _ _ _) rfl rfl rs3 ?_; intro wz rsz hgz))
  refine bodyPost_ret (v := .agg (pM 11 ⟨#[]⟩ 0)) (results_cell_row Try.results29 _ wz B 35 _ (0, 0) _ rfl rsz Try.underlying35 rfl infoP) rfl ⟨rfl, ?_⟩
  exact grownBy_new hG3.out hgz (fun k hk => by have h5 := Option.some.inj hk; have h6 := hB2.out; omega)
set_option maxRecDepth 100000 in
set_option maxHeartbeats 1000000 in
theorem k_nonesn (m : Nat) (u : Int) (h1 : u < 0) (A D : Nat) (hP : Hid (C16.plT u = (A, D, false))) (w : World) : Calls Try.prog 29 #[stV (m : Int) 0 0 0, .int .i32 u] w fun e w' => e = .returned (.agg (pM 11 ⟨#[]⟩ 0)) ∧ w.grownBy w' none := by
  have f0 : decide (0 ≤ u) = false := by first | (simp; done) | (simp; omega)
  go_enter Try.func29, Try.ntmps29
  go_upto_region 1 with (first
    | (refine wpList_boxC _ rfl 24 _ rfl (sC (m : Int) 0 0 0) rfl ?_; intro w1 ss1 hg1)
    | (refine wpList_allocC _ rfl 35 rfl (pZ 0 ⟨#[]⟩) (zeroP _) ?_; intro w2 rs2 hg2))
  have hG2 : Hid (w.grownBy w2 none) := Hid.mk' (gt hg1 hg2)
  have ss2 := ss1.kept0 hg2
  have hB2 : Hid (w.heap.size ≤ w1.heap.size) := Hid.mk' hg1.size
  clear hg1 hg2 ss1
  generalize w1.heap.size = B at *
  obtain ⟨SB, hSB⟩ : ∃ SB, Hid (w.heap.size = SB) := ⟨_, Hid.mk' rfl⟩
  rw [hSB.out] at ss2
  rw [hSB.out]
  have s0 := ss2.cell 0 rfl
  go_upto_region 2 with (first
    | (go_at_call 47; refine (C16.refPlace_any u _ A D false hP).mono ?_; rintro e w3 ⟨rfl, hg⟩; have rs3 := rs2.kept0 hg; have ss3 := ss2.kept0 hg; have hG3 : Hid (w.grownBy w3 none) := Hid.mk' (gt hG2.out hg); clear s0; have s0 := ss3.cell 0 rfl; clear rs2 hg ss2))
  go_upto_region 4 with fail
  go_wp2_with (first
    | (refine wpList_loadC _ rfl 24 _ rfl _ Try.underlying24 rfl SB (sC (m : Int) 0 0 0) infoS rfl (by first | exact ss3 | exact ss2) ?_)
    | (refine wpList_storeC _ rfl 35 _ _ rfl B (pZ 0 ⟨#[]⟩) (pM 11 ⟨#[]⟩ 0) infoP rfl (pC_one _ _ _ _ _ _) rfl rfl rs3 ?_; intro wz rsz hgz))
  refine bodyPost_ret (v := .agg (pM 11 ⟨#[]⟩ 0)) (results_cell_row Try.results29 _ wz B 35 _ (0, 0) _ rfl rsz Try.underlying35 rfl infoP) rfl ⟨rfl, ?_⟩
  exact grownBy_new hG3.out hgz (fun k hk => by have h5 := Option.some.inj hk; have h6 := hB2.out; omega)
set_option maxRecDepth 100000 in
set_option maxHeartbeats 2000000 in
theorem k_pl0 (n : Nat) (hn : n < 128) (A D : Nat) (ok : Bool) (hP : Hid (C16.plT (n : Int) = (A, D, ok))) (w : World) : Calls Try.prog 29 #[stV 0 0 0 0, .int .i32 (n : Int)] w fun e w' => e = .returned (.agg (pM 0 ((⟨#[27, 36, 41, 67]⟩ : ByteArray) ++ str (ld 1 1 [15] ++ [b8 n])) 1)) ∧ w.grownBy w' none := by
  obtain ⟨hA, hD⟩ := plT_le hP.out
  have f0 : decide (0 ≤ (n : Int)) = true := by first | (simp; done) | (simp; omega)
  have f1 : decide ((n : Int) < 128) = true := by first | (simp; done) | (simp; omega)
  have hsz : ¬ 9223372036854775807 < (⟨#[27, 36, 41, 67]⟩ : ByteArray).size + (str (ld 1 1 [15] ++ [b8 n])).size := by
    rw [str_size, List.length_append]
    have h1 := ld_len 1 1 [15]
    have h2 : (⟨#[27, 36, 41, 67]⟩ : ByteArray).size ≤ 4 := by decide
    simp only [List.length_cons, List.length_nil] at h1 ⊢
    omega
  go_enter Try.func29, Try.ntmps29
  go_upto_region 1 with (first
    | (refine wpList_boxC _ rfl 24 _ rfl (sC 0 0 0 0) rfl ?_; intro w1 ss1 hg1)
    | (refine wpList_allocC _ rfl 35 rfl (pZ 0 ⟨#[]⟩) (zeroP _) ?_; intro w2 rs2 hg2))
  have hG2 : Hid (w.grownBy w2 none) := Hid.mk' (gt hg1 hg2)
  have ss2 := ss1.kept0 hg2
  have hB2 : Hid (w.heap.size ≤ w1.heap.size) := Hid.mk' hg1.size
  clear hg1 hg2 ss1
  generalize w1.heap.size = B at *
  obtain ⟨SB, hSB⟩ : ∃ SB, Hid (w.heap.size = SB) := ⟨_, Hid.mk' rfl⟩
  rw [hSB.out] at ss2
  rw [hSB.out]
  go_upto_region 2 with (go_at_call 47; refine (C16.refPlace_any (n : Int) _ A D ok hP).mono ?_; rintro e w3 ⟨rfl, hg3⟩)
  have ss3 := ss2.kept0 hg3
  have rs3 := rs2.kept0 hg3
  have hG3 : Hid (w.grownBy w3 none) := Hid.mk' (gt hG2.out hg3)
  clear hg3 ss2 rs2
  have s0 := ss3.cell 0 (v := .int .i64 0) rfl
  have z0 := ss3.free 0
  go_upto_region 6 with fail
  go_upto_region 9 with fail
  have ss40 : Hid (CA (w3.setCell ⟨SB, 0, none⟩ (.int .i64 1)) SB 24 (sC 1 0 0 0)) := Hid.mk' (ss3.set 0 _)
  have hne0 : SB ≠ B := ss3.ne rs3 (by decide)
  have rs40 := Hid.mk' (rs3.other hne0 0 (.int .i64 1))
  have hG4 : Hid (w.grownBy (w3.setCell ⟨SB, 0, none⟩ (.int .i64 1)) none) := Hid.mk' (grownBy_new hG3.out (grownBy_setCell w3 ⟨SB, 0, none⟩ (.int .i64 1)) (fun k hk => by have h5 := Option.some.inj hk; have h6 := hSB.out; simp only at h5; omega))
  clear s0 z0 ss3 rs3
  generalize w3.setCell ⟨SB, 0, none⟩ (.int .i64 1) = w4 at *
  have hD4 : w4.grownBy w4.drew none := gd (grownBy_refl w4 none)
  have hcl : Hid (∀ wx, w4.grownBy wx none → (fun w' => w'.cell? ⟨SB, 0, none⟩ = some (.int .i64 1) ∧ w'.cell? ⟨SB, 1, none⟩ = some (.int .i64 0) ∧ w'.cell? ⟨SB, 2, none⟩ = some (.int .u32 0) ∧ w'.cell? ⟨SB, 3, none⟩ = some (.int .i32 0)) wx) := Hid.mk' (fun wx hg => ⟨(ss40.out.kept0 hg).cell 0 rfl, (ss40.out.kept0 hg).cell 1 rfl, (ss40.out.kept0 hg).cell 2 rfl, (ss40.out.kept0 hg).cell 3 rfl⟩)
  go_cut [10] from 34 to 38 (fun t10 wx => ∃ PB, t10 = .pointer (some ⟨PB, 0, none⟩) ∧ Hid (CA wx PB 35 (pM 0 (str (ld 1 2 [14] ++ [b8 (A + 32), b8 (D + 32)])) 2)) ∧ Hid (w4.grownBy wx none) ∧ Hid (w4.heap.size ≤ PB))
  case first =>
    refine wp_region_held_drew (S := fun w' => w'.cell? ⟨SB, 0, none⟩ = some (.int .i64 1) ∧ w'.cell? ⟨SB, 1, none⟩ = some (.int .i64 0) ∧ w'.cell? ⟨SB, 2, none⟩ = some (.int .u32 0) ∧ w'.cell? ⟨SB, 3, none⟩ = some (.int .i32 0)) (by kernel_rfl) (hcl.out _ hD4) (fun hHeld => ?_)
    refine wpAnyH_take (i := 0) (v := ?_) rfl (by kernel_rfl) (by kernel_rfl) (by kernel_rfl) (fun _ _ _ h => h) (Or.inl ⟨by rfl, ?_⟩) (by assumption) ?_; rotate_left
    · (intro w hSw; (try dsimp only at hSw); go_simp; try with_reducible rfl)
    try simp only [List.getElem_toArray, List.getElem_cons_zero, Act.put, List.setIfInBounds_toArray, List.set_cons_zero, List.set_cons_succ]
    refine wpAnyH_take (i := 1) (v := ?_) rfl (by kernel_rfl) (by kernel_rfl) (by kernel_rfl) (fun _ _ _ h => h) (Or.inl ⟨by rfl, ?_⟩) (by assumption) ?_; rotate_left
    · (intro w hSw; (try dsimp only at hSw); go_simp; try with_reducible rfl)
    try simp only [List.getElem_toArray, List.getElem_cons_zero, List.getElem_cons_succ, Act.put, List.setIfInBounds_toArray, List.set_cons_zero, List.set_cons_succ]
    refine wpAnyH_take (i := 2) (v := ?_) rfl (by kernel_rfl) (by kernel_rfl) (by kernel_rfl) (fun _ _ _ h => h) (Or.inl ⟨by rfl, ?_⟩) (by assumption) ?_; rotate_left
    · (intro w hSw; (try dsimp only at hSw); go_simp; try with_reducible rfl)
    try simp only [List.getElem_toArray, List.getElem_cons_zero, List.getElem_cons_succ, Act.put, List.setIfInBounds_toArray, List.set_cons_zero, List.set_cons_succ]
    refine wpAnyH_ready (rs := [3, 5]) (by kernel_rfl) (by simp) ?_
    refine AllReadyH.cons rfl (fun K hK => ?_) (AllReadyH.cons rfl (fun K hK => ?_) AllReadyH.nil)
    · go_simp
      refine (twoRef A D hA hD _).mono ?_
      rintro e wA1 ⟨rfl, hg⟩
      try dsimp only
      have hA1 : w4.grownBy wA1 none := gt hD4 hg
      clear hg
      refine hK.out _ _ (hcl.out _ hA1) (fun hHeld => ?_)
      clear hK K
      try simp only [List.getElem_toArray, List.getElem_cons_zero, List.getElem_cons_succ, Act.put, List.setIfInBounds_toArray, List.set_cons_zero, List.set_cons_succ]
      refine wpAnyH_ready (rs := [4, 5]) (by kernel_rfl) (by simp) ?_
      refine AllReadyH.cons rfl (fun K hK => ?_) (AllReadyH.cons rfl (fun K hK => ?_) AllReadyH.nil)
      · go_simp
        refine (ledRef 1 2 [14] [b8 (A + 32), b8 (D + 32)] (by decide) (by simp) _).mono ?_
        rintro e wL ⟨rfl, hgL⟩
        try dsimp only
        have hL : w4.grownBy wL none := gt hA1 hgL
        refine hK.out _ _ (hcl.out _ hL) (fun hHeld => ?_)
        clear hK K
        try simp only [List.getElem_toArray, List.getElem_cons_zero, List.getElem_cons_succ, Act.put, List.setIfInBounds_toArray, List.set_cons_zero, List.set_cons_succ]
        refine wpAnyH_ready (rs := [5]) (by kernel_rfl) (by simp) ?_
        refine AllReadyH.cons rfl (fun K hK => ?_) AllReadyH.nil
        refine step_allocC (by rfl) 35 (by rfl) (pZ 0 ⟨#[]⟩) (zeroP _) ?_
        intro wP pP hgP
        have hP0 : w4.grownBy wP none := gt hL hgP
        refine hK.out _ _ (hcl.out _ hP0) (fun hHeld => ?_)
        clear hK K
        try simp only [List.getElem_toArray, List.getElem_cons_zero, List.getElem_cons_succ, Act.put, List.setIfInBounds_toArray, List.set_cons_zero, List.set_cons_succ]
        refine wpAnyH_ready (rs := [6]) (by kernel_rfl) (by simp) ?_
        refine AllReadyH.cons rfl (fun K hK => ?_) AllReadyH.nil
        refine step_storeC (by rfl) 35 _ _ (by rfl) _ (pZ 0 ⟨#[]⟩) (pM 0 (str (ld 1 2 [14] ++ [b8 (A + 32), b8 (D + 32)])) 2) infoP rfl (pC_one _ _ _ _ _ _) (by simp [Act.eval]) (by simp [Act.eval]) pP ?_
        intro wF pF hgF
        have hsz0 : w4.heap.size ≤ _ := (hL).size
        have hF : w4.grownBy wF none := grownBy_new hP0 hgF (fun k hk => by have h5 := Option.some.inj hk; (try simp at h5); omega)
        refine hK.out _ _ (hcl.out _ hF) (fun hHeld => ?_)
        clear hK K
        try simp only [List.getElem_toArray, List.getElem_cons_zero, List.getElem_cons_succ, Act.put, List.setIfInBounds_toArray, List.set_cons_zero, List.set_cons_succ]
        refine wpAnyH_done (by kernel_rfl) ?_ _
        go_wp2_with fail
        go_meet
        exact ⟨_, rfl, Hid.mk' pF, Hid.mk' hF, Hid.mk' hsz0⟩
      · refine step_allocC (by rfl) 35 (by rfl) (pZ 0 ⟨#[]⟩) (zeroP _) ?_
        intro wP pP hgP
        have hP0 : w4.grownBy wP none := gt hA1 hgP
        refine hK.out _ _ (hcl.out _ hP0) (fun hHeld => ?_)
        clear hK K
        try simp only [List.getElem_toArray, List.getElem_cons_zero, List.getElem_cons_succ, Act.put, List.setIfInBounds_toArray, List.set_cons_zero, List.set_cons_succ]
        refine wpAnyH_ready (rs := [4]) (by kernel_rfl) (by simp) ?_
        refine AllReadyH.cons rfl (fun K hK => ?_) AllReadyH.nil
        go_simp
        refine (ledRef 1 2 [14] [b8 (A + 32), b8 (D + 32)] (by decide) (by simp) _).mono ?_
        rintro e wL ⟨rfl, hgL⟩
        try dsimp only
        have hL : w4.grownBy wL none := gt hP0 hgL
        refine hK.out _ _ (hcl.out _ hL) (fun hHeld => ?_)
        clear hK K
        try simp only [List.getElem_toArray, List.getElem_cons_zero, List.getElem_cons_succ, Act.put, List.setIfInBounds_toArray, List.set_cons_zero, List.set_cons_succ]
        refine wpAnyH_ready (rs := [6]) (by kernel_rfl) (by simp) ?_
        refine AllReadyH.cons rfl (fun K hK => ?_) AllReadyH.nil
        refine step_storeC (by rfl) 35 _ _ (by rfl) _ (pZ 0 ⟨#[]⟩) (pM 0 (str (ld 1 2 [14] ++ [b8 (A + 32), b8 (D + 32)])) 2) infoP rfl (pC_one _ _ _ _ _ _) (by simp [Act.eval]) (by simp [Act.eval]) (pP.kept0 hgL) ?_
        intro wF pF hgF
        have hsz0 : w4.heap.size ≤ _ := (hA1).size
        have hF : w4.grownBy wF none := grownBy_new hL hgF (fun k hk => by have h5 := Option.some.inj hk; (try simp at h5); omega)
        refine hK.out _ _ (hcl.out _ hF) (fun hHeld => ?_)
        clear hK K
        try simp only [List.getElem_toArray, List.getElem_cons_zero, List.getElem_cons_succ, Act.put, List.setIfInBounds_toArray, List.set_cons_zero, List.set_cons_succ]
        refine wpAnyH_done (by kernel_rfl) ?_ _
        go_wp2_with fail
        go_meet
        exact ⟨_, rfl, Hid.mk' pF, Hid.mk' hF, Hid.mk' hsz0⟩
    · refine step_allocC (by rfl) 35 (by rfl) (pZ 0 ⟨#[]⟩) (zeroP _) ?_
      intro wP pP hgP
      have hP0 : w4.grownBy wP none := gt hD4 hgP
      refine hK.out _ _ (hcl.out _ hP0) (fun hHeld => ?_)
      clear hK K
      try simp only [List.getElem_toArray, List.getElem_cons_zero, List.getElem_cons_succ, Act.put, List.setIfInBounds_toArray, List.set_cons_zero, List.set_cons_succ]
      refine wpAnyH_ready (rs := [3]) (by kernel_rfl) (by simp) ?_
      refine AllReadyH.cons rfl (fun K hK => ?_) AllReadyH.nil
      go_simp
      refine (twoRef A D hA hD _).mono ?_
      rintro e wA2 ⟨rfl, hg⟩
      try dsimp only
      have hA2 : w4.grownBy wA2 none := gt hP0 hg
      have hPA := hg
      clear hg
      refine hK.out _ _ (hcl.out _ hA2) (fun hHeld => ?_)
      clear hK K
      try simp only [List.getElem_toArray, List.getElem_cons_zero, List.getElem_cons_succ, Act.put, List.setIfInBounds_toArray, List.set_cons_zero, List.set_cons_succ]
      refine wpAnyH_ready (rs := [4]) (by kernel_rfl) (by simp) ?_
      refine AllReadyH.cons rfl (fun K hK => ?_) AllReadyH.nil
      go_simp
      refine (ledRef 1 2 [14] [b8 (A + 32), b8 (D + 32)] (by decide) (by simp) _).mono ?_
      rintro e wL ⟨rfl, hgL⟩
      try dsimp only
      have hL : w4.grownBy wL none := gt hA2 hgL
      refine hK.out _ _ (hcl.out _ hL) (fun hHeld => ?_)
      clear hK K
      try simp only [List.getElem_toArray, List.getElem_cons_zero, List.getElem_cons_succ, Act.put, List.setIfInBounds_toArray, List.set_cons_zero, List.set_cons_succ]
      refine wpAnyH_ready (rs := [6]) (by kernel_rfl) (by simp) ?_
      refine AllReadyH.cons rfl (fun K hK => ?_) AllReadyH.nil
      refine step_storeC (by rfl) 35 _ _ (by rfl) _ (pZ 0 ⟨#[]⟩) (pM 0 (str (ld 1 2 [14] ++ [b8 (A + 32), b8 (D + 32)])) 2) infoP rfl (pC_one _ _ _ _ _ _) (by simp [Act.eval]) (by simp [Act.eval]) ((pP.kept0 hPA).kept0 hgL) ?_
      intro wF pF hgF
      have hsz0 : w4.heap.size ≤ _ := (hD4).size
      have hF : w4.grownBy wF none := grownBy_new hL hgF (fun k hk => by have h5 := Option.some.inj hk; (try simp at h5); omega)
      refine hK.out _ _ (hcl.out _ hF) (fun hHeld => ?_)
      clear hK K
      try simp only [List.getElem_toArray, List.getElem_cons_zero, List.getElem_cons_succ, Act.put, List.setIfInBounds_toArray, List.set_cons_zero, List.set_cons_succ]
      refine wpAnyH_done (by kernel_rfl) ?_ _
      go_wp2_with fail
      go_meet
      exact ⟨_, rfl, Hid.mk' pF, Hid.mk' hF, Hid.mk' hsz0⟩
  case rest =>
    obtain ⟨PB, rfl, hPB, hgr, hle⟩ := hcut
    have ss5 := Hid.mk' (ss40.out.kept0 hgr.out)
    have rs5 := Hid.mk' (rs40.out.kept0 hgr.out)
    have hG5 : Hid (w.grownBy wc none) := Hid.mk' (gt hG4.out hgr.out)
    have hPne : Hid (PB ≠ B) := Hid.mk' (by have := rs40.out.lt; have := hle.out; omega)
    have hwle : Hid (w.heap.size ≤ PB) := Hid.mk' (by have := hG4.out.size; have := hle.out; omega)
    clear hcl hD4 hle hgr ss40 rs40 hG4
    have hcv := conv_one (show n < 256 by omega) wc
    have p2 : (n : Int) < 256 := by omega
    go_upto_region 12 with (first
      | (refine wpList_loadC _ rfl 24 _ rfl _ Try.underlying24 rfl SB (sC 1 0 0 0) infoS rfl ss5.out ?_)
      | (go_at_call 30; refine (after_alloc (ledRef 1 1 [15] [b8 n] (by decide) (by simp) _)).mono ?_; rintro e w6 ⟨rfl, hg6⟩; have p6 := hPB.out.kept0 hg6)
      | (refine wpList_storeC _ rfl 35 _ _ rfl PB (pM 0 (str (ld 1 2 [14] ++ [b8 (A + 32), b8 (D + 32)])) 2) (pM 0 (str (ld 1 1 [15] ++ [b8 n])) 1) infoP rfl (pC_one _ _ _ _ _ _) rfl rfl p6 ?_; intro w7 p7 hg7))
    have hG7 : Hid (w.grownBy w7 none) := Hid.mk' (grownBy_new (gt hG5.out hg6) hg7 (fun k hk => by have h5 := Option.some.inj hk; have h6 := hwle.out; omega))
    have rs7 := Hid.mk' ((rs5.out.kept0 hg6).kept hg7 (by intro e; have h5 := Option.some.inj e; have h6 := hPne.out; omega))
    clear hcv hg6 hg7 p6
    obtain ⟨c, hc⟩ : ∃ c, Hid (str (ld 1 1 [15] ++ [b8 n]) = c) := ⟨_, Hid.mk' rfl⟩
    rw [hc.out] at p7 hsz
    have y1 := p7.cell 1 (v := .string c) rfl
    have z1 := p7.free 1
    go_upto_region 13 with fail
    have p8 : CA (w7.setCell ⟨PB, 1, none⟩ (.string ((⟨#[27, 36, 41, 67]⟩ : ByteArray) ++ c))) PB 35 (pM 0 ((⟨#[27, 36, 41, 67]⟩ : ByteArray) ++ c) 1) := p7.set 1 _
    have rs8 := rs7.out.other hPne.out 1 (.string ((⟨#[27, 36, 41, 67]⟩ : ByteArray) ++ c))
    have hG8 : Hid (w.grownBy (w7.setCell ⟨PB, 1, none⟩ (.string ((⟨#[27, 36, 41, 67]⟩ : ByteArray) ++ c))) none) := Hid.mk' (grownBy_new hG7.out (grownBy_setCell w7 ⟨PB, 1, none⟩ (.string ((⟨#[27, 36, 41, 67]⟩ : ByteArray) ++ c))) (fun k hk => by have h5 := Option.some.inj hk; have h6 := hwle.out; simp only at h5; omega))
    clear y1 z1
    generalize w7.setCell ⟨PB, 1, none⟩ (.string ((⟨#[27, 36, 41, 67]⟩ : ByteArray) ++ c)) = w8 at *
    go_wp2_with (first
      | (refine wpList_loadC _ rfl 35 _ rfl _ Try.underlying35 rfl PB (pM 0 ((⟨#[27, 36, 41, 67]⟩ : ByteArray) ++ c) 1) infoP rfl p8 ?_)
      | (refine wpList_storeC _ rfl 35 _ _ rfl B (pZ 0 ⟨#[]⟩) (pM 0 ((⟨#[27, 36, 41, 67]⟩ : ByteArray) ++ c) 1) infoP rfl (pC_one _ _ _ _ _ _) rfl rfl rs8 ?_; intro wz rsz hgz))
    refine bodyPost_ret (v := .agg (pM 0 ((⟨#[27, 36, 41, 67]⟩ : ByteArray) ++ c) 1)) (results_cell_row Try.results29 _ wz B 35 _ (0, 0) _ rfl rsz Try.underlying35 rfl infoP) rfl ⟨by rw [hc.out], ?_⟩
    exact grownBy_new hG8.out hgz (fun k hk => by have h5 := Option.some.inj hk; have h6 := hB2.out; omega)
set_option maxRecDepth 100000 in
set_option maxHeartbeats 2000000 in
theorem k_pl1 (m : Nat) (h0 : 1 ≤ m) (hm : m < 3) (n : Nat) (hn : n < 128) (A D : Nat) (ok : Bool) (hP : Hid (C16.plT (n : Int) = (A, D, ok))) (w : World) : Calls Try.prog 29 #[stV (m : Int) 0 0 0, .int .i32 (n : Int)] w fun e w' => e = .returned (.agg (pM 0 ((⟨#[]⟩ : ByteArray) ++ str (ld m 1 [15] ++ [b8 n])) 1)) ∧ w.grownBy w' none := by
  obtain ⟨hA, hD⟩ := plT_le hP.out
  have f0 : decide (0 ≤ (n : Int)) = true := by first | (simp; done) | (simp; omega)
  have f1 : decide ((n : Int) < 128) = true := by first | (simp; done) | (simp; omega)
  have f2 : ((m : Int) == 0) = false := by first | (simp; done) | (simp; omega)
  have hsz : ¬ 9223372036854775807 < (⟨#[]⟩ : ByteArray).size + (str (ld m 1 [15] ++ [b8 n])).size := by
    rw [str_size, List.length_append]
    have h1 := ld_len m 1 [15]
    have h2 : (⟨#[]⟩ : ByteArray).size ≤ 4 := by decide
    simp only [List.length_cons, List.length_nil] at h1 ⊢
    omega
  go_enter Try.func29, Try.ntmps29
  go_upto_region 1 with (first
    | (refine wpList_boxC _ rfl 24 _ rfl (sC (m : Int) 0 0 0) rfl ?_; intro w1 ss1 hg1)
    | (refine wpList_allocC _ rfl 35 rfl (pZ 0 ⟨#[]⟩) (zeroP _) ?_; intro w2 rs2 hg2))
  have hG2 : Hid (w.grownBy w2 none) := Hid.mk' (gt hg1 hg2)
  have ss2 := ss1.kept0 hg2
  have hB2 : Hid (w.heap.size ≤ w1.heap.size) := Hid.mk' hg1.size
  clear hg1 hg2 ss1
  generalize w1.heap.size = B at *
  obtain ⟨SB, hSB⟩ : ∃ SB, Hid (w.heap.size = SB) := ⟨_, Hid.mk' rfl⟩
  rw [hSB.out] at ss2
  rw [hSB.out]
  go_upto_region 2 with (go_at_call 47; refine (C16.refPlace_any (n : Int) _ A D ok hP).mono ?_; rintro e w3 ⟨rfl, hg3⟩)
  have ss3 := ss2.kept0 hg3
  have rs3 := rs2.kept0 hg3
  have hG3 : Hid (w.grownBy w3 none) := Hid.mk' (gt hG2.out hg3)
  clear hg3 ss2 rs2
  have s0 := ss3.cell 0 (v := .int .i64 (m : Int)) rfl
  have z0 := ss3.free 0
  go_upto_region 6 with fail
  go_upto_region 9 with fail
  have ss40 := Hid.mk' ss3
  have rs40 := Hid.mk' rs3
  have hne0 : SB ≠ B := ss3.ne rs3 (by decide)
  have hG4 := hG3
  clear s0 z0 ss3 rs3
  have hD4 : w3.grownBy w3.drew none := gd (grownBy_refl w3 none)
  have hcl : Hid (∀ wx, w3.grownBy wx none → (fun w' => w'.cell? ⟨SB, 0, none⟩ = some (.int .i64 (m : Int)) ∧ w'.cell? ⟨SB, 1, none⟩ = some (.int .i64 0) ∧ w'.cell? ⟨SB, 2, none⟩ = some (.int .u32 0) ∧ w'.cell? ⟨SB, 3, none⟩ = some (.int .i32 0)) wx) := Hid.mk' (fun wx hg => ⟨(ss40.out.kept0 hg).cell 0 rfl, (ss40.out.kept0 hg).cell 1 rfl, (ss40.out.kept0 hg).cell 2 rfl, (ss40.out.kept0 hg).cell 3 rfl⟩)
  go_cut [10] from 34 to 38 (fun t10 wx => ∃ PB, t10 = .pointer (some ⟨PB, 0, none⟩) ∧ Hid (CA wx PB 35 (pM 0 (str (ld m 2 [14] ++ [b8 (A + 32), b8 (D + 32)])) 2)) ∧ Hid (w3.grownBy wx none) ∧ Hid (w3.heap.size ≤ PB))
  case first =>
    refine wp_region_held_drew (S := fun w' => w'.cell? ⟨SB, 0, none⟩ = some (.int .i64 (m : Int)) ∧ w'.cell? ⟨SB, 1, none⟩ = some (.int .i64 0) ∧ w'.cell? ⟨SB, 2, none⟩ = some (.int .u32 0) ∧ w'.cell? ⟨SB, 3, none⟩ = some (.int .i32 0)) (by kernel_rfl) (hcl.out _ hD4) (fun hHeld => ?_)
    refine wpAnyH_take (i := 0) (v := ?_) rfl (by kernel_rfl) (by kernel_rfl) (by kernel_rfl) (fun _ _ _ h => h) (Or.inl ⟨by rfl, ?_⟩) (by assumption) ?_; rotate_left
    · (intro w hSw; (try dsimp only at hSw); go_simp; try with_reducible rfl)
    try simp only [List.getElem_toArray, List.getElem_cons_zero, Act.put, List.setIfInBounds_toArray, List.set_cons_zero, List.set_cons_succ]
    refine wpAnyH_take (i := 1) (v := ?_) rfl (by kernel_rfl) (by kernel_rfl) (by kernel_rfl) (fun _ _ _ h => h) (Or.inl ⟨by rfl, ?_⟩) (by assumption) ?_; rotate_left
    · (intro w hSw; (try dsimp only at hSw); go_simp; try with_reducible rfl)
    try simp only [List.getElem_toArray, List.getElem_cons_zero, List.getElem_cons_succ, Act.put, List.setIfInBounds_toArray, List.set_cons_zero, List.set_cons_succ]
    refine wpAnyH_take (i := 2) (v := ?_) rfl (by kernel_rfl) (by kernel_rfl) (by kernel_rfl) (fun _ _ _ h => h) (Or.inl ⟨by rfl, ?_⟩) (by assumption) ?_; rotate_left
    · (intro w hSw; (try dsimp only at hSw); go_simp; try with_reducible rfl)
    try simp only [List.getElem_toArray, List.getElem_cons_zero, List.getElem_cons_succ, Act.put, List.setIfInBounds_toArray, List.set_cons_zero, List.set_cons_succ]
    refine wpAnyH_ready (rs := [3, 5]) (by kernel_rfl) (by simp) ?_
    refine AllReadyH.cons rfl (fun K hK => ?_) (AllReadyH.cons rfl (fun K hK => ?_) AllReadyH.nil)
    · go_simp
      refine (twoRef A D hA hD _).mono ?_
      rintro e wA1 ⟨rfl, hg⟩
      try dsimp only
      have hA1 : w3.grownBy wA1 none := gt hD4 hg
      clear hg
      refine hK.out _ _ (hcl.out _ hA1) (fun hHeld => ?_)
      clear hK K
      try simp only [List.getElem_toArray, List.getElem_cons_zero, List.getElem_cons_succ, Act.put, List.setIfInBounds_toArray, List.set_cons_zero, List.set_cons_succ]
      refine wpAnyH_ready (rs := [4, 5]) (by kernel_rfl) (by simp) ?_
      refine AllReadyH.cons rfl (fun K hK => ?_) (AllReadyH.cons rfl (fun K hK => ?_) AllReadyH.nil)
      · go_simp
        refine (ledRef m 2 [14] [b8 (A + 32), b8 (D + 32)] (by decide) (by simp) _).mono ?_
        rintro e wL ⟨rfl, hgL⟩
        try dsimp only
        have hL : w3.grownBy wL none := gt hA1 hgL
        refine hK.out _ _ (hcl.out _ hL) (fun hHeld => ?_)
        clear hK K
        try simp only [List.getElem_toArray, List.getElem_cons_zero, List.getElem_cons_succ, Act.put, List.setIfInBounds_toArray, List.set_cons_zero, List.set_cons_succ]
        refine wpAnyH_ready (rs := [5]) (by kernel_rfl) (by simp) ?_
        refine AllReadyH.cons rfl (fun K hK => ?_) AllReadyH.nil
        refine step_allocC (by rfl) 35 (by rfl) (pZ 0 ⟨#[]⟩) (zeroP _) ?_
        intro wP pP hgP
        have hP0 : w3.grownBy wP none := gt hL hgP
        refine hK.out _ _ (hcl.out _ hP0) (fun hHeld => ?_)
        clear hK K
        try simp only [List.getElem_toArray, List.getElem_cons_zero, List.getElem_cons_succ, Act.put, List.setIfInBounds_toArray, List.set_cons_zero, List.set_cons_succ]
        refine wpAnyH_ready (rs := [6]) (by kernel_rfl) (by simp) ?_
        refine AllReadyH.cons rfl (fun K hK => ?_) AllReadyH.nil
        refine step_storeC (by rfl) 35 _ _ (by rfl) _ (pZ 0 ⟨#[]⟩) (pM 0 (str (ld m 2 [14] ++ [b8 (A + 32), b8 (D + 32)])) 2) infoP rfl (pC_one _ _ _ _ _ _) (by simp [Act.eval]) (by simp [Act.eval]) pP ?_
        intro wF pF hgF
        have hsz0 : w3.heap.size ≤ _ := (hL).size
        have hF : w3.grownBy wF none := grownBy_new hP0 hgF (fun k hk => by have h5 := Option.some.inj hk; (try simp at h5); omega)
        refine hK.out _ _ (hcl.out _ hF) (fun hHeld => ?_)
        clear hK K
        try simp only [List.getElem_toArray, List.getElem_cons_zero, List.getElem_cons_succ, Act.put, List.setIfInBounds_toArray, List.set_cons_zero, List.set_cons_succ]
        refine wpAnyH_done (by kernel_rfl) ?_ _
        go_wp2_with fail
        go_meet
        exact ⟨_, rfl, Hid.mk' pF, Hid.mk' hF, Hid.mk' hsz0⟩
      · refine step_allocC (by rfl) 35 (by rfl) (pZ 0 ⟨#[]⟩) (zeroP _) ?_
        intro wP pP hgP
        have hP0 : w3.grownBy wP none := gt hA1 hgP
        refine hK.out _ _ (hcl.out _ hP0) (fun hHeld => ?_)
        clear hK K
        try simp only [List.getElem_toArray, List.getElem_cons_zero, List.getElem_cons_succ, Act.put, List.setIfInBounds_toArray, List.set_cons_zero, List.set_cons_succ]
        refine wpAnyH_ready (rs := [4]) (by kernel_rfl) (by simp) ?_
        refine AllReadyH.cons rfl (fun K hK => ?_) AllReadyH.nil
        go_simp
        refine (ledRef m 2 [14] [b8 (A + 32), b8 (D + 32)] (by decide) (by simp) _).mono ?_
        rintro e wL ⟨rfl, hgL⟩
        try dsimp only
        have hL : w3.grownBy wL none := gt hP0 hgL
        refine hK.out _ _ (hcl.out _ hL) (fun hHeld => ?_)
        clear hK K
        try simp only [List.getElem_toArray, List.getElem_cons_zero, List.getElem_cons_succ, Act.put, List.setIfInBounds_toArray, List.set_cons_zero, List.set_cons_succ]
        refine wpAnyH_ready (rs := [6]) (by kernel_rfl) (by simp) ?_
        refine AllReadyH.cons rfl (fun K hK => ?_) AllReadyH.nil
        refine step_storeC (by rfl) 35 _ _ (by rfl) _ (pZ 0 ⟨#[]⟩) (pM 0 (str (ld m 2 [14] ++ [b8 (A + 32), b8 (D + 32)])) 2) infoP rfl (pC_one _ _ _ _ _ _) (by simp [Act.eval]) (by simp [Act.eval]) (pP.kept0 hgL) ?_
        intro wF pF hgF
        have hsz0 : w3.heap.size ≤ _ := (hA1).size
        have hF : w3.grownBy wF none := grownBy_new hL hgF (fun k hk => by have h5 := Option.some.inj hk; (try simp at h5); omega)
        refine hK.out _ _ (hcl.out _ hF) (fun hHeld => ?_)
        clear hK K
        try simp only [List.getElem_toArray, List.getElem_cons_zero, List.getElem_cons_succ, Act.put, List.setIfInBounds_toArray, List.set_cons_zero, List.set_cons_succ]
        refine wpAnyH_done (by kernel_rfl) ?_ _
        go_wp2_with fail
        go_meet
        exact ⟨_, rfl, Hid.mk' pF, Hid.mk' hF, Hid.mk' hsz0⟩
    · refine step_allocC (by rfl) 35 (by rfl) (pZ 0 ⟨#[]⟩) (zeroP _) ?_
      intro wP pP hgP
      have hP0 : w3.grownBy wP none := gt hD4 hgP
      refine hK.out _ _ (hcl.out _ hP0) (fun hHeld => ?_)
      clear hK K
      try simp only [List.getElem_toArray, List.getElem_cons_zero, List.getElem_cons_succ, Act.put, List.setIfInBounds_toArray, List.set_cons_zero, List.set_cons_succ]
      refine wpAnyH_ready (rs := [3]) (by kernel_rfl) (by simp) ?_
      refine AllReadyH.cons rfl (fun K hK => ?_) AllReadyH.nil
      go_simp
      refine (twoRef A D hA hD _).mono ?_
      rintro e wA2 ⟨rfl, hg⟩
      try dsimp only
      have hA2 : w3.grownBy wA2 none := gt hP0 hg
      have hPA := hg
      clear hg
      refine hK.out _ _ (hcl.out _ hA2) (fun hHeld => ?_)
      clear hK K
      try simp only [List.getElem_toArray, List.getElem_cons_zero, List.getElem_cons_succ, Act.put, List.setIfInBounds_toArray, List.set_cons_zero, List.set_cons_succ]
      refine wpAnyH_ready (rs := [4]) (by kernel_rfl) (by simp) ?_
      refine AllReadyH.cons rfl (fun K hK => ?_) AllReadyH.nil
      go_simp
      refine (ledRef m 2 [14] [b8 (A + 32), b8 (D + 32)] (by decide) (by simp) _).mono ?_
      rintro e wL ⟨rfl, hgL⟩
      try dsimp only
      have hL : w3.grownBy wL none := gt hA2 hgL
      refine hK.out _ _ (hcl.out _ hL) (fun hHeld => ?_)
      clear hK K
      try simp only [List.getElem_toArray, List.getElem_cons_zero, List.getElem_cons_succ, Act.put, List.setIfInBounds_toArray, List.set_cons_zero, List.set_cons_succ]
      refine wpAnyH_ready (rs := [6]) (by kernel_rfl) (by simp) ?_
      refine AllReadyH.cons rfl (fun K hK => ?_) AllReadyH.nil
      refine step_storeC (by rfl) 35 _ _ (by rfl) _ (pZ 0 ⟨#[]⟩) (pM 0 (str (ld m 2 [14] ++ [b8 (A + 32), b8 (D + 32)])) 2) infoP rfl (pC_one _ _ _ _ _ _) (by simp [Act.eval]) (by simp [Act.eval]) ((pP.kept0 hPA).kept0 hgL) ?_
      intro wF pF hgF
      have hsz0 : w3.heap.size ≤ _ := (hD4).size
      have hF : w3.grownBy wF none := grownBy_new hL hgF (fun k hk => by have h5 := Option.some.inj hk; (try simp at h5); omega)
      refine hK.out _ _ (hcl.out _ hF) (fun hHeld => ?_)
      clear hK K
      try simp only [List.getElem_toArray, List.getElem_cons_zero, List.getElem_cons_succ, Act.put, List.setIfInBounds_toArray, List.set_cons_zero, List.set_cons_succ]
      refine wpAnyH_done (by kernel_rfl) ?_ _
      go_wp2_with fail
      go_meet
      exact ⟨_, rfl, Hid.mk' pF, Hid.mk' hF, Hid.mk' hsz0⟩
  case rest =>
    obtain ⟨PB, rfl, hPB, hgr, hle⟩ := hcut
    have ss5 := Hid.mk' (ss40.out.kept0 hgr.out)
    have rs5 := Hid.mk' (rs40.out.kept0 hgr.out)
    have hG5 : Hid (w.grownBy wc none) := Hid.mk' (gt hG4.out hgr.out)
    have hPne : Hid (PB ≠ B) := Hid.mk' (by have := rs40.out.lt; have := hle.out; omega)
    have hwle : Hid (w.heap.size ≤ PB) := Hid.mk' (by have := hG4.out.size; have := hle.out; omega)
    clear hcl hD4 hle hgr ss40 rs40 hG4
    have hcv := conv_one (show n < 256 by omega) wc
    have p2 : (n : Int) < 256 := by omega
    go_upto_region 12 with (first
      | (refine wpList_loadC _ rfl 24 _ rfl _ Try.underlying24 rfl SB (sC (m : Int) 0 0 0) infoS rfl ss5.out ?_)
      | (go_at_call 30; refine (after_alloc (ledRef m 1 [15] [b8 n] (by decide) (by simp) _)).mono ?_; rintro e w6 ⟨rfl, hg6⟩; have p6 := hPB.out.kept0 hg6)
      | (refine wpList_storeC _ rfl 35 _ _ rfl PB (pM 0 (str (ld m 2 [14] ++ [b8 (A + 32), b8 (D + 32)])) 2) (pM 0 (str (ld m 1 [15] ++ [b8 n])) 1) infoP rfl (pC_one _ _ _ _ _ _) rfl rfl p6 ?_; intro w7 p7 hg7))
    have hG7 : Hid (w.grownBy w7 none) := Hid.mk' (grownBy_new (gt hG5.out hg6) hg7 (fun k hk => by have h5 := Option.some.inj hk; have h6 := hwle.out; omega))
    have rs7 := Hid.mk' ((rs5.out.kept0 hg6).kept hg7 (by intro e; have h5 := Option.some.inj e; have h6 := hPne.out; omega))
    clear hcv hg6 hg7 p6
    obtain ⟨c, hc⟩ : ∃ c, Hid (str (ld m 1 [15] ++ [b8 n]) = c) := ⟨_, Hid.mk' rfl⟩
    rw [hc.out] at p7 hsz
    have y1 := p7.cell 1 (v := .string c) rfl
    have z1 := p7.free 1
    go_upto_region 13 with fail
    have p8 : CA (w7.setCell ⟨PB, 1, none⟩ (.string ((⟨#[]⟩ : ByteArray) ++ c))) PB 35 (pM 0 ((⟨#[]⟩ : ByteArray) ++ c) 1) := p7.set 1 _
    have rs8 := rs7.out.other hPne.out 1 (.string ((⟨#[]⟩ : ByteArray) ++ c))
    have hG8 : Hid (w.grownBy (w7.setCell ⟨PB, 1, none⟩ (.string ((⟨#[]⟩ : ByteArray) ++ c))) none) := Hid.mk' (grownBy_new hG7.out (grownBy_setCell w7 ⟨PB, 1, none⟩ (.string ((⟨#[]⟩ : ByteArray) ++ c))) (fun k hk => by have h5 := Option.some.inj hk; have h6 := hwle.out; simp only at h5; omega))
    clear y1 z1
    generalize w7.setCell ⟨PB, 1, none⟩ (.string ((⟨#[]⟩ : ByteArray) ++ c)) = w8 at *
    go_wp2_with (first
      | (refine wpList_loadC _ rfl 35 _ rfl _ Try.underlying35 rfl PB (pM 0 ((⟨#[]⟩ : ByteArray) ++ c) 1) infoP rfl p8 ?_)
      | (refine wpList_storeC _ rfl 35 _ _ rfl B (pZ 0 ⟨#[]⟩) (pM 0 ((⟨#[]⟩ : ByteArray) ++ c) 1) infoP rfl (pC_one _ _ _ _ _ _) rfl rfl rs8 ?_; intro wz rsz hgz))
    refine bodyPost_ret (v := .agg (pM 0 ((⟨#[]⟩ : ByteArray) ++ c) 1)) (results_cell_row Try.results29 _ wz B 35 _ (0, 0) _ rfl rsz Try.underlying35 rfl infoP) rfl ⟨by rw [hc.out], ?_⟩
    exact grownBy_new hG8.out hgz (fun k hk => by have h5 := Option.some.inj hk; have h6 := hB2.out; omega)
set_option maxRecDepth 100000 in
set_option maxHeartbeats 2000000 in
theorem k_sp0 (u : Int) (h1 : 128 ≤ u) (A D : Nat) (hP : Hid (C16.plT u = (A, D, true))) (w : World) : Calls Try.prog 29 #[stV 0 0 0 0, .int .i32 u] w fun e w' => e = .returned (.agg (pM 0 ((⟨#[27, 36, 41, 67]⟩ : ByteArray) ++ str (ld 1 2 [14] ++ [b8 (A + 32), b8 (D + 32)])) 2)) ∧ w.grownBy w' none := by
  obtain ⟨hA, hD⟩ := plT_le hP.out
  have f0 : decide (0 ≤ u) = true := by first | (simp; done) | (simp; omega)
  have f1 : decide (u < 128) = false := by first | (simp; done) | (simp; omega)
  have hsz : ¬ 9223372036854775807 < (⟨#[27, 36, 41, 67]⟩ : ByteArray).size + (str (ld 1 2 [14] ++ [b8 (A + 32), b8 (D + 32)])).size := by
    rw [str_size, List.length_append]
    have h1 := ld_len 1 2 [14]
    have h2 : (⟨#[27, 36, 41, 67]⟩ : ByteArray).size ≤ 4 := by decide
    simp only [List.length_cons, List.length_nil] at h1 ⊢
    omega
  go_enter Try.func29, Try.ntmps29
  go_upto_region 1 with (first
    | (refine wpList_boxC _ rfl 24 _ rfl (sC 0 0 0 0) rfl ?_; intro w1 ss1 hg1)
    | (refine wpList_allocC _ rfl 35 rfl (pZ 0 ⟨#[]⟩) (zeroP _) ?_; intro w2 rs2 hg2))
  have hG2 : Hid (w.grownBy w2 none) := Hid.mk' (gt hg1 hg2)
  have ss2 := ss1.kept0 hg2
  have hB2 : Hid (w.heap.size ≤ w1.heap.size) := Hid.mk' hg1.size
  clear hg1 hg2 ss1
  generalize w1.heap.size = B at *
  obtain ⟨SB, hSB⟩ : ∃ SB, Hid (w.heap.size = SB) := ⟨_, Hid.mk' rfl⟩
  rw [hSB.out] at ss2
  rw [hSB.out]
  go_upto_region 2 with (go_at_call 47; refine (C16.refPlace_any u _ A D true hP).mono ?_; rintro e w3 ⟨rfl, hg3⟩)
  have ss3 := ss2.kept0 hg3
  have rs3 := rs2.kept0 hg3
  have hG3 : Hid (w.grownBy w3 none) := Hid.mk' (gt hG2.out hg3)
  clear hg3 ss2 rs2
  have s0 := ss3.cell 0 (v := .int .i64 0) rfl
  have z0 := ss3.free 0
  go_upto_region 9 with fail
  have ss40 : Hid (CA (w3.setCell ⟨SB, 0, none⟩ (.int .i64 1)) SB 24 (sC 1 0 0 0)) := Hid.mk' (ss3.set 0 _)
  have hne0 : SB ≠ B := ss3.ne rs3 (by decide)
  have rs40 := Hid.mk' (rs3.other hne0 0 (.int .i64 1))
  have hG4 : Hid (w.grownBy (w3.setCell ⟨SB, 0, none⟩ (.int .i64 1)) none) := Hid.mk' (grownBy_new hG3.out (grownBy_setCell w3 ⟨SB, 0, none⟩ (.int .i64 1)) (fun k hk => by have h5 := Option.some.inj hk; have h6 := hSB.out; simp only at h5; omega))
  clear s0 z0 ss3 rs3
  generalize w3.setCell ⟨SB, 0, none⟩ (.int .i64 1) = w4 at *
  have hD4 : w4.grownBy w4.drew none := gd (grownBy_refl w4 none)
  have hcl : Hid (∀ wx, w4.grownBy wx none → (fun w' => w'.cell? ⟨SB, 0, none⟩ = some (.int .i64 1) ∧ w'.cell? ⟨SB, 1, none⟩ = some (.int .i64 0) ∧ w'.cell? ⟨SB, 2, none⟩ = some (.int .u32 0) ∧ w'.cell? ⟨SB, 3, none⟩ = some (.int .i32 0)) wx) := Hid.mk' (fun wx hg => ⟨(ss40.out.kept0 hg).cell 0 rfl, (ss40.out.kept0 hg).cell 1 rfl, (ss40.out.kept0 hg).cell 2 rfl, (ss40.out.kept0 hg).cell 3 rfl⟩)
  go_cut [10] from 34 to 38 (fun t10 wx => ∃ PB, t10 = .pointer (some ⟨PB, 0, none⟩) ∧ Hid (CA wx PB 35 (pM 0 (str (ld 1 2 [14] ++ [b8 (A + 32), b8 (D + 32)])) 2)) ∧ Hid (w4.grownBy wx none) ∧ Hid (w4.heap.size ≤ PB))
  case first =>
    refine wp_region_held_drew (S := fun w' => w'.cell? ⟨SB, 0, none⟩ = some (.int .i64 1) ∧ w'.cell? ⟨SB, 1, none⟩ = some (.int .i64 0) ∧ w'.cell? ⟨SB, 2, none⟩ = some (.int .u32 0) ∧ w'.cell? ⟨SB, 3, none⟩ = some (.int .i32 0)) (by kernel_rfl) (hcl.out _ hD4) (fun hHeld => ?_)
    refine wpAnyH_take (i := 0) (v := ?_) rfl (by kernel_rfl) (by kernel_rfl) (by kernel_rfl) (fun _ _ _ h => h) (Or.inl ⟨by rfl, ?_⟩) (by assumption) ?_; rotate_left
    · (intro w hSw; (try dsimp only at hSw); go_simp; try with_reducible rfl)
    try simp only [List.getElem_toArray, List.getElem_cons_zero, Act.put, List.setIfInBounds_toArray, List.set_cons_zero, List.set_cons_succ]
    refine wpAnyH_take (i := 1) (v := ?_) rfl (by kernel_rfl) (by kernel_rfl) (by kernel_rfl) (fun _ _ _ h => h) (Or.inl ⟨by rfl, ?_⟩) (by assumption) ?_; rotate_left
    · (intro w hSw; (try dsimp only at hSw); go_simp; try with_reducible rfl)
    try simp only [List.getElem_toArray, List.getElem_cons_zero, List.getElem_cons_succ, Act.put, List.setIfInBounds_toArray, List.set_cons_zero, List.set_cons_succ]
    refine wpAnyH_take (i := 2) (v := ?_) rfl (by kernel_rfl) (by kernel_rfl) (by kernel_rfl) (fun _ _ _ h => h) (Or.inl ⟨by rfl, ?_⟩) (by assumption) ?_; rotate_left
    · (intro w hSw; (try dsimp only at hSw); go_simp; try with_reducible rfl)
    try simp only [List.getElem_toArray, List.getElem_cons_zero, List.getElem_cons_succ, Act.put, List.setIfInBounds_toArray, List.set_cons_zero, List.set_cons_succ]
    refine wpAnyH_ready (rs := [3, 5]) (by kernel_rfl) (by simp) ?_
    refine AllReadyH.cons rfl (fun K hK => ?_) (AllReadyH.cons rfl (fun K hK => ?_) AllReadyH.nil)
    · go_simp
      refine (twoRef A D hA hD _).mono ?_
      rintro e wA1 ⟨rfl, hg⟩
      try dsimp only
      have hA1 : w4.grownBy wA1 none := gt hD4 hg
      clear hg
      refine hK.out _ _ (hcl.out _ hA1) (fun hHeld => ?_)
      clear hK K
      try simp only [List.getElem_toArray, List.getElem_cons_zero, List.getElem_cons_succ, Act.put, List.setIfInBounds_toArray, List.set_cons_zero, List.set_cons_succ]
      refine wpAnyH_ready (rs := [4, 5]) (by kernel_rfl) (by simp) ?_
      refine AllReadyH.cons rfl (fun K hK => ?_) (AllReadyH.cons rfl (fun K hK => ?_) AllReadyH.nil)
      · go_simp
        refine (ledRef 1 2 [14] [b8 (A + 32), b8 (D + 32)] (by decide) (by simp) _).mono ?_
        rintro e wL ⟨rfl, hgL⟩
        try dsimp only
        have hL : w4.grownBy wL none := gt hA1 hgL
        refine hK.out _ _ (hcl.out _ hL) (fun hHeld => ?_)
        clear hK K
        try simp only [List.getElem_toArray, List.getElem_cons_zero, List.getElem_cons_succ, Act.put, List.setIfInBounds_toArray, List.set_cons_zero, List.set_cons_succ]
        refine wpAnyH_ready (rs := [5]) (by kernel_rfl) (by simp) ?_
        refine AllReadyH.cons rfl (fun K hK => ?_) AllReadyH.nil
        refine step_allocC (by rfl) 35 (by rfl) (pZ 0 ⟨#[]⟩) (zeroP _) ?_
        intro wP pP hgP
        have hP0 : w4.grownBy wP none := gt hL hgP
        refine hK.out _ _ (hcl.out _ hP0) (fun hHeld => ?_)
        clear hK K
        try simp only [List.getElem_toArray, List.getElem_cons_zero, List.getElem_cons_succ, Act.put, List.setIfInBounds_toArray, List.set_cons_zero, List.set_cons_succ]
        refine wpAnyH_ready (rs := [6]) (by kernel_rfl) (by simp) ?_
        refine AllReadyH.cons rfl (fun K hK => ?_) AllReadyH.nil
        refine step_storeC (by rfl) 35 _ _ (by rfl) _ (pZ 0 ⟨#[]⟩) (pM 0 (str (ld 1 2 [14] ++ [b8 (A + 32), b8 (D + 32)])) 2) infoP rfl (pC_one _ _ _ _ _ _) (by simp [Act.eval]) (by simp [Act.eval]) pP ?_
        intro wF pF hgF
        have hsz0 : w4.heap.size ≤ _ := (hL).size
        have hF : w4.grownBy wF none := grownBy_new hP0 hgF (fun k hk => by have h5 := Option.some.inj hk; (try simp at h5); omega)
        refine hK.out _ _ (hcl.out _ hF) (fun hHeld => ?_)
        clear hK K
        try simp only [List.getElem_toArray, List.getElem_cons_zero, List.getElem_cons_succ, Act.put, List.setIfInBounds_toArray, List.set_cons_zero, List.set_cons_succ]
        refine wpAnyH_done (by kernel_rfl) ?_ _
        go_wp2_with fail
        go_meet
        exact ⟨_, rfl, Hid.mk' pF, Hid.mk' hF, Hid.mk' hsz0⟩
      · refine step_allocC (by rfl) 35 (by rfl) (pZ 0 ⟨#[]⟩) (zeroP _) ?_
        intro wP pP hgP
        have hP0 : w4.grownBy wP none := gt hA1 hgP
        refine hK.out _ _ (hcl.out _ hP0) (fun hHeld => ?_)
        clear hK K
        try simp only [List.getElem_toArray, List.getElem_cons_zero, List.getElem_cons_succ, Act.put, List.setIfInBounds_toArray, List.set_cons_zero, List.set_cons_succ]
        refine wpAnyH_ready (rs := [4]) (by kernel_rfl) (by simp) ?_
        refine AllReadyH.cons rfl (fun K hK => ?_) AllReadyH.nil
        go_simp
        refine (ledRef 1 2 [14] [b8 (A + 32), b8 (D + 32)] (by decide) (by simp) _).mono ?_
        rintro e wL ⟨rfl, hgL⟩
        try dsimp only
        have hL : w4.grownBy wL none := gt hP0 hgL
        refine hK.out _ _ (hcl.out _ hL) (fun hHeld => ?_)
        clear hK K
        try simp only [List.getElem_toArray, List.getElem_cons_zero, List.getElem_cons_succ, Act.put, List.setIfInBounds_toArray, List.set_cons_zero, List.set_cons_succ]
        refine wpAnyH_ready (rs := [6]) (by kernel_rfl) (by simp) ?_
        refine AllReadyH.cons rfl (fun K hK => ?_) AllReadyH.nil
        refine step_storeC (by rfl) 35 _ _ (by rfl) _ (pZ 0 ⟨#[]⟩) (pM 0 (str (ld 1 2 [14] ++ [b8 (A + 32), b8 (D + 32)])) 2) infoP rfl (pC_one _ _ _ _ _ _) (by simp [Act.eval]) (by simp [Act.eval]) (pP.kept0 hgL) ?_
        intro wF pF hgF
        have hsz0 : w4.heap.size ≤ _ := (hA1).size
        have hF : w4.grownBy wF none := grownBy_new hL hgF (fun k hk => by have h5 := Option.some.inj hk; (try simp at h5); omega)
        refine hK.out _ _ (hcl.out _ hF) (fun hHeld => ?_)
        clear hK K
        try simp only [List.getElem_toArray, List.getElem_cons_zero, List.getElem_cons_succ, Act.put, List.setIfInBounds_toArray, List.set_cons_zero, List.set_cons_succ]
        refine wpAnyH_done (by kernel_rfl) ?_ _
        go_wp2_with fail
        go_meet
        exact ⟨_, rfl, Hid.mk' pF, Hid.mk' hF, Hid.mk' hsz0⟩
    · refine step_allocC (by rfl) 35 (by rfl) (pZ 0 ⟨#[]⟩) (zeroP _) ?_
      intro wP pP hgP
      have hP0 : w4.grownBy wP none := gt hD4 hgP
      refine hK.out _ _ (hcl.out _ hP0) (fun hHeld => ?_)
      clear hK K
      try simp only [List.getElem_toArray, List.getElem_cons_zero, List.getElem_cons_succ, Act.put, List.setIfInBounds_toArray, List.set_cons_zero, List.set_cons_succ]
      refine wpAnyH_ready (rs := [3]) (by kernel_rfl) (by simp) ?_
      refine AllReadyH.cons rfl (fun K hK => ?_) AllReadyH.nil
      go_simp
      refine (twoRef A D hA hD _).mono ?_
      rintro e wA2 ⟨rfl, hg⟩
      try dsimp only
      have hA2 : w4.grownBy wA2 none := gt hP0 hg
      have hPA := hg
      clear hg
      refine hK.out _ _ (hcl.out _ hA2) (fun hHeld => ?_)
      clear hK K
      try simp only [List.getElem_toArray, List.getElem_cons_zero, List.getElem_cons_succ, Act.put, List.setIfInBounds_toArray, List.set_cons_zero, List.set_cons_succ]
      refine wpAnyH_ready (rs := [4]) (by kernel_rfl) (by simp) ?_
      refine AllReadyH.cons rfl (fun K hK => ?_) AllReadyH.nil
      go_simp
      refine (ledRef 1 2 [14] [b8 (A + 32), b8 (D + 32)] (by decide) (by simp) _).mono ?_
      rintro e wL ⟨rfl, hgL⟩
      try dsimp only
      have hL : w4.grownBy wL none := gt hA2 hgL
      refine hK.out _ _ (hcl.out _ hL) (fun hHeld => ?_)
      clear hK K
      try simp only [List.getElem_toArray, List.getElem_cons_zero, List.getElem_cons_succ, Act.put, List.setIfInBounds_toArray, List.set_cons_zero, List.set_cons_succ]
      refine wpAnyH_ready (rs := [6]) (by kernel_rfl) (by simp) ?_
      refine AllReadyH.cons rfl (fun K hK => ?_) AllReadyH.nil
      refine step_storeC (by rfl) 35 _ _ (by rfl) _ (pZ 0 ⟨#[]⟩) (pM 0 (str (ld 1 2 [14] ++ [b8 (A + 32), b8 (D + 32)])) 2) infoP rfl (pC_one _ _ _ _ _ _) (by simp [Act.eval]) (by simp [Act.eval]) ((pP.kept0 hPA).kept0 hgL) ?_
      intro wF pF hgF
      have hsz0 : w4.heap.size ≤ _ := (hD4).size
      have hF : w4.grownBy wF none := grownBy_new hL hgF (fun k hk => by have h5 := Option.some.inj hk; (try simp at h5); omega)
      refine hK.out _ _ (hcl.out _ hF) (fun hHeld => ?_)
      clear hK K
      try simp only [List.getElem_toArray, List.getElem_cons_zero, List.getElem_cons_succ, Act.put, List.setIfInBounds_toArray, List.set_cons_zero, List.set_cons_succ]
      refine wpAnyH_done (by kernel_rfl) ?_ _
      go_wp2_with fail
      go_meet
      exact ⟨_, rfl, Hid.mk' pF, Hid.mk' hF, Hid.mk' hsz0⟩
  case rest =>
    obtain ⟨PB, rfl, hPB, hgr, hle⟩ := hcut
    have ss5 := Hid.mk' (ss40.out.kept0 hgr.out)
    have rs5 := Hid.mk' (rs40.out.kept0 hgr.out)
    have hG5 : Hid (w.grownBy wc none) := Hid.mk' (gt hG4.out hgr.out)
    have hPne : Hid (PB ≠ B) := Hid.mk' (by have := rs40.out.lt; have := hle.out; omega)
    have hwle : Hid (w.heap.size ≤ PB) := Hid.mk' (by have := hG4.out.size; have := hle.out; omega)
    clear hcl hD4 hle hgr ss40 rs40 hG4
    have p7 := hPB.out
    have hG7 := hG5
    have rs7 := rs5
    obtain ⟨c, hc⟩ : ∃ c, Hid (str (ld 1 2 [14] ++ [b8 (A + 32), b8 (D + 32)]) = c) := ⟨_, Hid.mk' rfl⟩
    rw [hc.out] at p7 hsz
    have y1 := p7.cell 1 (v := .string c) rfl
    have z1 := p7.free 1
    go_upto_region 13 with fail
    have p8 : CA (wc.setCell ⟨PB, 1, none⟩ (.string ((⟨#[27, 36, 41, 67]⟩ : ByteArray) ++ c))) PB 35 (pM 0 ((⟨#[27, 36, 41, 67]⟩ : ByteArray) ++ c) 2) := p7.set 1 _
    have rs8 := rs7.out.other hPne.out 1 (.string ((⟨#[27, 36, 41, 67]⟩ : ByteArray) ++ c))
    have hG8 : Hid (w.grownBy (wc.setCell ⟨PB, 1, none⟩ (.string ((⟨#[27, 36, 41, 67]⟩ : ByteArray) ++ c))) none) := Hid.mk' (grownBy_new hG7.out (grownBy_setCell wc ⟨PB, 1, none⟩ (.string ((⟨#[27, 36, 41, 67]⟩ : ByteArray) ++ c))) (fun k hk => by have h5 := Option.some.inj hk; have h6 := hwle.out; simp only at h5; omega))
    clear y1 z1
    generalize wc.setCell ⟨PB, 1, none⟩ (.string ((⟨#[27, 36, 41, 67]⟩ : ByteArray) ++ c)) = w8 at *
    go_wp2_with (first
      | (refine wpList_loadC _ rfl 35 _ rfl _ Try.underlying35 rfl PB (pM 0 ((⟨#[27, 36, 41, 67]⟩ : ByteArray) ++ c) 2) infoP rfl p8 ?_)
      | (refine wpList_storeC _ rfl 35 _ _ rfl B (pZ 0 ⟨#[]⟩) (pM 0 ((⟨#[27, 36, 41, 67]⟩ : ByteArray) ++ c) 2) infoP rfl (pC_one _ _ _ _ _ _) rfl rfl rs8 ?_; intro wz rsz hgz))
    refine bodyPost_ret (v := .agg (pM 0 ((⟨#[27, 36, 41, 67]⟩ : ByteArray) ++ c) 2)) (results_cell_row Try.results29 _ wz B 35 _ (0, 0) _ rfl rsz Try.underlying35 rfl infoP) rfl ⟨by rw [hc.out], ?_⟩
    exact grownBy_new hG8.out hgz (fun k hk => by have h5 := Option.some.inj hk; have h6 := hB2.out; omega)
set_option maxRecDepth 100000 in
set_option maxHeartbeats 2000000 in
theorem k_sp1 (m : Nat) (h0 : 1 ≤ m) (hm : m < 3) (u : Int) (h1 : 128 ≤ u) (A D : Nat) (hP : Hid (C16.plT u = (A, D, true))) (w : World) : Calls Try.prog 29 #[stV (m : Int) 0 0 0, .int .i32 u] w fun e w' => e = .returned (.agg (pM 0 ((⟨#[]⟩ : ByteArray) ++ str (ld m 2 [14] ++ [b8 (A + 32), b8 (D + 32)])) 2)) ∧ w.grownBy w' none := by
  obtain ⟨hA, hD⟩ := plT_le hP.out
  have f0 : decide (0 ≤ u) = true := by first | (simp; done) | (simp; omega)
  have f1 : decide (u < 128) = false := by first | (simp; done) | (simp; omega)
  have f2 : ((m : Int) == 0) = false := by first | (simp; done) | (simp; omega)
  have hsz : ¬ 9223372036854775807 < (⟨#[]⟩ : ByteArray).size + (str (ld m 2 [14] ++ [b8 (A + 32), b8 (D + 32)])).size := by
    rw [str_size, List.length_append]
    have h1 := ld_len m 2 [14]
    have h2 : (⟨#[]⟩ : ByteArray).size ≤ 4 := by decide
    simp only [List.length_cons, List.length_nil] at h1 ⊢
    omega
  go_enter Try.func29, Try.ntmps29
  go_upto_region 1 with (first
    | (refine wpList_boxC _ rfl 24 _ rfl (sC (m : Int) 0 0 0) rfl ?_; intro w1 ss1 hg1)
    | (refine wpList_allocC _ rfl 35 rfl (pZ 0 ⟨#[]⟩) (zeroP _) ?_; intro w2 rs2 hg2))
  have hG2 : Hid (w.grownBy w2 none) := Hid.mk' (gt hg1 hg2)
  have ss2 := ss1.kept0 hg2
  have hB2 : Hid (w.heap.size ≤ w1.heap.size) := Hid.mk' hg1.size
  clear hg1 hg2 ss1
  generalize w1.heap.size = B at *
  obtain ⟨SB, hSB⟩ : ∃ SB, Hid (w.heap.size = SB) := ⟨_, Hid.mk' rfl⟩
  rw [hSB.out] at ss2
  rw [hSB.out]
  go_upto_region 2 with (go_at_call 47; refine (C16.refPlace_any u _ A D true hP).mono ?_; rintro e w3 ⟨rfl, hg3⟩)
  have ss3 := ss2.kept0 hg3
  have rs3 := rs2.kept0 hg3
  have hG3 : Hid (w.grownBy w3 none) := Hid.mk' (gt hG2.out hg3)
  clear hg3 ss2 rs2
  have s0 := ss3.cell 0 (v := .int .i64 (m : Int)) rfl
  have z0 := ss3.free 0
  go_upto_region 9 with fail
  have ss40 := Hid.mk' ss3
  have rs40 := Hid.mk' rs3
  have hne0 : SB ≠ B := ss3.ne rs3 (by decide)
  have hG4 := hG3
  clear s0 z0 ss3 rs3
  have hD4 : w3.grownBy w3.drew none := gd (grownBy_refl w3 none)
  have hcl : Hid (∀ wx, w3.grownBy wx none → (fun w' => w'.cell? ⟨SB, 0, none⟩ = some (.int .i64 (m : Int)) ∧ w'.cell? ⟨SB, 1, none⟩ = some (.int .i64 0) ∧ w'.cell? ⟨SB, 2, none⟩ = some (.int .u32 0) ∧ w'.cell? ⟨SB, 3, none⟩ = some (.int .i32 0)) wx) := Hid.mk' (fun wx hg => ⟨(ss40.out.kept0 hg).cell 0 rfl, (ss40.out.kept0 hg).cell 1 rfl, (ss40.out.kept0 hg).cell 2 rfl, (ss40.out.kept0 hg).cell 3 rfl⟩)
  go_cut [10] from 34 to 38 (fun t10 wx => ∃ PB, t10 = .pointer (some ⟨PB, 0, none⟩) ∧ Hid (CA wx PB 35 (pM 0 (str (ld m 2 [14] ++ [b8 (A + 32), b8 (D + 32)])) 2)) ∧ Hid (w3.grownBy wx none) ∧ Hid (w3.heap.size ≤ PB))
  case first =>
    refine wp_region_held_drew (S := fun w' => w'.cell? ⟨SB, 0, none⟩ = some (.int .i64 (m : Int)) ∧ w'.cell? ⟨SB, 1, none⟩ = some (.int .i64 0) ∧ w'.cell? ⟨SB, 2, none⟩ = some (.int .u32 0) ∧ w'.cell? ⟨SB, 3, none⟩ = some (.int .i32 0)) (by kernel_rfl) (hcl.out _ hD4) (fun hHeld => ?_)
    refine wpAnyH_take (i := 0) (v := ?_) rfl (by kernel_rfl) (by kernel_rfl) (by kernel_rfl) (fun _ _ _ h => h) (Or.inl ⟨by rfl, ?_⟩) (by assumption) ?_; rotate_left
    · (intro w hSw; (try dsimp only at hSw); go_simp; try with_reducible rfl)
    try simp only [List.getElem_toArray, List.getElem_cons_zero, Act.put, List.setIfInBounds_toArray, List.set_cons_zero, List.set_cons_succ]
    refine wpAnyH_take (i := 1) (v := ?_) rfl (by kernel_rfl) (by kernel_rfl) (by kernel_rfl) (fun _ _ _ h => h) (Or.inl ⟨by rfl, ?_⟩) (by assumption) ?_; rotate_left
    · (intro w hSw; (try dsimp only at hSw); go_simp; try with_reducible rfl)
    try simp only [List.getElem_toArray, List.getElem_cons_zero, List.getElem_cons_succ, Act.put, List.setIfInBounds_toArray, List.set_cons_zero, List.set_cons_succ]
    refine wpAnyH_take (i := 2) (v := ?_) rfl (by kernel_rfl) (by kernel_rfl) (by kernel_rfl) (fun _ _ _ h => h) (Or.inl ⟨by rfl, ?_⟩) (by assumption) ?_; rotate_left
    · (intro w hSw; (try dsimp only at hSw); go_simp; try with_reducible rfl)
    try simp only [List.getElem_toArray, List.getElem_cons_zero, List.getElem_cons_succ, Act.put, List.setIfInBounds_toArray, List.set_cons_zero, List.set_cons_succ]
    refine wpAnyH_ready (rs := [3, 5]) (by kernel_rfl) (by simp) ?_
    refine AllReadyH.cons rfl (fun K hK => ?_) (AllReadyH.cons rfl (fun K hK => ?_) AllReadyH.nil)
    · go_simp
      refine (twoRef A D hA hD _).mono ?_
      rintro e wA1 ⟨rfl, hg⟩
      try dsimp only
      have hA1 : w3.grownBy wA1 none := gt hD4 hg
      clear hg
      refine hK.out _ _ (hcl.out _ hA1) (fun hHeld => ?_)
      clear hK K
      try simp only [List.getElem_toArray, List.getElem_cons_zero, List.getElem_cons_succ, Act.put, List.setIfInBounds_toArray, List.set_cons_zero, List.set_cons_succ]
      refine wpAnyH_ready (rs := [4, 5]) (by kernel_rfl) (by simp) ?_
      refine AllReadyH.cons rfl (fun K hK => ?_) (AllReadyH.cons rfl (fun K hK => ?_) AllReadyH.nil)
      · go_simp
        refine (ledRef m 2 [14] [b8 (A + 32), b8 (D + 32)] (by decide) (by simp) _).mono ?_
        rintro e wL ⟨rfl, hgL⟩
        try dsimp only
        have hL : w3.grownBy wL none := gt hA1 hgL
        refine hK.out _ _ (hcl.out _ hL) (fun hHeld => ?_)
        clear hK K
        try simp only [List.getElem_toArray, List.getElem_cons_zero, List.getElem_cons_succ, Act.put, List.setIfInBounds_toArray, List.set_cons_zero, List.set_cons_succ]
        refine wpAnyH_ready (rs := [5]) (by kernel_rfl) (by simp) ?_
        refine AllReadyH.cons rfl (fun K hK => ?_) AllReadyH.nil
        refine step_allocC (by rfl) 35 (by rfl) (pZ 0 ⟨#[]⟩) (zeroP _) ?_
        intro wP pP hgP
        have hP0 : w3.grownBy wP none := gt hL hgP
        refine hK.out _ _ (hcl.out _ hP0) (fun hHeld => ?_)
        clear hK K
        try simp only [List.getElem_toArray, List.getElem_cons_zero, List.getElem_cons_succ, Act.put, List.setIfInBounds_toArray, List.set_cons_zero, List.set_cons_succ]
        refine wpAnyH_ready (rs := [6]) (by kernel_rfl) (by simp) ?_
        refine AllReadyH.cons rfl (fun K hK => ?_) AllReadyH.nil
        refine step_storeC (by rfl) 35 _ _ (by rfl) _ (pZ 0 ⟨#[]⟩) (pM 0 (str (ld m 2 [14] ++ [b8 (A + 32), b8 (D + 32)])) 2) infoP rfl (pC_one _ _ _ _ _ _) (by simp [Act.eval]) (by simp [Act.eval]) pP ?_
        intro wF pF hgF
        have hsz0 : w3.heap.size ≤ _ := (hL).size
        have hF : w3.grownBy wF none := grownBy_new hP0 hgF (fun k hk => by have h5 := Option.some.inj hk; (try simp at h5); omega)
        refine hK.out _ _ (hcl.out _ hF) (fun hHeld => ?_)
        clear hK K
        try simp only [List.getElem_toArray, List.getElem_cons_zero, List.getElem_cons_succ, Act.put, List.setIfInBounds_toArray, List.set_cons_zero, List.set_cons_succ]
        refine wpAnyH_done (by kernel_rfl) ?_ _
        go_wp2_with fail
        go_meet
        exact ⟨_, rfl, Hid.mk' pF, Hid.mk' hF, Hid.mk' hsz0⟩
      · refine step_allocC (by rfl) 35 (by rfl) (pZ 0 ⟨#[]⟩) (zeroP _) ?_
        intro wP pP hgP
        have hP0 : w3.grownBy wP none := gt hA1 hgP
        refine hK.out _ _ (hcl.out _ hP0) (fun hHeld => ?_)
        clear hK K
        try simp only [List.getElem_toArray, List.getElem_cons_zero, List.getElem_cons_succ, Act.put, List.setIfInBounds_toArray, List.set_cons_zero, List.set_cons_succ]
        refine wpAnyH_ready (rs := [4]) (by kernel_rfl) (by simp) ?_
        refine AllReadyH.cons rfl (fun K hK => ?_) AllReadyH.nil
        go_simp
        refine (ledRef m 2 [14] [b8 (A + 32), b8 (D + 32)] (by decide) (by simp) _).mono ?_
        rintro e wL ⟨rfl, hgL⟩
        try dsimp only
        have hL : w3.grownBy wL none := gt hP0 hgL
        refine hK.out _ _ (hcl.out _ hL) (fun hHeld => ?_)
        clear hK K
        try simp only [List.getElem_toArray, List.getElem_cons_zero, List.getElem_cons_succ, Act.put, List.setIfInBounds_toArray, List.set_cons_zero, List.set_cons_succ]
        refine wpAnyH_ready (rs := [6]) (by kernel_rfl) (by simp) ?_
        refine AllReadyH.cons rfl (fun K hK => ?_) AllReadyH.nil
        refine step_storeC (by rfl) 35 _ _ (by rfl) _ (pZ 0 ⟨#[]⟩) (pM 0 (str (ld m 2 [14] ++ [b8 (A + 32), b8 (D + 32)])) 2) infoP rfl (pC_one _ _ _ _ _ _) (by simp [Act.eval]) (by simp [Act.eval]) (pP.kept0 hgL) ?_
        intro wF pF hgF
        have hsz0 : w3.heap.size ≤ _ := (hA1).size
        have hF : w3.grownBy wF none := grownBy_new hL hgF (fun k hk => by have h5 := Option.some.inj hk; (try simp at h5); omega)
        refine hK.out _ _ (hcl.out _ hF) (fun hHeld => ?_)
        clear hK K
        try simp only [List.getElem_toArray, List.getElem_cons_zero, List.getElem_cons_succ, Act.put, List.setIfInBounds_toArray, List.set_cons_zero, List.set_cons_succ]
        refine wpAnyH_done (by kernel_rfl) ?_ _
        go_wp2_with fail
        go_meet
        exact ⟨_, rfl, Hid.mk' pF, Hid.mk' hF, Hid.mk' hsz0⟩
    · refine step_allocC (by rfl) 35 (by rfl) (pZ 0 ⟨#[]⟩) (zeroP _) ?_
      intro wP pP hgP
      have hP0 : w3.grownBy wP none := gt hD4 hgP
      refine hK.out _ _ (hcl.out _ hP0) (fun hHeld => ?_)
      clear hK K
      try simp only [List.getElem_toArray, List.getElem_cons_zero, List.getElem_cons_succ, Act.put, List.setIfInBounds_toArray, List.set_cons_zero, List.set_cons_succ]
      refine wpAnyH_ready (rs := [3]) (by kernel_rfl) (by simp) ?_
      refine AllReadyH.cons rfl (fun K hK => ?_) AllReadyH.nil
      go_simp
      refine (twoRef A D hA hD _).mono ?_
      rintro e wA2 ⟨rfl, hg⟩
      try dsimp only
      have hA2 : w3.grownBy wA2 none := gt hP0 hg
      have hPA := hg
      clear hg
      refine hK.out _ _ (hcl.out _ hA2) (fun hHeld => ?_)
      clear hK K
      try simp only [List.getElem_toArray, List.getElem_cons_zero, List.getElem_cons_succ, Act.put, List.setIfInBounds_toArray, List.set_cons_zero, List.set_cons_succ]
      refine wpAnyH_ready (rs := [4]) (by kernel_rfl) (by simp) ?_
      refine AllReadyH.cons rfl (fun K hK => ?_) AllReadyH.nil
      go_simp
      refine (ledRef m 2 [14] [b8 (A + 32), b8 (D + 32)] (by decide) (by simp) _).mono ?_
      rintro e wL ⟨rfl, hgL⟩
      try dsimp only
      have hL : w3.grownBy wL none := gt hA2 hgL
      refine hK.out _ _ (hcl.out _ hL) (fun hHeld => ?_)
      clear hK K
      try simp only [List.getElem_toArray, List.getElem_cons_zero, List.getElem_cons_succ, Act.put, List.setIfInBounds_toArray, List.set_cons_zero, List.set_cons_succ]
      refine wpAnyH_ready (rs := [6]) (by kernel_rfl) (by simp) ?_
      refine AllReadyH.cons rfl (fun K hK => ?_) AllReadyH.nil
      refine step_storeC (by rfl) 35 _ _ (by rfl) _ (pZ 0 ⟨#[]⟩) (pM 0 (str (ld m 2 [14] ++ [b8 (A + 32), b8 (D + 32)])) 2) infoP rfl (pC_one _ _ _ _ _ _) (by simp [Act.eval]) (by simp [Act.eval]) ((pP.kept0 hPA).kept0 hgL) ?_
      intro wF pF hgF
      have hsz0 : w3.heap.size ≤ _ := (hD4).size
      have hF : w3.grownBy wF none := grownBy_new hL hgF (fun k hk => by have h5 := Option.some.inj hk; (try simp at h5); omega)
      refine hK.out _ _ (hcl.out _ hF) (fun hHeld => ?_)
      clear hK K
      try simp only [List.getElem_toArray, List.getElem_cons_zero, List.getElem_cons_succ, Act.put, List.setIfInBounds_toArray, List.set_cons_zero, List.set_cons_succ]
      refine wpAnyH_done (by kernel_rfl) ?_ _
      go_wp2_with fail
      go_meet
      exact ⟨_, rfl, Hid.mk' pF, Hid.mk' hF, Hid.mk' hsz0⟩
  case rest =>
    obtain ⟨PB, rfl, hPB, hgr, hle⟩ := hcut
    have ss5 := Hid.mk' (ss40.out.kept0 hgr.out)
    have rs5 := Hid.mk' (rs40.out.kept0 hgr.out)
    have hG5 : Hid (w.grownBy wc none) := Hid.mk' (gt hG4.out hgr.out)
    have hPne : Hid (PB ≠ B) := Hid.mk' (by have := rs40.out.lt; have := hle.out; omega)
    have hwle : Hid (w.heap.size ≤ PB) := Hid.mk' (by have := hG4.out.size; have := hle.out; omega)
    clear hcl hD4 hle hgr ss40 rs40 hG4
    have p7 := hPB.out
    have hG7 := hG5
    have rs7 := rs5
    obtain ⟨c, hc⟩ : ∃ c, Hid (str (ld m 2 [14] ++ [b8 (A + 32), b8 (D + 32)]) = c) := ⟨_, Hid.mk' rfl⟩
    rw [hc.out] at p7 hsz
    have y1 := p7.cell 1 (v := .string c) rfl
    have z1 := p7.free 1
    go_upto_region 13 with fail
    have p8 : CA (wc.setCell ⟨PB, 1, none⟩ (.string ((⟨#[]⟩ : ByteArray) ++ c))) PB 35 (pM 0 ((⟨#[]⟩ : ByteArray) ++ c) 2) := p7.set 1 _
    have rs8 := rs7.out.other hPne.out 1 (.string ((⟨#[]⟩ : ByteArray) ++ c))
    have hG8 : Hid (w.grownBy (wc.setCell ⟨PB, 1, none⟩ (.string ((⟨#[]⟩ : ByteArray) ++ c))) none) := Hid.mk' (grownBy_new hG7.out (grownBy_setCell wc ⟨PB, 1, none⟩ (.string ((⟨#[]⟩ : ByteArray) ++ c))) (fun k hk => by have h5 := Option.some.inj hk; have h6 := hwle.out; simp only at h5; omega))
    clear y1 z1
    generalize wc.setCell ⟨PB, 1, none⟩ (.string ((⟨#[]⟩ : ByteArray) ++ c)) = w8 at *
    go_wp2_with (first
      | (refine wpList_loadC _ rfl 35 _ rfl _ Try.underlying35 rfl PB (pM 0 ((⟨#[]⟩ : ByteArray) ++ c) 2) infoP rfl p8 ?_)
      | (refine wpList_storeC _ rfl 35 _ _ rfl B (pZ 0 ⟨#[]⟩) (pM 0 ((⟨#[]⟩ : ByteArray) ++ c) 2) infoP rfl (pC_one _ _ _ _ _ _) rfl rfl rs8 ?_; intro wz rsz hgz))
    refine bodyPost_ret (v := .agg (pM 0 ((⟨#[]⟩ : ByteArray) ++ c) 2)) (results_cell_row Try.results29 _ wz B 35 _ (0, 0) _ rfl rsz Try.underlying35 rfl infoP) rfl ⟨by rw [hc.out], ?_⟩
    exact grownBy_new hG8.out hgz (fun k hk => by have h5 := Option.some.inj hk; have h6 := hB2.out; omega)
end Go.Proofs.Ytdobjijebalkkaa.C21

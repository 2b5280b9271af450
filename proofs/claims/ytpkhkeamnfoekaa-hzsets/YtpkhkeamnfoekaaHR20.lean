/- The program's within, fits, toOutside, toWithin, alone and End of layer 20: walks. -/
import Derived.Test.YtpkhkeamnfoekaaHV20
import Derived.Laws.Runes
namespace Go.Proofs.Ytpkhkeamnfoekaa.C20
open Go.ChangeShapes Go.WideShapes Go.ChangeAt Go.RowKit Go.Proofs.Ytpkhkeamnfoekaa.Mem Go.Proofs.Ytpkhkeamnfoekaa.Cb Go.Proofs.Ytpkhkeamnfoekaa.Sp
set_option linter.unusedVariables false
set_option linter.unusedSimpArgs false

set_option maxRecDepth 100000 in
set_option maxHeartbeats 1000000 in
theorem p_within (w : World) : Calls Try.prog 14 #[] w fun e w' => e = .returned (.agg (sC 1 0 0 0)) ∧ w.grownBy w' none := by
  go_enter Try.func14, Try.ntmps14
  go_upto_region 1 with (refine wpList_allocC _ rfl 24 rfl (sC 0 0 0 0) (zeroS _) ?_; intro w2 rs2 hg2)
  have hG2 : Hid (w.grownBy w2 none) := Hid.mk' hg2
  obtain ⟨B, hBe⟩ : ∃ B, Hid (w.heap.size = B) := ⟨_, Hid.mk' rfl⟩
  have hB2 : Hid (w.heap.size ≤ B) := Hid.mk' (by rw [← hBe.out]; exact Nat.le_refl _)
  rw [hBe.out] at rs2
  rw [hBe.out]
  clear hg2 hBe
  go_wp2_with (first
    | (refine wpList_storeC _ rfl 24 _ _ rfl B (sC 0 0 0 0) (sC 1 0 0 0) infoS rfl (sC_one _ _ _ _) rfl rfl rs2 ?_; intro wz rsz hgz))
  refine bodyPost_ret (v := .agg (sC 1 0 0 0)) (results_cell_row Try.results14 _ wz B 24 _ (0, 0) _ rfl rsz Try.underlying24 rfl infoS) rfl ⟨rfl, ?_⟩
  exact grownBy_new hG2.out hgz (fun k hk => by have h5 := Option.some.inj hk; have h6 := hB2.out; omega)
set_option maxRecDepth 100000 in
set_option maxHeartbeats 1000000 in
theorem pf_0  (w : World) : Calls Try.prog 8 #[stV 0 0 0 0] w fun e w' => e = .returned (.bool true) ∧ w.grownBy w' none := by
  go_enter Try.func8, Try.ntmps8
  go_upto_region 1 with (refine wpList_boxC _ rfl 24 _ rfl (sC 0 0 0 0) rfl ?_; intro w1 ss1 hg1)
  obtain ⟨SB, hSB⟩ : ∃ SB, Hid (w.heap.size = SB) := ⟨_, Hid.mk' rfl⟩
  rw [hSB.out] at ss1
  rw [hSB.out]
  have hcl : Hid (∀ wx, w1.grownBy wx none → (fun w' => w'.cell? ⟨SB, 0, none⟩ = some (.int .i64 0) ∧ w'.cell? ⟨SB, 1, none⟩ = some (.int .i64 0) ∧ w'.cell? ⟨SB, 2, none⟩ = some (.int .u32 0) ∧ w'.cell? ⟨SB, 3, none⟩ = some (.int .i32 0)) wx) := Hid.mk' (fun wx hg => ⟨(ss1.kept0 hg).cell 0 rfl, (ss1.kept0 hg).cell 1 rfl, (ss1.kept0 hg).cell 2 rfl, (ss1.kept0 hg).cell 3 rfl⟩)
  have hG1 := Hid.mk' hg1
  have hD : w1.grownBy w1.drew none := gd (grownBy_refl w1 none)
  clear ss1 hg1
  refine wp_region_held_drew (S := fun w' => w'.cell? ⟨SB, 0, none⟩ = some (.int .i64 0) ∧ w'.cell? ⟨SB, 1, none⟩ = some (.int .i64 0) ∧ w'.cell? ⟨SB, 2, none⟩ = some (.int .u32 0) ∧ w'.cell? ⟨SB, 3, none⟩ = some (.int .i32 0)) (by kernel_rfl) (hcl.out _ hD) (fun hHeld => ?_)
  refine wpAnyH_take (i := 0) (v := ?_) rfl (by kernel_rfl) (by kernel_rfl) (by kernel_rfl) (fun _ _ _ h => h) (Or.inl ⟨by rfl, ?_⟩) (by assumption) ?_; rotate_left
  · (intro w hSw; (try dsimp only at hSw); go_simp; try with_reducible rfl)
  try simp only [List.getElem_toArray, List.getElem_cons_zero, Act.put, List.setIfInBounds_toArray, List.set_cons_zero, List.set_cons_succ]
  refine wpAnyH_take (i := 1) (v := ?_) rfl (by kernel_rfl) (by kernel_rfl) (by kernel_rfl) (fun _ _ _ h => h) (Or.inl ⟨by rfl, ?_⟩) (by assumption) ?_; rotate_left
  · (intro w hSw; (try dsimp only at hSw); go_simp; try with_reducible rfl)
  try simp only [List.getElem_toArray, List.getElem_cons_zero, List.getElem_cons_succ, Act.put, List.setIfInBounds_toArray, List.set_cons_zero, List.set_cons_succ]
  refine wpAnyH_take (i := 2) (v := ?_) rfl (by kernel_rfl) (by kernel_rfl) (by kernel_rfl) (fun _ _ _ h => h) (Or.inl ⟨by rfl, ?_⟩) (by assumption) ?_; rotate_left
  · (intro w hSw; (try dsimp only at hSw); go_simp; try with_reducible rfl)
  try simp only [List.getElem_toArray, List.getElem_cons_zero, List.getElem_cons_succ, Act.put, List.setIfInBounds_toArray, List.set_cons_zero, List.set_cons_succ]
  refine wpAnyH_take (i := 3) (v := ?_) rfl (by kernel_rfl) (by kernel_rfl) (by kernel_rfl) (fun _ _ _ h => h) (Or.inl ⟨by rfl, ?_⟩) (by assumption) ?_; rotate_left
  · (intro w hSw; (try dsimp only at hSw); go_simp; try with_reducible rfl)
  try simp only [List.getElem_toArray, List.getElem_cons_zero, List.getElem_cons_succ, Act.put, List.setIfInBounds_toArray, List.set_cons_zero, List.set_cons_succ]
  refine wpAnyH_take (i := 4) (v := undef) rfl (by kernel_rfl) (by kernel_rfl) (by kernel_rfl) (fun _ _ _ h => h) (Or.inr ⟨by rfl, rfl⟩) (by assumption) ?_
  try simp only [List.getElem_toArray, List.getElem_cons_zero, List.getElem_cons_succ, Act.put, List.setIfInBounds_toArray, List.set_cons_zero, List.set_cons_succ]
  refine wpAnyH_take (i := 5) (v := undef) rfl (by kernel_rfl) (by kernel_rfl) (by kernel_rfl) (fun _ _ _ h => h) (Or.inr ⟨by rfl, rfl⟩) (by assumption) ?_
  try simp only [List.getElem_toArray, List.getElem_cons_zero, List.getElem_cons_succ, Act.put, List.setIfInBounds_toArray, List.set_cons_zero, List.set_cons_succ]
  refine wpAnyH_take (i := 6) (v := undef) rfl (by kernel_rfl) (by kernel_rfl) (by kernel_rfl) (fun _ _ _ h => h) (Or.inr ⟨by rfl, rfl⟩) (by assumption) ?_
  try simp only [List.getElem_toArray, List.getElem_cons_zero, List.getElem_cons_succ, Act.put, List.setIfInBounds_toArray, List.set_cons_zero, List.set_cons_succ]
  refine wpAnyH_take (i := 7) (v := ?_) rfl (by kernel_rfl) (by kernel_rfl) (by kernel_rfl) (fun _ _ _ h => h) (Or.inl ⟨by rfl, ?_⟩) (by assumption) ?_; rotate_left
  · (intro w hSw; (try dsimp only at hSw); go_simp; try with_reducible rfl)
  try simp only [List.getElem_toArray, List.getElem_cons_zero, List.getElem_cons_succ, Act.put, List.setIfInBounds_toArray, List.set_cons_zero, List.set_cons_succ]
  refine wpAnyH_take (i := 8) (v := ?_) rfl (by kernel_rfl) (by kernel_rfl) (by kernel_rfl) (fun _ _ _ h => h) (Or.inl ⟨by rfl, ?_⟩) (by assumption) ?_; rotate_left
  · (intro w hSw; (try dsimp only at hSw); go_simp; try with_reducible rfl)
  try simp only [List.getElem_toArray, List.getElem_cons_zero, List.getElem_cons_succ, Act.put, List.setIfInBounds_toArray, List.set_cons_zero, List.set_cons_succ]
  refine wpAnyH_done (by kernel_rfl) ?_ _
  go_wp2
  go_ret
  exact ⟨rfl, (gt hG1.out hD)⟩
set_option maxRecDepth 100000 in
set_option maxHeartbeats 1000000 in
theorem pf_1  (w : World) : Calls Try.prog 8 #[stV 1 0 0 0] w fun e w' => e = .returned (.bool true) ∧ w.grownBy w' none := by
  go_enter Try.func8, Try.ntmps8
  go_upto_region 1 with (refine wpList_boxC _ rfl 24 _ rfl (sC 1 0 0 0) rfl ?_; intro w1 ss1 hg1)
  obtain ⟨SB, hSB⟩ : ∃ SB, Hid (w.heap.size = SB) := ⟨_, Hid.mk' rfl⟩
  rw [hSB.out] at ss1
  rw [hSB.out]
  have hcl : Hid (∀ wx, w1.grownBy wx none → (fun w' => w'.cell? ⟨SB, 0, none⟩ = some (.int .i64 1) ∧ w'.cell? ⟨SB, 1, none⟩ = some (.int .i64 0) ∧ w'.cell? ⟨SB, 2, none⟩ = some (.int .u32 0) ∧ w'.cell? ⟨SB, 3, none⟩ = some (.int .i32 0)) wx) := Hid.mk' (fun wx hg => ⟨(ss1.kept0 hg).cell 0 rfl, (ss1.kept0 hg).cell 1 rfl, (ss1.kept0 hg).cell 2 rfl, (ss1.kept0 hg).cell 3 rfl⟩)
  have hG1 := Hid.mk' hg1
  have hD : w1.grownBy w1.drew none := gd (grownBy_refl w1 none)
  clear ss1 hg1
  refine wp_region_held_drew (S := fun w' => w'.cell? ⟨SB, 0, none⟩ = some (.int .i64 1) ∧ w'.cell? ⟨SB, 1, none⟩ = some (.int .i64 0) ∧ w'.cell? ⟨SB, 2, none⟩ = some (.int .u32 0) ∧ w'.cell? ⟨SB, 3, none⟩ = some (.int .i32 0)) (by kernel_rfl) (hcl.out _ hD) (fun hHeld => ?_)
  refine wpAnyH_take (i := 0) (v := ?_) rfl (by kernel_rfl) (by kernel_rfl) (by kernel_rfl) (fun _ _ _ h => h) (Or.inl ⟨by rfl, ?_⟩) (by assumption) ?_; rotate_left
  · (intro w hSw; (try dsimp only at hSw); go_simp; try with_reducible rfl)
  try simp only [List.getElem_toArray, List.getElem_cons_zero, Act.put, List.setIfInBounds_toArray, List.set_cons_zero, List.set_cons_succ]
  refine wpAnyH_take (i := 1) (v := ?_) rfl (by kernel_rfl) (by kernel_rfl) (by kernel_rfl) (fun _ _ _ h => h) (Or.inl ⟨by rfl, ?_⟩) (by assumption) ?_; rotate_left
  · (intro w hSw; (try dsimp only at hSw); go_simp; try with_reducible rfl)
  try simp only [List.getElem_toArray, List.getElem_cons_zero, List.getElem_cons_succ, Act.put, List.setIfInBounds_toArray, List.set_cons_zero, List.set_cons_succ]
  refine wpAnyH_take (i := 2) (v := ?_) rfl (by kernel_rfl) (by kernel_rfl) (by kernel_rfl) (fun _ _ _ h => h) (Or.inl ⟨by rfl, ?_⟩) (by assumption) ?_; rotate_left
  · (intro w hSw; (try dsimp only at hSw); go_simp; try with_reducible rfl)
  try simp only [List.getElem_toArray, List.getElem_cons_zero, List.getElem_cons_succ, Act.put, List.setIfInBounds_toArray, List.set_cons_zero, List.set_cons_succ]
  refine wpAnyH_take (i := 3) (v := ?_) rfl (by kernel_rfl) (by kernel_rfl) (by kernel_rfl) (fun _ _ _ h => h) (Or.inl ⟨by rfl, ?_⟩) (by assumption) ?_; rotate_left
  · (intro w hSw; (try dsimp only at hSw); go_simp; try with_reducible rfl)
  try simp only [List.getElem_toArray, List.getElem_cons_zero, List.getElem_cons_succ, Act.put, List.setIfInBounds_toArray, List.set_cons_zero, List.set_cons_succ]
  refine wpAnyH_take (i := 4) (v := ?_) rfl (by kernel_rfl) (by kernel_rfl) (by kernel_rfl) (fun _ _ _ h => h) (Or.inl ⟨by rfl, ?_⟩) (by assumption) ?_; rotate_left
  · (intro w hSw; (try dsimp only at hSw); go_simp; try with_reducible rfl)
  try simp only [List.getElem_toArray, List.getElem_cons_zero, List.getElem_cons_succ, Act.put, List.setIfInBounds_toArray, List.set_cons_zero, List.set_cons_succ]
  refine wpAnyH_ready (rs := [5]) (by kernel_rfl) (by simp) ?_
  refine AllReadyH.cons rfl (fun K hK => ?_) AllReadyH.nil
  go_simp
  go_at_call 14; refine (p_within _).mono ?_; rintro e w2 ⟨rfl, hg⟩; have hg2 : w1.grownBy w2 none := gt hD hg
  refine hK.out _ _ (hcl.out _ hg2) (fun hHeld => ?_)
  clear hK K
  try simp only [List.getElem_toArray, List.getElem_cons_zero, List.getElem_cons_succ, Act.put, List.setIfInBounds_toArray, List.set_cons_zero, List.set_cons_succ]
  refine wpAnyH_take (i := 6) (v := ?_) rfl (by kernel_rfl) (by kernel_rfl) (by kernel_rfl) (fun _ _ _ h => h) (Or.inl ⟨by rfl, ?_⟩) (by assumption) ?_; rotate_left
  · (intro w hSw; (try dsimp only at hSw); go_simp; try with_reducible rfl)
  try simp only [List.getElem_toArray, List.getElem_cons_zero, List.getElem_cons_succ, Act.put, List.setIfInBounds_toArray, List.set_cons_zero, List.set_cons_succ]
  refine wpAnyH_take (i := 7) (v := ?_) rfl (by kernel_rfl) (by kernel_rfl) (by kernel_rfl) (fun _ _ _ h => h) (Or.inl ⟨by rfl, ?_⟩) (by assumption) ?_; rotate_left
  · (intro w hSw; (try dsimp only at hSw); go_simp; try with_reducible rfl)
  try simp only [List.getElem_toArray, List.getElem_cons_zero, List.getElem_cons_succ, Act.put, List.setIfInBounds_toArray, List.set_cons_zero, List.set_cons_succ]
  refine wpAnyH_take (i := 8) (v := ?_) rfl (by kernel_rfl) (by kernel_rfl) (by kernel_rfl) (fun _ _ _ h => h) (Or.inl ⟨by rfl, ?_⟩) (by assumption) ?_; rotate_left
  · (intro w hSw; (try dsimp only at hSw); go_simp; try with_reducible rfl)
  try simp only [List.getElem_toArray, List.getElem_cons_zero, List.getElem_cons_succ, Act.put, List.setIfInBounds_toArray, List.set_cons_zero, List.set_cons_succ]
  refine wpAnyH_done (by kernel_rfl) ?_ _
  go_wp2
  go_ret
  exact ⟨rfl, (gt hG1.out hg2)⟩
set_option maxRecDepth 100000 in
set_option maxHeartbeats 1000000 in
theorem pf_b0 (bi ac he : Int) (h0 : ¬ bi = 0) (w : World) : Calls Try.prog 8 #[stV 0 bi ac he] w fun e w' => e = .returned (.bool false) ∧ w.grownBy w' none := by
  have h0b0 : (bi == 0) = false := by simpa using h0
  go_enter Try.func8, Try.ntmps8
  go_upto_region 1 with (refine wpList_boxC _ rfl 24 _ rfl (sC 0 bi ac he) rfl ?_; intro w1 ss1 hg1)
  obtain ⟨SB, hSB⟩ : ∃ SB, Hid (w.heap.size = SB) := ⟨_, Hid.mk' rfl⟩
  rw [hSB.out] at ss1
  rw [hSB.out]
  have hcl : Hid (∀ wx, w1.grownBy wx none → (fun w' => w'.cell? ⟨SB, 0, none⟩ = some (.int .i64 0) ∧ w'.cell? ⟨SB, 1, none⟩ = some (.int .i64 bi) ∧ w'.cell? ⟨SB, 2, none⟩ = some (.int .u32 ac) ∧ w'.cell? ⟨SB, 3, none⟩ = some (.int .i32 he)) wx) := Hid.mk' (fun wx hg => ⟨(ss1.kept0 hg).cell 0 rfl, (ss1.kept0 hg).cell 1 rfl, (ss1.kept0 hg).cell 2 rfl, (ss1.kept0 hg).cell 3 rfl⟩)
  have hG1 := Hid.mk' hg1
  have hD : w1.grownBy w1.drew none := gd (grownBy_refl w1 none)
  clear ss1 hg1
  refine wp_region_held_drew (S := fun w' => w'.cell? ⟨SB, 0, none⟩ = some (.int .i64 0) ∧ w'.cell? ⟨SB, 1, none⟩ = some (.int .i64 bi) ∧ w'.cell? ⟨SB, 2, none⟩ = some (.int .u32 ac) ∧ w'.cell? ⟨SB, 3, none⟩ = some (.int .i32 he)) (by kernel_rfl) (hcl.out _ hD) (fun hHeld => ?_)
  refine wpAnyH_take (i := 0) (v := ?_) rfl (by kernel_rfl) (by kernel_rfl) (by kernel_rfl) (fun _ _ _ h => h) (Or.inl ⟨by rfl, ?_⟩) (by assumption) ?_; rotate_left
  · (intro w hSw; (try dsimp only at hSw); go_simp; try with_reducible rfl)
  try simp only [List.getElem_toArray, List.getElem_cons_zero, Act.put, List.setIfInBounds_toArray, List.set_cons_zero, List.set_cons_succ]
  refine wpAnyH_take (i := 1) (v := ?_) rfl (by kernel_rfl) (by kernel_rfl) (by kernel_rfl) (fun _ _ _ h => h) (Or.inl ⟨by rfl, ?_⟩) (by assumption) ?_; rotate_left
  · (intro w hSw; (try dsimp only at hSw); go_simp; try with_reducible rfl)
  try simp only [List.getElem_toArray, List.getElem_cons_zero, List.getElem_cons_succ, Act.put, List.setIfInBounds_toArray, List.set_cons_zero, List.set_cons_succ]
  refine wpAnyH_take (i := 2) (v := ?_) rfl (by kernel_rfl) (by kernel_rfl) (by kernel_rfl) (fun _ _ _ h => h) (Or.inl ⟨by rfl, ?_⟩) (by assumption) ?_; rotate_left
  · (intro w hSw; (try dsimp only at hSw); go_simp; try with_reducible rfl)
  try simp only [List.getElem_toArray, List.getElem_cons_zero, List.getElem_cons_succ, Act.put, List.setIfInBounds_toArray, List.set_cons_zero, List.set_cons_succ]
  refine wpAnyH_take (i := 3) (v := ?_) rfl (by kernel_rfl) (by kernel_rfl) (by kernel_rfl) (fun _ _ _ h => h) (Or.inl ⟨by rfl, ?_⟩) (by assumption) ?_; rotate_left
  · (intro w hSw; (try dsimp only at hSw); go_simp; try with_reducible rfl)
  try simp only [List.getElem_toArray, List.getElem_cons_zero, List.getElem_cons_succ, Act.put, List.setIfInBounds_toArray, List.set_cons_zero, List.set_cons_succ]
  refine wpAnyH_take (i := 4) (v := ?_) rfl (by kernel_rfl) (by kernel_rfl) (by kernel_rfl) (fun _ _ _ h => h) (Or.inl ⟨by rfl, ?_⟩) (by assumption) ?_; rotate_left
  · (intro w hSw; (try dsimp only at hSw); go_simp; try with_reducible rfl)
  try simp only [List.getElem_toArray, List.getElem_cons_zero, List.getElem_cons_succ, Act.put, List.setIfInBounds_toArray, List.set_cons_zero, List.set_cons_succ]
  refine wpAnyH_ready (rs := [5]) (by kernel_rfl) (by simp) ?_
  refine AllReadyH.cons rfl (fun K hK => ?_) AllReadyH.nil
  go_simp
  go_at_call 14; refine (p_within _).mono ?_; rintro e w2 ⟨rfl, hg⟩; have hg2 : w1.grownBy w2 none := gt hD hg
  refine hK.out _ _ (hcl.out _ hg2) (fun hHeld => ?_)
  clear hK K
  try simp only [List.getElem_toArray, List.getElem_cons_zero, List.getElem_cons_succ, Act.put, List.setIfInBounds_toArray, List.set_cons_zero, List.set_cons_succ]
  refine wpAnyH_take (i := 6) (v := ?_) rfl (by kernel_rfl) (by kernel_rfl) (by kernel_rfl) (fun _ _ _ h => h) (Or.inl ⟨by rfl, ?_⟩) (by assumption) ?_; rotate_left
  · (intro w hSw; (try dsimp only at hSw); go_simp; try with_reducible rfl)
  try simp only [List.getElem_toArray, List.getElem_cons_zero, List.getElem_cons_succ, Act.put, List.setIfInBounds_toArray, List.set_cons_zero, List.set_cons_succ]
  refine wpAnyH_take (i := 7) (v := ?_) rfl (by kernel_rfl) (by kernel_rfl) (by kernel_rfl) (fun _ _ _ h => h) (Or.inl ⟨by rfl, ?_⟩) (by assumption) ?_; rotate_left
  · (intro w hSw; (try dsimp only at hSw); go_simp; try with_reducible rfl)
  try simp only [List.getElem_toArray, List.getElem_cons_zero, List.getElem_cons_succ, Act.put, List.setIfInBounds_toArray, List.set_cons_zero, List.set_cons_succ]
  refine wpAnyH_take (i := 8) (v := ?_) rfl (by kernel_rfl) (by kernel_rfl) (by kernel_rfl) (fun _ _ _ h => h) (Or.inl ⟨by rfl, ?_⟩) (by assumption) ?_; rotate_left
  · (intro w hSw; (try dsimp only at hSw); go_simp; try with_reducible rfl)
  try simp only [List.getElem_toArray, List.getElem_cons_zero, List.getElem_cons_succ, Act.put, List.setIfInBounds_toArray, List.set_cons_zero, List.set_cons_succ]
  refine wpAnyH_done (by kernel_rfl) ?_ _
  go_wp2
  go_ret
  exact ⟨rfl, (gt hG1.out hg2)⟩
set_option maxRecDepth 100000 in
set_option maxHeartbeats 1000000 in
theorem pf_b1 (bi ac he : Int) (h0 : ¬ bi = 0) (w : World) : Calls Try.prog 8 #[stV 1 bi ac he] w fun e w' => e = .returned (.bool false) ∧ w.grownBy w' none := by
  have h0b0 : (bi == 0) = false := by simpa using h0
  go_enter Try.func8, Try.ntmps8
  go_upto_region 1 with (refine wpList_boxC _ rfl 24 _ rfl (sC 1 bi ac he) rfl ?_; intro w1 ss1 hg1)
  obtain ⟨SB, hSB⟩ : ∃ SB, Hid (w.heap.size = SB) := ⟨_, Hid.mk' rfl⟩
  rw [hSB.out] at ss1
  rw [hSB.out]
  have hcl : Hid (∀ wx, w1.grownBy wx none → (fun w' => w'.cell? ⟨SB, 0, none⟩ = some (.int .i64 1) ∧ w'.cell? ⟨SB, 1, none⟩ = some (.int .i64 bi) ∧ w'.cell? ⟨SB, 2, none⟩ = some (.int .u32 ac) ∧ w'.cell? ⟨SB, 3, none⟩ = some (.int .i32 he)) wx) := Hid.mk' (fun wx hg => ⟨(ss1.kept0 hg).cell 0 rfl, (ss1.kept0 hg).cell 1 rfl, (ss1.kept0 hg).cell 2 rfl, (ss1.kept0 hg).cell 3 rfl⟩)
  have hG1 := Hid.mk' hg1
  have hD : w1.grownBy w1.drew none := gd (grownBy_refl w1 none)
  clear ss1 hg1
  refine wp_region_held_drew (S := fun w' => w'.cell? ⟨SB, 0, none⟩ = some (.int .i64 1) ∧ w'.cell? ⟨SB, 1, none⟩ = some (.int .i64 bi) ∧ w'.cell? ⟨SB, 2, none⟩ = some (.int .u32 ac) ∧ w'.cell? ⟨SB, 3, none⟩ = some (.int .i32 he)) (by kernel_rfl) (hcl.out _ hD) (fun hHeld => ?_)
  refine wpAnyH_take (i := 0) (v := ?_) rfl (by kernel_rfl) (by kernel_rfl) (by kernel_rfl) (fun _ _ _ h => h) (Or.inl ⟨by rfl, ?_⟩) (by assumption) ?_; rotate_left
  · (intro w hSw; (try dsimp only at hSw); go_simp; try with_reducible rfl)
  try simp only [List.getElem_toArray, List.getElem_cons_zero, Act.put, List.setIfInBounds_toArray, List.set_cons_zero, List.set_cons_succ]
  refine wpAnyH_take (i := 1) (v := ?_) rfl (by kernel_rfl) (by kernel_rfl) (by kernel_rfl) (fun _ _ _ h => h) (Or.inl ⟨by rfl, ?_⟩) (by assumption) ?_; rotate_left
  · (intro w hSw; (try dsimp only at hSw); go_simp; try with_reducible rfl)
  try simp only [List.getElem_toArray, List.getElem_cons_zero, List.getElem_cons_succ, Act.put, List.setIfInBounds_toArray, List.set_cons_zero, List.set_cons_succ]
  refine wpAnyH_take (i := 2) (v := ?_) rfl (by kernel_rfl) (by kernel_rfl) (by kernel_rfl) (fun _ _ _ h => h) (Or.inl ⟨by rfl, ?_⟩) (by assumption) ?_; rotate_left
  · (intro w hSw; (try dsimp only at hSw); go_simp; try with_reducible rfl)
  try simp only [List.getElem_toArray, List.getElem_cons_zero, List.getElem_cons_succ, Act.put, List.setIfInBounds_toArray, List.set_cons_zero, List.set_cons_succ]
  refine wpAnyH_take (i := 3) (v := ?_) rfl (by kernel_rfl) (by kernel_rfl) (by kernel_rfl) (fun _ _ _ h => h) (Or.inl ⟨by rfl, ?_⟩) (by assumption) ?_; rotate_left
  · (intro w hSw; (try dsimp only at hSw); go_simp; try with_reducible rfl)
  try simp only [List.getElem_toArray, List.getElem_cons_zero, List.getElem_cons_succ, Act.put, List.setIfInBounds_toArray, List.set_cons_zero, List.set_cons_succ]
  refine wpAnyH_take (i := 4) (v := ?_) rfl (by kernel_rfl) (by kernel_rfl) (by kernel_rfl) (fun _ _ _ h => h) (Or.inl ⟨by rfl, ?_⟩) (by assumption) ?_; rotate_left
  · (intro w hSw; (try dsimp only at hSw); go_simp; try with_reducible rfl)
  try simp only [List.getElem_toArray, List.getElem_cons_zero, List.getElem_cons_succ, Act.put, List.setIfInBounds_toArray, List.set_cons_zero, List.set_cons_succ]
  refine wpAnyH_ready (rs := [5]) (by kernel_rfl) (by simp) ?_
  refine AllReadyH.cons rfl (fun K hK => ?_) AllReadyH.nil
  go_simp
  go_at_call 14; refine (p_within _).mono ?_; rintro e w2 ⟨rfl, hg⟩; have hg2 : w1.grownBy w2 none := gt hD hg
  refine hK.out _ _ (hcl.out _ hg2) (fun hHeld => ?_)
  clear hK K
  try simp only [List.getElem_toArray, List.getElem_cons_zero, List.getElem_cons_succ, Act.put, List.setIfInBounds_toArray, List.set_cons_zero, List.set_cons_succ]
  refine wpAnyH_take (i := 6) (v := ?_) rfl (by kernel_rfl) (by kernel_rfl) (by kernel_rfl) (fun _ _ _ h => h) (Or.inl ⟨by rfl, ?_⟩) (by assumption) ?_; rotate_left
  · (intro w hSw; (try dsimp only at hSw); go_simp; try with_reducible rfl)
  try simp only [List.getElem_toArray, List.getElem_cons_zero, List.getElem_cons_succ, Act.put, List.setIfInBounds_toArray, List.set_cons_zero, List.set_cons_succ]
  refine wpAnyH_take (i := 7) (v := ?_) rfl (by kernel_rfl) (by kernel_rfl) (by kernel_rfl) (fun _ _ _ h => h) (Or.inl ⟨by rfl, ?_⟩) (by assumption) ?_; rotate_left
  · (intro w hSw; (try dsimp only at hSw); go_simp; try with_reducible rfl)
  try simp only [List.getElem_toArray, List.getElem_cons_zero, List.getElem_cons_succ, Act.put, List.setIfInBounds_toArray, List.set_cons_zero, List.set_cons_succ]
  refine wpAnyH_take (i := 8) (v := ?_) rfl (by kernel_rfl) (by kernel_rfl) (by kernel_rfl) (fun _ _ _ h => h) (Or.inl ⟨by rfl, ?_⟩) (by assumption) ?_; rotate_left
  · (intro w hSw; (try dsimp only at hSw); go_simp; try with_reducible rfl)
  try simp only [List.getElem_toArray, List.getElem_cons_zero, List.getElem_cons_succ, Act.put, List.setIfInBounds_toArray, List.set_cons_zero, List.set_cons_succ]
  refine wpAnyH_done (by kernel_rfl) ?_ _
  go_wp2
  go_ret
  exact ⟨rfl, (gt hG1.out hg2)⟩
set_option maxRecDepth 100000 in
set_option maxHeartbeats 1000000 in
theorem pf_a0 (ac he : Int) (h0 : ¬ ac = 0) (w : World) : Calls Try.prog 8 #[stV 0 0 ac he] w fun e w' => e = .returned (.bool false) ∧ w.grownBy w' none := by
  have h0b0 : (ac == 0) = false := by simpa using h0
  go_enter Try.func8, Try.ntmps8
  go_upto_region 1 with (refine wpList_boxC _ rfl 24 _ rfl (sC 0 0 ac he) rfl ?_; intro w1 ss1 hg1)
  obtain ⟨SB, hSB⟩ : ∃ SB, Hid (w.heap.size = SB) := ⟨_, Hid.mk' rfl⟩
  rw [hSB.out] at ss1
  rw [hSB.out]
  have hcl : Hid (∀ wx, w1.grownBy wx none → (fun w' => w'.cell? ⟨SB, 0, none⟩ = some (.int .i64 0) ∧ w'.cell? ⟨SB, 1, none⟩ = some (.int .i64 0) ∧ w'.cell? ⟨SB, 2, none⟩ = some (.int .u32 ac) ∧ w'.cell? ⟨SB, 3, none⟩ = some (.int .i32 he)) wx) := Hid.mk' (fun wx hg => ⟨(ss1.kept0 hg).cell 0 rfl, (ss1.kept0 hg).cell 1 rfl, (ss1.kept0 hg).cell 2 rfl, (ss1.kept0 hg).cell 3 rfl⟩)
  have hG1 := Hid.mk' hg1
  have hD : w1.grownBy w1.drew none := gd (grownBy_refl w1 none)
  clear ss1 hg1
  refine wp_region_held_drew (S := fun w' => w'.cell? ⟨SB, 0, none⟩ = some (.int .i64 0) ∧ w'.cell? ⟨SB, 1, none⟩ = some (.int .i64 0) ∧ w'.cell? ⟨SB, 2, none⟩ = some (.int .u32 ac) ∧ w'.cell? ⟨SB, 3, none⟩ = some (.int .i32 he)) (by kernel_rfl) (hcl.out _ hD) (fun hHeld => ?_)
  refine wpAnyH_take (i := 0) (v := ?_) rfl (by kernel_rfl) (by kernel_rfl) (by kernel_rfl) (fun _ _ _ h => h) (Or.inl ⟨by rfl, ?_⟩) (by assumption) ?_; rotate_left
  · (intro w hSw; (try dsimp only at hSw); go_simp; try with_reducible rfl)
  try simp only [List.getElem_toArray, List.getElem_cons_zero, Act.put, List.setIfInBounds_toArray, List.set_cons_zero, List.set_cons_succ]
  refine wpAnyH_take (i := 1) (v := ?_) rfl (by kernel_rfl) (by kernel_rfl) (by kernel_rfl) (fun _ _ _ h => h) (Or.inl ⟨by rfl, ?_⟩) (by assumption) ?_; rotate_left
  · (intro w hSw; (try dsimp only at hSw); go_simp; try with_reducible rfl)
  try simp only [List.getElem_toArray, List.getElem_cons_zero, List.getElem_cons_succ, Act.put, List.setIfInBounds_toArray, List.set_cons_zero, List.set_cons_succ]
  refine wpAnyH_take (i := 2) (v := ?_) rfl (by kernel_rfl) (by kernel_rfl) (by kernel_rfl) (fun _ _ _ h => h) (Or.inl ⟨by rfl, ?_⟩) (by assumption) ?_; rotate_left
  · (intro w hSw; (try dsimp only at hSw); go_simp; try with_reducible rfl)
  try simp only [List.getElem_toArray, List.getElem_cons_zero, List.getElem_cons_succ, Act.put, List.setIfInBounds_toArray, List.set_cons_zero, List.set_cons_succ]
  refine wpAnyH_take (i := 3) (v := ?_) rfl (by kernel_rfl) (by kernel_rfl) (by kernel_rfl) (fun _ _ _ h => h) (Or.inl ⟨by rfl, ?_⟩) (by assumption) ?_; rotate_left
  · (intro w hSw; (try dsimp only at hSw); go_simp; try with_reducible rfl)
  try simp only [List.getElem_toArray, List.getElem_cons_zero, List.getElem_cons_succ, Act.put, List.setIfInBounds_toArray, List.set_cons_zero, List.set_cons_succ]
  refine wpAnyH_take (i := 4) (v := ?_) rfl (by kernel_rfl) (by kernel_rfl) (by kernel_rfl) (fun _ _ _ h => h) (Or.inl ⟨by rfl, ?_⟩) (by assumption) ?_; rotate_left
  · (intro w hSw; (try dsimp only at hSw); go_simp; try with_reducible rfl)
  try simp only [List.getElem_toArray, List.getElem_cons_zero, List.getElem_cons_succ, Act.put, List.setIfInBounds_toArray, List.set_cons_zero, List.set_cons_succ]
  refine wpAnyH_ready (rs := [5]) (by kernel_rfl) (by simp) ?_
  refine AllReadyH.cons rfl (fun K hK => ?_) AllReadyH.nil
  go_simp
  go_at_call 14; refine (p_within _).mono ?_; rintro e w2 ⟨rfl, hg⟩; have hg2 : w1.grownBy w2 none := gt hD hg
  refine hK.out _ _ (hcl.out _ hg2) (fun hHeld => ?_)
  clear hK K
  try simp only [List.getElem_toArray, List.getElem_cons_zero, List.getElem_cons_succ, Act.put, List.setIfInBounds_toArray, List.set_cons_zero, List.set_cons_succ]
  refine wpAnyH_take (i := 6) (v := ?_) rfl (by kernel_rfl) (by kernel_rfl) (by kernel_rfl) (fun _ _ _ h => h) (Or.inl ⟨by rfl, ?_⟩) (by assumption) ?_; rotate_left
  · (intro w hSw; (try dsimp only at hSw); go_simp; try with_reducible rfl)
  try simp only [List.getElem_toArray, List.getElem_cons_zero, List.getElem_cons_succ, Act.put, List.setIfInBounds_toArray, List.set_cons_zero, List.set_cons_succ]
  refine wpAnyH_take (i := 7) (v := ?_) rfl (by kernel_rfl) (by kernel_rfl) (by kernel_rfl) (fun _ _ _ h => h) (Or.inl ⟨by rfl, ?_⟩) (by assumption) ?_; rotate_left
  · (intro w hSw; (try dsimp only at hSw); go_simp; try with_reducible rfl)
  try simp only [List.getElem_toArray, List.getElem_cons_zero, List.getElem_cons_succ, Act.put, List.setIfInBounds_toArray, List.set_cons_zero, List.set_cons_succ]
  refine wpAnyH_take (i := 8) (v := ?_) rfl (by kernel_rfl) (by kernel_rfl) (by kernel_rfl) (fun _ _ _ h => h) (Or.inl ⟨by rfl, ?_⟩) (by assumption) ?_; rotate_left
  · (intro w hSw; (try dsimp only at hSw); go_simp; try with_reducible rfl)
  try simp only [List.getElem_toArray, List.getElem_cons_zero, List.getElem_cons_succ, Act.put, List.setIfInBounds_toArray, List.set_cons_zero, List.set_cons_succ]
  refine wpAnyH_done (by kernel_rfl) ?_ _
  go_wp2
  go_ret
  exact ⟨rfl, (gt hG1.out hg2)⟩
set_option maxRecDepth 100000 in
set_option maxHeartbeats 1000000 in
theorem pf_a1 (ac he : Int) (h0 : ¬ ac = 0) (w : World) : Calls Try.prog 8 #[stV 1 0 ac he] w fun e w' => e = .returned (.bool false) ∧ w.grownBy w' none := by
  have h0b0 : (ac == 0) = false := by simpa using h0
  go_enter Try.func8, Try.ntmps8
  go_upto_region 1 with (refine wpList_boxC _ rfl 24 _ rfl (sC 1 0 ac he) rfl ?_; intro w1 ss1 hg1)
  obtain ⟨SB, hSB⟩ : ∃ SB, Hid (w.heap.size = SB) := ⟨_, Hid.mk' rfl⟩
  rw [hSB.out] at ss1
  rw [hSB.out]
  have hcl : Hid (∀ wx, w1.grownBy wx none → (fun w' => w'.cell? ⟨SB, 0, none⟩ = some (.int .i64 1) ∧ w'.cell? ⟨SB, 1, none⟩ = some (.int .i64 0) ∧ w'.cell? ⟨SB, 2, none⟩ = some (.int .u32 ac) ∧ w'.cell? ⟨SB, 3, none⟩ = some (.int .i32 he)) wx) := Hid.mk' (fun wx hg => ⟨(ss1.kept0 hg).cell 0 rfl, (ss1.kept0 hg).cell 1 rfl, (ss1.kept0 hg).cell 2 rfl, (ss1.kept0 hg).cell 3 rfl⟩)
  have hG1 := Hid.mk' hg1
  have hD : w1.grownBy w1.drew none := gd (grownBy_refl w1 none)
  clear ss1 hg1
  refine wp_region_held_drew (S := fun w' => w'.cell? ⟨SB, 0, none⟩ = some (.int .i64 1) ∧ w'.cell? ⟨SB, 1, none⟩ = some (.int .i64 0) ∧ w'.cell? ⟨SB, 2, none⟩ = some (.int .u32 ac) ∧ w'.cell? ⟨SB, 3, none⟩ = some (.int .i32 he)) (by kernel_rfl) (hcl.out _ hD) (fun hHeld => ?_)
  refine wpAnyH_take (i := 0) (v := ?_) rfl (by kernel_rfl) (by kernel_rfl) (by kernel_rfl) (fun _ _ _ h => h) (Or.inl ⟨by rfl, ?_⟩) (by assumption) ?_; rotate_left
  · (intro w hSw; (try dsimp only at hSw); go_simp; try with_reducible rfl)
  try simp only [List.getElem_toArray, List.getElem_cons_zero, Act.put, List.setIfInBounds_toArray, List.set_cons_zero, List.set_cons_succ]
  refine wpAnyH_take (i := 1) (v := ?_) rfl (by kernel_rfl) (by kernel_rfl) (by kernel_rfl) (fun _ _ _ h => h) (Or.inl ⟨by rfl, ?_⟩) (by assumption) ?_; rotate_left
  · (intro w hSw; (try dsimp only at hSw); go_simp; try with_reducible rfl)
  try simp only [List.getElem_toArray, List.getElem_cons_zero, List.getElem_cons_succ, Act.put, List.setIfInBounds_toArray, List.set_cons_zero, List.set_cons_succ]
  refine wpAnyH_take (i := 2) (v := ?_) rfl (by kernel_rfl) (by kernel_rfl) (by kernel_rfl) (fun _ _ _ h => h) (Or.inl ⟨by rfl, ?_⟩) (by assumption) ?_; rotate_left
  · (intro w hSw; (try dsimp only at hSw); go_simp; try with_reducible rfl)
  try simp only [List.getElem_toArray, List.getElem_cons_zero, List.getElem_cons_succ, Act.put, List.setIfInBounds_toArray, List.set_cons_zero, List.set_cons_succ]
  refine wpAnyH_take (i := 3) (v := ?_) rfl (by kernel_rfl) (by kernel_rfl) (by kernel_rfl) (fun _ _ _ h => h) (Or.inl ⟨by rfl, ?_⟩) (by assumption) ?_; rotate_left
  · (intro w hSw; (try dsimp only at hSw); go_simp; try with_reducible rfl)
  try simp only [List.getElem_toArray, List.getElem_cons_zero, List.getElem_cons_succ, Act.put, List.setIfInBounds_toArray, List.set_cons_zero, List.set_cons_succ]
  refine wpAnyH_take (i := 4) (v := ?_) rfl (by kernel_rfl) (by kernel_rfl) (by kernel_rfl) (fun _ _ _ h => h) (Or.inl ⟨by rfl, ?_⟩) (by assumption) ?_; rotate_left
  · (intro w hSw; (try dsimp only at hSw); go_simp; try with_reducible rfl)
  try simp only [List.getElem_toArray, List.getElem_cons_zero, List.getElem_cons_succ, Act.put, List.setIfInBounds_toArray, List.set_cons_zero, List.set_cons_succ]
  refine wpAnyH_ready (rs := [5]) (by kernel_rfl) (by simp) ?_
  refine AllReadyH.cons rfl (fun K hK => ?_) AllReadyH.nil
  go_simp
  go_at_call 14; refine (p_within _).mono ?_; rintro e w2 ⟨rfl, hg⟩; have hg2 : w1.grownBy w2 none := gt hD hg
  refine hK.out _ _ (hcl.out _ hg2) (fun hHeld => ?_)
  clear hK K
  try simp only [List.getElem_toArray, List.getElem_cons_zero, List.getElem_cons_succ, Act.put, List.setIfInBounds_toArray, List.set_cons_zero, List.set_cons_succ]
  refine wpAnyH_take (i := 6) (v := ?_) rfl (by kernel_rfl) (by kernel_rfl) (by kernel_rfl) (fun _ _ _ h => h) (Or.inl ⟨by rfl, ?_⟩) (by assumption) ?_; rotate_left
  · (intro w hSw; (try dsimp only at hSw); go_simp; try with_reducible rfl)
  try simp only [List.getElem_toArray, List.getElem_cons_zero, List.getElem_cons_succ, Act.put, List.setIfInBounds_toArray, List.set_cons_zero, List.set_cons_succ]
  refine wpAnyH_take (i := 7) (v := ?_) rfl (by kernel_rfl) (by kernel_rfl) (by kernel_rfl) (fun _ _ _ h => h) (Or.inl ⟨by rfl, ?_⟩) (by assumption) ?_; rotate_left
  · (intro w hSw; (try dsimp only at hSw); go_simp; try with_reducible rfl)
  try simp only [List.getElem_toArray, List.getElem_cons_zero, List.getElem_cons_succ, Act.put, List.setIfInBounds_toArray, List.set_cons_zero, List.set_cons_succ]
  refine wpAnyH_take (i := 8) (v := ?_) rfl (by kernel_rfl) (by kernel_rfl) (by kernel_rfl) (fun _ _ _ h => h) (Or.inl ⟨by rfl, ?_⟩) (by assumption) ?_; rotate_left
  · (intro w hSw; (try dsimp only at hSw); go_simp; try with_reducible rfl)
  try simp only [List.getElem_toArray, List.getElem_cons_zero, List.getElem_cons_succ, Act.put, List.setIfInBounds_toArray, List.set_cons_zero, List.set_cons_succ]
  refine wpAnyH_done (by kernel_rfl) ?_ _
  go_wp2
  go_ret
  exact ⟨rfl, (gt hG1.out hg2)⟩
set_option maxRecDepth 100000 in
set_option maxHeartbeats 1000000 in
theorem pf_h0 (he : Int) (h0 : ¬ he = 0) (w : World) : Calls Try.prog 8 #[stV 0 0 0 he] w fun e w' => e = .returned (.bool false) ∧ w.grownBy w' none := by
  have h0b0 : (he == 0) = false := by simpa using h0
  go_enter Try.func8, Try.ntmps8
  go_upto_region 1 with (refine wpList_boxC _ rfl 24 _ rfl (sC 0 0 0 he) rfl ?_; intro w1 ss1 hg1)
  obtain ⟨SB, hSB⟩ : ∃ SB, Hid (w.heap.size = SB) := ⟨_, Hid.mk' rfl⟩
  rw [hSB.out] at ss1
  rw [hSB.out]
  have hcl : Hid (∀ wx, w1.grownBy wx none → (fun w' => w'.cell? ⟨SB, 0, none⟩ = some (.int .i64 0) ∧ w'.cell? ⟨SB, 1, none⟩ = some (.int .i64 0) ∧ w'.cell? ⟨SB, 2, none⟩ = some (.int .u32 0) ∧ w'.cell? ⟨SB, 3, none⟩ = some (.int .i32 he)) wx) := Hid.mk' (fun wx hg => ⟨(ss1.kept0 hg).cell 0 rfl, (ss1.kept0 hg).cell 1 rfl, (ss1.kept0 hg).cell 2 rfl, (ss1.kept0 hg).cell 3 rfl⟩)
  have hG1 := Hid.mk' hg1
  have hD : w1.grownBy w1.drew none := gd (grownBy_refl w1 none)
  clear ss1 hg1
  refine wp_region_held_drew (S := fun w' => w'.cell? ⟨SB, 0, none⟩ = some (.int .i64 0) ∧ w'.cell? ⟨SB, 1, none⟩ = some (.int .i64 0) ∧ w'.cell? ⟨SB, 2, none⟩ = some (.int .u32 0) ∧ w'.cell? ⟨SB, 3, none⟩ = some (.int .i32 he)) (by kernel_rfl) (hcl.out _ hD) (fun hHeld => ?_)
  refine wpAnyH_take (i := 0) (v := ?_) rfl (by kernel_rfl) (by kernel_rfl) (by kernel_rfl) (fun _ _ _ h => h) (Or.inl ⟨by rfl, ?_⟩) (by assumption) ?_; rotate_left
  · (intro w hSw; (try dsimp only at hSw); go_simp; try with_reducible rfl)
  try simp only [List.getElem_toArray, List.getElem_cons_zero, Act.put, List.setIfInBounds_toArray, List.set_cons_zero, List.set_cons_succ]
  refine wpAnyH_take (i := 1) (v := ?_) rfl (by kernel_rfl) (by kernel_rfl) (by kernel_rfl) (fun _ _ _ h => h) (Or.inl ⟨by rfl, ?_⟩) (by assumption) ?_; rotate_left
  · (intro w hSw; (try dsimp only at hSw); go_simp; try with_reducible rfl)
  try simp only [List.getElem_toArray, List.getElem_cons_zero, List.getElem_cons_succ, Act.put, List.setIfInBounds_toArray, List.set_cons_zero, List.set_cons_succ]
  refine wpAnyH_take (i := 2) (v := ?_) rfl (by kernel_rfl) (by kernel_rfl) (by kernel_rfl) (fun _ _ _ h => h) (Or.inl ⟨by rfl, ?_⟩) (by assumption) ?_; rotate_left
  · (intro w hSw; (try dsimp only at hSw); go_simp; try with_reducible rfl)
  try simp only [List.getElem_toArray, List.getElem_cons_zero, List.getElem_cons_succ, Act.put, List.setIfInBounds_toArray, List.set_cons_zero, List.set_cons_succ]
  refine wpAnyH_take (i := 3) (v := ?_) rfl (by kernel_rfl) (by kernel_rfl) (by kernel_rfl) (fun _ _ _ h => h) (Or.inl ⟨by rfl, ?_⟩) (by assumption) ?_; rotate_left
  · (intro w hSw; (try dsimp only at hSw); go_simp; try with_reducible rfl)
  try simp only [List.getElem_toArray, List.getElem_cons_zero, List.getElem_cons_succ, Act.put, List.setIfInBounds_toArray, List.set_cons_zero, List.set_cons_succ]
  refine wpAnyH_take (i := 4) (v := ?_) rfl (by kernel_rfl) (by kernel_rfl) (by kernel_rfl) (fun _ _ _ h => h) (Or.inl ⟨by rfl, ?_⟩) (by assumption) ?_; rotate_left
  · (intro w hSw; (try dsimp only at hSw); go_simp; try with_reducible rfl)
  try simp only [List.getElem_toArray, List.getElem_cons_zero, List.getElem_cons_succ, Act.put, List.setIfInBounds_toArray, List.set_cons_zero, List.set_cons_succ]
  refine wpAnyH_ready (rs := [5]) (by kernel_rfl) (by simp) ?_
  refine AllReadyH.cons rfl (fun K hK => ?_) AllReadyH.nil
  go_simp
  go_at_call 14; refine (p_within _).mono ?_; rintro e w2 ⟨rfl, hg⟩; have hg2 : w1.grownBy w2 none := gt hD hg
  refine hK.out _ _ (hcl.out _ hg2) (fun hHeld => ?_)
  clear hK K
  try simp only [List.getElem_toArray, List.getElem_cons_zero, List.getElem_cons_succ, Act.put, List.setIfInBounds_toArray, List.set_cons_zero, List.set_cons_succ]
  refine wpAnyH_take (i := 6) (v := ?_) rfl (by kernel_rfl) (by kernel_rfl) (by kernel_rfl) (fun _ _ _ h => h) (Or.inl ⟨by rfl, ?_⟩) (by assumption) ?_; rotate_left
  · (intro w hSw; (try dsimp only at hSw); go_simp; try with_reducible rfl)
  try simp only [List.getElem_toArray, List.getElem_cons_zero, List.getElem_cons_succ, Act.put, List.setIfInBounds_toArray, List.set_cons_zero, List.set_cons_succ]
  refine wpAnyH_take (i := 7) (v := ?_) rfl (by kernel_rfl) (by kernel_rfl) (by kernel_rfl) (fun _ _ _ h => h) (Or.inl ⟨by rfl, ?_⟩) (by assumption) ?_; rotate_left
  · (intro w hSw; (try dsimp only at hSw); go_simp; try with_reducible rfl)
  try simp only [List.getElem_toArray, List.getElem_cons_zero, List.getElem_cons_succ, Act.put, List.setIfInBounds_toArray, List.set_cons_zero, List.set_cons_succ]
  refine wpAnyH_take (i := 8) (v := ?_) rfl (by kernel_rfl) (by kernel_rfl) (by kernel_rfl) (fun _ _ _ h => h) (Or.inl ⟨by rfl, ?_⟩) (by assumption) ?_; rotate_left
  · (intro w hSw; (try dsimp only at hSw); go_simp; try with_reducible rfl)
  try simp only [List.getElem_toArray, List.getElem_cons_zero, List.getElem_cons_succ, Act.put, List.setIfInBounds_toArray, List.set_cons_zero, List.set_cons_succ]
  refine wpAnyH_done (by kernel_rfl) ?_ _
  go_wp2
  go_ret
  exact ⟨rfl, (gt hG1.out hg2)⟩
set_option maxRecDepth 100000 in
set_option maxHeartbeats 1000000 in
theorem pf_h1 (he : Int) (h0 : ¬ he = 0) (w : World) : Calls Try.prog 8 #[stV 1 0 0 he] w fun e w' => e = .returned (.bool false) ∧ w.grownBy w' none := by
  have h0b0 : (he == 0) = false := by simpa using h0
  go_enter Try.func8, Try.ntmps8
  go_upto_region 1 with (refine wpList_boxC _ rfl 24 _ rfl (sC 1 0 0 he) rfl ?_; intro w1 ss1 hg1)
  obtain ⟨SB, hSB⟩ : ∃ SB, Hid (w.heap.size = SB) := ⟨_, Hid.mk' rfl⟩
  rw [hSB.out] at ss1
  rw [hSB.out]
  have hcl : Hid (∀ wx, w1.grownBy wx none → (fun w' => w'.cell? ⟨SB, 0, none⟩ = some (.int .i64 1) ∧ w'.cell? ⟨SB, 1, none⟩ = some (.int .i64 0) ∧ w'.cell? ⟨SB, 2, none⟩ = some (.int .u32 0) ∧ w'.cell? ⟨SB, 3, none⟩ = some (.int .i32 he)) wx) := Hid.mk' (fun wx hg => ⟨(ss1.kept0 hg).cell 0 rfl, (ss1.kept0 hg).cell 1 rfl, (ss1.kept0 hg).cell 2 rfl, (ss1.kept0 hg).cell 3 rfl⟩)
  have hG1 := Hid.mk' hg1
  have hD : w1.grownBy w1.drew none := gd (grownBy_refl w1 none)
  clear ss1 hg1
  refine wp_region_held_drew (S := fun w' => w'.cell? ⟨SB, 0, none⟩ = some (.int .i64 1) ∧ w'.cell? ⟨SB, 1, none⟩ = some (.int .i64 0) ∧ w'.cell? ⟨SB, 2, none⟩ = some (.int .u32 0) ∧ w'.cell? ⟨SB, 3, none⟩ = some (.int .i32 he)) (by kernel_rfl) (hcl.out _ hD) (fun hHeld => ?_)
  refine wpAnyH_take (i := 0) (v := ?_) rfl (by kernel_rfl) (by kernel_rfl) (by kernel_rfl) (fun _ _ _ h => h) (Or.inl ⟨by rfl, ?_⟩) (by assumption) ?_; rotate_left
  · (intro w hSw; (try dsimp only at hSw); go_simp; try with_reducible rfl)
  try simp only [List.getElem_toArray, List.getElem_cons_zero, Act.put, List.setIfInBounds_toArray, List.set_cons_zero, List.set_cons_succ]
  refine wpAnyH_take (i := 1) (v := ?_) rfl (by kernel_rfl) (by kernel_rfl) (by kernel_rfl) (fun _ _ _ h => h) (Or.inl ⟨by rfl, ?_⟩) (by assumption) ?_; rotate_left
  · (intro w hSw; (try dsimp only at hSw); go_simp; try with_reducible rfl)
  try simp only [List.getElem_toArray, List.getElem_cons_zero, List.getElem_cons_succ, Act.put, List.setIfInBounds_toArray, List.set_cons_zero, List.set_cons_succ]
  refine wpAnyH_take (i := 2) (v := ?_) rfl (by kernel_rfl) (by kernel_rfl) (by kernel_rfl) (fun _ _ _ h => h) (Or.inl ⟨by rfl, ?_⟩) (by assumption) ?_; rotate_left
  · (intro w hSw; (try dsimp only at hSw); go_simp; try with_reducible rfl)
  try simp only [List.getElem_toArray, List.getElem_cons_zero, List.getElem_cons_succ, Act.put, List.setIfInBounds_toArray, List.set_cons_zero, List.set_cons_succ]
  refine wpAnyH_take (i := 3) (v := ?_) rfl (by kernel_rfl) (by kernel_rfl) (by kernel_rfl) (fun _ _ _ h => h) (Or.inl ⟨by rfl, ?_⟩) (by assumption) ?_; rotate_left
  · (intro w hSw; (try dsimp only at hSw); go_simp; try with_reducible rfl)
  try simp only [List.getElem_toArray, List.getElem_cons_zero, List.getElem_cons_succ, Act.put, List.setIfInBounds_toArray, List.set_cons_zero, List.set_cons_succ]
  refine wpAnyH_take (i := 4) (v := ?_) rfl (by kernel_rfl) (by kernel_rfl) (by kernel_rfl) (fun _ _ _ h => h) (Or.inl ⟨by rfl, ?_⟩) (by assumption) ?_; rotate_left
  · (intro w hSw; (try dsimp only at hSw); go_simp; try with_reducible rfl)
  try simp only [List.getElem_toArray, List.getElem_cons_zero, List.getElem_cons_succ, Act.put, List.setIfInBounds_toArray, List.set_cons_zero, List.set_cons_succ]
  refine wpAnyH_ready (rs := [5]) (by kernel_rfl) (by simp) ?_
  refine AllReadyH.cons rfl (fun K hK => ?_) AllReadyH.nil
  go_simp
  go_at_call 14; refine (p_within _).mono ?_; rintro e w2 ⟨rfl, hg⟩; have hg2 : w1.grownBy w2 none := gt hD hg
  refine hK.out _ _ (hcl.out _ hg2) (fun hHeld => ?_)
  clear hK K
  try simp only [List.getElem_toArray, List.getElem_cons_zero, List.getElem_cons_succ, Act.put, List.setIfInBounds_toArray, List.set_cons_zero, List.set_cons_succ]
  refine wpAnyH_take (i := 6) (v := ?_) rfl (by kernel_rfl) (by kernel_rfl) (by kernel_rfl) (fun _ _ _ h => h) (Or.inl ⟨by rfl, ?_⟩) (by assumption) ?_; rotate_left
  · (intro w hSw; (try dsimp only at hSw); go_simp; try with_reducible rfl)
  try simp only [List.getElem_toArray, List.getElem_cons_zero, List.getElem_cons_succ, Act.put, List.setIfInBounds_toArray, List.set_cons_zero, List.set_cons_succ]
  refine wpAnyH_take (i := 7) (v := ?_) rfl (by kernel_rfl) (by kernel_rfl) (by kernel_rfl) (fun _ _ _ h => h) (Or.inl ⟨by rfl, ?_⟩) (by assumption) ?_; rotate_left
  · (intro w hSw; (try dsimp only at hSw); go_simp; try with_reducible rfl)
  try simp only [List.getElem_toArray, List.getElem_cons_zero, List.getElem_cons_succ, Act.put, List.setIfInBounds_toArray, List.set_cons_zero, List.set_cons_succ]
  refine wpAnyH_take (i := 8) (v := ?_) rfl (by kernel_rfl) (by kernel_rfl) (by kernel_rfl) (fun _ _ _ h => h) (Or.inl ⟨by rfl, ?_⟩) (by assumption) ?_; rotate_left
  · (intro w hSw; (try dsimp only at hSw); go_simp; try with_reducible rfl)
  try simp only [List.getElem_toArray, List.getElem_cons_zero, List.getElem_cons_succ, Act.put, List.setIfInBounds_toArray, List.set_cons_zero, List.set_cons_succ]
  refine wpAnyH_done (by kernel_rfl) ?_ _
  go_wp2
  go_ret
  exact ⟨rfl, (gt hG1.out hg2)⟩
set_option maxRecDepth 100000 in
set_option maxHeartbeats 1000000 in
theorem pf_n (md bi ac he : Int) (h0 : ¬ md = 0) (h1 : ¬ md = 1) (w : World) : Calls Try.prog 8 #[stV md bi ac he] w fun e w' => e = .returned (.bool false) ∧ w.grownBy w' none := by
  have h0b0 : (md == 0) = false := by simpa using h0
  have h1b1 : (md == 1) = false := by simpa using h1
  go_enter Try.func8, Try.ntmps8
  go_upto_region 1 with (refine wpList_boxC _ rfl 24 _ rfl (sC md bi ac he) rfl ?_; intro w1 ss1 hg1)
  obtain ⟨SB, hSB⟩ : ∃ SB, Hid (w.heap.size = SB) := ⟨_, Hid.mk' rfl⟩
  rw [hSB.out] at ss1
  rw [hSB.out]
  have hcl : Hid (∀ wx, w1.grownBy wx none → (fun w' => w'.cell? ⟨SB, 0, none⟩ = some (.int .i64 md) ∧ w'.cell? ⟨SB, 1, none⟩ = some (.int .i64 bi) ∧ w'.cell? ⟨SB, 2, none⟩ = some (.int .u32 ac) ∧ w'.cell? ⟨SB, 3, none⟩ = some (.int .i32 he)) wx) := Hid.mk' (fun wx hg => ⟨(ss1.kept0 hg).cell 0 rfl, (ss1.kept0 hg).cell 1 rfl, (ss1.kept0 hg).cell 2 rfl, (ss1.kept0 hg).cell 3 rfl⟩)
  have hG1 := Hid.mk' hg1
  have hD : w1.grownBy w1.drew none := gd (grownBy_refl w1 none)
  clear ss1 hg1
  refine wp_region_held_drew (S := fun w' => w'.cell? ⟨SB, 0, none⟩ = some (.int .i64 md) ∧ w'.cell? ⟨SB, 1, none⟩ = some (.int .i64 bi) ∧ w'.cell? ⟨SB, 2, none⟩ = some (.int .u32 ac) ∧ w'.cell? ⟨SB, 3, none⟩ = some (.int .i32 he)) (by kernel_rfl) (hcl.out _ hD) (fun hHeld => ?_)
  refine wpAnyH_take (i := 0) (v := ?_) rfl (by kernel_rfl) (by kernel_rfl) (by kernel_rfl) (fun _ _ _ h => h) (Or.inl ⟨by rfl, ?_⟩) (by assumption) ?_; rotate_left
  · (intro w hSw; (try dsimp only at hSw); go_simp; try with_reducible rfl)
  try simp only [List.getElem_toArray, List.getElem_cons_zero, Act.put, List.setIfInBounds_toArray, List.set_cons_zero, List.set_cons_succ]
  refine wpAnyH_take (i := 1) (v := ?_) rfl (by kernel_rfl) (by kernel_rfl) (by kernel_rfl) (fun _ _ _ h => h) (Or.inl ⟨by rfl, ?_⟩) (by assumption) ?_; rotate_left
  · (intro w hSw; (try dsimp only at hSw); go_simp; try with_reducible rfl)
  try simp only [List.getElem_toArray, List.getElem_cons_zero, List.getElem_cons_succ, Act.put, List.setIfInBounds_toArray, List.set_cons_zero, List.set_cons_succ]
  refine wpAnyH_take (i := 2) (v := ?_) rfl (by kernel_rfl) (by kernel_rfl) (by kernel_rfl) (fun _ _ _ h => h) (Or.inl ⟨by rfl, ?_⟩) (by assumption) ?_; rotate_left
  · (intro w hSw; (try dsimp only at hSw); go_simp; try with_reducible rfl)
  try simp only [List.getElem_toArray, List.getElem_cons_zero, List.getElem_cons_succ, Act.put, List.setIfInBounds_toArray, List.set_cons_zero, List.set_cons_succ]
  refine wpAnyH_take (i := 3) (v := ?_) rfl (by kernel_rfl) (by kernel_rfl) (by kernel_rfl) (fun _ _ _ h => h) (Or.inl ⟨by rfl, ?_⟩) (by assumption) ?_; rotate_left
  · (intro w hSw; (try dsimp only at hSw); go_simp; try with_reducible rfl)
  try simp only [List.getElem_toArray, List.getElem_cons_zero, List.getElem_cons_succ, Act.put, List.setIfInBounds_toArray, List.set_cons_zero, List.set_cons_succ]
  refine wpAnyH_take (i := 4) (v := ?_) rfl (by kernel_rfl) (by kernel_rfl) (by kernel_rfl) (fun _ _ _ h => h) (Or.inl ⟨by rfl, ?_⟩) (by assumption) ?_; rotate_left
  · (intro w hSw; (try dsimp only at hSw); go_simp; try with_reducible rfl)
  try simp only [List.getElem_toArray, List.getElem_cons_zero, List.getElem_cons_succ, Act.put, List.setIfInBounds_toArray, List.set_cons_zero, List.set_cons_succ]
  refine wpAnyH_ready (rs := [5]) (by kernel_rfl) (by simp) ?_
  refine AllReadyH.cons rfl (fun K hK => ?_) AllReadyH.nil
  go_simp
  go_at_call 14; refine (p_within _).mono ?_; rintro e w2 ⟨rfl, hg⟩; have hg2 : w1.grownBy w2 none := gt hD hg
  refine hK.out _ _ (hcl.out _ hg2) (fun hHeld => ?_)
  clear hK K
  try simp only [List.getElem_toArray, List.getElem_cons_zero, List.getElem_cons_succ, Act.put, List.setIfInBounds_toArray, List.set_cons_zero, List.set_cons_succ]
  refine wpAnyH_take (i := 6) (v := ?_) rfl (by kernel_rfl) (by kernel_rfl) (by kernel_rfl) (fun _ _ _ h => h) (Or.inl ⟨by rfl, ?_⟩) (by assumption) ?_; rotate_left
  · (intro w hSw; (try dsimp only at hSw); go_simp; try with_reducible rfl)
  try simp only [List.getElem_toArray, List.getElem_cons_zero, List.getElem_cons_succ, Act.put, List.setIfInBounds_toArray, List.set_cons_zero, List.set_cons_succ]
  refine wpAnyH_take (i := 7) (v := ?_) rfl (by kernel_rfl) (by kernel_rfl) (by kernel_rfl) (fun _ _ _ h => h) (Or.inl ⟨by rfl, ?_⟩) (by assumption) ?_; rotate_left
  · (intro w hSw; (try dsimp only at hSw); go_simp; try with_reducible rfl)
  try simp only [List.getElem_toArray, List.getElem_cons_zero, List.getElem_cons_succ, Act.put, List.setIfInBounds_toArray, List.set_cons_zero, List.set_cons_succ]
  refine wpAnyH_take (i := 8) (v := ?_) rfl (by kernel_rfl) (by kernel_rfl) (by kernel_rfl) (fun _ _ _ h => h) (Or.inl ⟨by rfl, ?_⟩) (by assumption) ?_; rotate_left
  · (intro w hSw; (try dsimp only at hSw); go_simp; try with_reducible rfl)
  try simp only [List.getElem_toArray, List.getElem_cons_zero, List.getElem_cons_succ, Act.put, List.setIfInBounds_toArray, List.set_cons_zero, List.set_cons_succ]
  refine wpAnyH_done (by kernel_rfl) ?_ _
  go_wp2
  go_ret
  exact ⟨rfl, (gt hG1.out hg2)⟩
theorem pfits_not (md bi ac he : Int) (hm : Hid (mo md bi ac he = 2)) (w : World) : Calls Try.prog 8 #[stV md bi ac he] w fun e w' => e = .returned (.bool false) ∧ w.grownBy w' none := by
  have hm2 := hm.out
  unfold mo at hm2
  by_cases h0 : md = 0
  · subst h0
    by_cases hb : bi = 0
    · subst hb
      by_cases ha : ac = 0
      · subst ha
        by_cases hh : he = 0
        · subst hh; simp at hm2
        · exact pf_h0 he hh w
      · exact pf_a0 ac he ha w
    · exact pf_b0 bi ac he hb w
  · by_cases h1 : md = 1
    · subst h1
      by_cases hb : bi = 0
      · subst hb
        by_cases ha : ac = 0
        · subst ha
          by_cases hh : he = 0
          · subst hh; simp at hm2
          · exact pf_h1 he hh w
        · exact pf_a1 ac he ha w
      · exact pf_b1 bi ac he hb w
    · exact pf_n md bi ac he h0 h1 w
set_option maxRecDepth 100000 in
set_option maxHeartbeats 1000000 in
theorem to_o0 (w : World) : Calls Try.prog 9 #[stV 0 0 0 0] w fun e w' => e = .returned (.string ⟨#[]⟩) ∧ w.grownBy w' none := by
  go_enter Try.func9, Try.ntmps9
  go_wp2
  go_ret
  exact ⟨rfl, World.grownBy_alloc _ _ _⟩
set_option maxRecDepth 100000 in
set_option maxHeartbeats 1000000 in
theorem to_o1 (w : World) : Calls Try.prog 9 #[stV 1 0 0 0] w fun e w' => e = .returned (.string ⟨#[126, 125]⟩) ∧ w.grownBy w' none := by
  go_enter Try.func9, Try.ntmps9
  go_wp2
  go_ret
  exact ⟨rfl, World.grownBy_alloc _ _ _⟩
set_option maxRecDepth 100000 in
set_option maxHeartbeats 1000000 in
theorem to_w0 (w : World) : Calls Try.prog 13 #[stV 0 0 0 0] w fun e w' => e = .returned (.string ⟨#[126, 123]⟩) ∧ w.grownBy w' none := by
  go_enter Try.func13, Try.ntmps13
  go_wp2
  go_ret
  exact ⟨rfl, World.grownBy_alloc _ _ _⟩
set_option maxRecDepth 100000 in
set_option maxHeartbeats 1000000 in
theorem to_w1 (w : World) : Calls Try.prog 13 #[stV 1 0 0 0] w fun e w' => e = .returned (.string ⟨#[]⟩) ∧ w.grownBy w' none := by
  go_enter Try.func13, Try.ntmps13
  go_wp2
  go_ret
  exact ⟨rfl, World.grownBy_alloc _ _ _⟩
theorem enc_low (n : Nat) (hn : n < 128) : Utf8.encode (n : Int) = str [b8 n] := by
  have a6 : Utf8.valid (n : Int) = true := by simp only [Utf8.valid, Bool.or_eq_true, Bool.and_eq_true, decide_eq_true_eq]; omega
  unfold Utf8.encode
  simp only [a6, if_true, Int.toNat_natCast]
  rw [if_pos (by omega)]
  apply ByteArray.ext
  simp [str, b8]
set_option maxRecDepth 100000 in
set_option maxHeartbeats 1000000 in
theorem al_t (w : World) : Calls Try.prog 11 #[.int .i32 126] w fun e w' => e = .returned (.string ⟨#[126, 126]⟩) ∧ w.grownBy w' none := by
  go_enter Try.func11, Try.ntmps11
  go_wp2
  go_ret
  exact ⟨rfl, grownBy_refl _ _⟩
set_option maxRecDepth 100000 in
set_option maxHeartbeats 1000000 in
theorem al_n (n : Nat) (hn : n < 128) (h6 : n ≠ 126) (w : World) : Calls Try.prog 11 #[.int .i32 (n : Int)] w fun e w' => e = .returned (.string (str [b8 n])) ∧ w.grownBy w' none := by
  have p3 : ((n : Int) == 126) = false := by simp; omega
  rw [← enc_low n hn]
  go_enter Try.func11, Try.ntmps11
  go_wp2
  go_ret
  exact ⟨rfl, grownBy_refl _ _⟩
set_option maxRecDepth 100000 in
set_option maxHeartbeats 1000000 in
theorem pe_0  (w : World) : Calls Try.prog 4 #[stV 0 0 0 0] w fun e w' => e = .returned (.tuple #[.string ⟨#[]⟩, .int .i64 0]) ∧ w.grownBy w' none := by
  go_enter Try.func4, Try.ntmps4
  go_upto_region 1 with (refine wpList_boxC _ rfl 24 _ rfl (sC 0 0 0 0) rfl ?_; intro w1 ss1 hg1)
  obtain ⟨SB, hSB⟩ : ∃ SB, Hid (w.heap.size = SB) := ⟨_, Hid.mk' rfl⟩
  rw [hSB.out] at ss1
  rw [hSB.out]
  have hG1 := Hid.mk' hg1
  clear hg1
  go_wp2_with (first
    | (go_at_call 8; refine (pf_0 _).mono ?_; rintro e w2 ⟨rfl, hg⟩; have ss2 := ss1.kept0 hg; have hG2 : Hid (w.grownBy w2 none) := Hid.mk' (gt hG1.out hg); clear ss1 hg)
    | (go_at_call 9; refine (to_o0 _).mono ?_; rintro e w3 ⟨rfl, hg⟩; have ss3 := ss2.kept0 hg; have hG3 : Hid (w.grownBy w3 none) := Hid.mk' (gt hG2.out hg); clear ss2 hg)
    | (refine wpList_loadC _ rfl 24 _ rfl _ Try.underlying24 rfl SB (sC 0 0 0 0) infoS rfl (by first | exact ss3 | exact ss2 | exact ss1) ?_))
  go_ret2
  exact ⟨rfl, hG3.out⟩
set_option maxRecDepth 100000 in
set_option maxHeartbeats 1000000 in
theorem pe_1  (w : World) : Calls Try.prog 4 #[stV 1 0 0 0] w fun e w' => e = .returned (.tuple #[.string ⟨#[126, 125]⟩, .int .i64 0]) ∧ w.grownBy w' none := by
  go_enter Try.func4, Try.ntmps4
  go_upto_region 1 with (refine wpList_boxC _ rfl 24 _ rfl (sC 1 0 0 0) rfl ?_; intro w1 ss1 hg1)
  obtain ⟨SB, hSB⟩ : ∃ SB, Hid (w.heap.size = SB) := ⟨_, Hid.mk' rfl⟩
  rw [hSB.out] at ss1
  rw [hSB.out]
  have hG1 := Hid.mk' hg1
  clear hg1
  go_wp2_with (first
    | (go_at_call 8; refine (pf_1 _).mono ?_; rintro e w2 ⟨rfl, hg⟩; have ss2 := ss1.kept0 hg; have hG2 : Hid (w.grownBy w2 none) := Hid.mk' (gt hG1.out hg); clear ss1 hg)
    | (go_at_call 9; refine (to_o1 _).mono ?_; rintro e w3 ⟨rfl, hg⟩; have ss3 := ss2.kept0 hg; have hG3 : Hid (w.grownBy w3 none) := Hid.mk' (gt hG2.out hg); clear ss2 hg)
    | (refine wpList_loadC _ rfl 24 _ rfl _ Try.underlying24 rfl SB (sC 1 0 0 0) infoS rfl (by first | exact ss3 | exact ss2 | exact ss1) ?_))
  go_ret2
  exact ⟨rfl, hG3.out⟩
set_option maxRecDepth 100000 in
set_option maxHeartbeats 1000000 in
theorem pe_no (md bi ac he : Int) (hm : Hid (mo md bi ac he = 2)) (w : World) : Calls Try.prog 4 #[stV md bi ac he] w fun e w' => e = .returned (.tuple #[.string ⟨#[]⟩, .int .i64 7]) ∧ w.grownBy w' none := by
  go_enter Try.func4, Try.ntmps4
  go_upto_region 1 with (refine wpList_boxC _ rfl 24 _ rfl (sC md bi ac he) rfl ?_; intro w1 ss1 hg1)
  obtain ⟨SB, hSB⟩ : ∃ SB, Hid (w.heap.size = SB) := ⟨_, Hid.mk' rfl⟩
  rw [hSB.out] at ss1
  rw [hSB.out]
  have hG1 := Hid.mk' hg1
  clear hg1
  go_wp2_with (first
    | (go_at_call 8; refine (pfits_not md bi ac he hm _).mono ?_; rintro e w2 ⟨rfl, hg⟩; have ss2 := ss1.kept0 hg; have hG2 : Hid (w.grownBy w2 none) := Hid.mk' (gt hG1.out hg); clear ss1 hg)
    | (refine wpList_loadC _ rfl 24 _ rfl _ Try.underlying24 rfl SB (sC md bi ac he) infoS rfl (by first | exact ss2 | exact ss1) ?_))
  go_ret2
  exact ⟨rfl, hG2.out⟩
theorem end_any (md bi ac he : Int) (w : World) (m : Nat) (hm : Hid (mo md bi ac he = m)) : Calls Try.prog 4 #[stV md bi ac he] w fun e w' => e = .returned (.tuple #[.string (str (enB m)), .int .i64 (enE m)]) ∧ w.grownBy w' none := by
  have hl := mo_le md bi ac he
  rw [hm.out] at hl
  by_cases h0 : m = 0
  · subst h0
    obtain ⟨rfl, rfl, rfl, rfl⟩ := mo_fit hm.out (by omega)
    exact pe_0 w
  · by_cases h1 : m = 1
    · subst h1
      obtain ⟨rfl, rfl, rfl, rfl⟩ := mo_fit hm.out (by omega)
      exact pe_1 w
    · obtain rfl : m = 2 := by omega
      exact pe_no md bi ac he hm w
end Go.Proofs.Ytpkhkeamnfoekaa.C20

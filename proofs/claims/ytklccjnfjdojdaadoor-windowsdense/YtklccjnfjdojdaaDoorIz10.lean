/- The program's lists of layer 10, and the one of a kind: walks. -/
import Derived.Test.YtklccjnfjdojdaaDoorRf10
import Derived.Test.YtklccjnfjdojdaaDoorAr
namespace Go.Proofs.YtklccjnfjdojdaaDoor.C10
open Go.ChangeShapes Go.WideShapes Go.ChangeAt Go.RowKit Go.Proofs.YtklccjnfjdojdaaDoor.Mem Go.Proofs.YtklccjnfjdojdaaDoor.Ar
set_option linter.unusedVariables false
set_option linter.unusedSimpArgs false

theorem infoA : (Tryd.prog.info? 55).map (·.size) = some 128 := by kernel_rfl
theorem zeroA (w : World) : (zeroValue 55).run Tryd.prog w = .ok (arrV .i32 (List.replicate 128 0)) w := by kernel_rfl
theorem zeroB : (Tryd.prog.info? 55).bind (·.zero) = some (arrV .i32 (List.replicate 128 0)) := by kernel_rfl
theorem infoR : (Tryd.prog.info? 21).map (·.size) = some 1 := by kernel_rfl
/-- A kind's list as the program has it: zeros where it is none. -/
def tabI (k : Int) : List Int := if k ∈ kinds then (tab k).map (fun n : Nat => (n : Int)) else List.replicate 128 0
theorem tabI_len (k : Int) : (tabI k).length = 128 := by
  unfold tabI
  split
  · rename_i h; rw [List.length_map, tab_len h]
  · rw [List.length_replicate]
theorem zlen : (List.replicate 128 (0 : Int)).length = 128 := List.length_replicate
set_option maxRecDepth 100000 in
set_option maxHeartbeats 1000000 in
theorem arr40 (w : World) : Calls Tryd.prog 21 #[] w fun e w' => e = .returned (arrV .i32 (tabI 40)) ∧ w.grownBy w' none := by
  go_enter Tryd.func21, Tryd.ntmps21
  go_upto_region 1 with (refine wpList_allocA _ rfl 55 rfl (List.replicate 128 0) (zeroA _) ?_; intro w1 ha1 hg1)
  refine wp_region_lit ?_
  refine wpList_buildA (q := .i32) _ rfl 55 _ rfl 128 21 Tryd.underlying55 _ zeroB (arrV_size _ _ zlen) infoR (tabI 40) (tabI_len 40) (by kernel_rfl) ?_
  refine wpList_storeA _ rfl 55 _ _ rfl 128 infoA w.heap.size (List.replicate 128 0) (tabI 40) zlen (tabI_len 40) rfl rfl ha1 ?_; intro w2 ha2 hg2
  refine wpList_nil ?_
  go_wp2
  refine bodyPost_ret (v := arrV .i32 (tabI 40)) (results_cell_row Tryd.results21 _ w2 w.heap.size 55 _ (0, 0) _ rfl ha2 Tryd.underlying55 rfl (by rw [infoA]; simp [tabI_len])) rfl ⟨rfl, ?_⟩
  exact grownBy_new hg1 hg2 (fun k hk => by have h5 := Option.some.inj hk; omega)
set_option maxRecDepth 100000 in
set_option maxHeartbeats 1000000 in
theorem arr41 (w : World) : Calls Tryd.prog 22 #[] w fun e w' => e = .returned (arrV .i32 (tabI 41)) ∧ w.grownBy w' none := by
  go_enter Tryd.func22, Tryd.ntmps22
  go_upto_region 1 with (refine wpList_allocA _ rfl 55 rfl (List.replicate 128 0) (zeroA _) ?_; intro w1 ha1 hg1)
  refine wp_region_lit ?_
  refine wpList_buildA (q := .i32) _ rfl 55 _ rfl 128 21 Tryd.underlying55 _ zeroB (arrV_size _ _ zlen) infoR (tabI 41) (tabI_len 41) (by kernel_rfl) ?_
  refine wpList_storeA _ rfl 55 _ _ rfl 128 infoA w.heap.size (List.replicate 128 0) (tabI 41) zlen (tabI_len 41) rfl rfl ha1 ?_; intro w2 ha2 hg2
  refine wpList_nil ?_
  go_wp2
  refine bodyPost_ret (v := arrV .i32 (tabI 41)) (results_cell_row Tryd.results22 _ w2 w.heap.size 55 _ (0, 0) _ rfl ha2 Tryd.underlying55 rfl (by rw [infoA]; simp [tabI_len])) rfl ⟨rfl, ?_⟩
  exact grownBy_new hg1 hg2 (fun k hk => by have h5 := Option.some.inj hk; omega)
set_option maxRecDepth 100000 in
set_option maxHeartbeats 1000000 in
theorem arr50 (w : World) : Calls Tryd.prog 23 #[] w fun e w' => e = .returned (arrV .i32 (tabI 50)) ∧ w.grownBy w' none := by
  go_enter Tryd.func23, Tryd.ntmps23
  go_upto_region 1 with (refine wpList_allocA _ rfl 55 rfl (List.replicate 128 0) (zeroA _) ?_; intro w1 ha1 hg1)
  refine wp_region_lit ?_
  refine wpList_buildA (q := .i32) _ rfl 55 _ rfl 128 21 Tryd.underlying55 _ zeroB (arrV_size _ _ zlen) infoR (tabI 50) (tabI_len 50) (by kernel_rfl) ?_
  refine wpList_storeA _ rfl 55 _ _ rfl 128 infoA w.heap.size (List.replicate 128 0) (tabI 50) zlen (tabI_len 50) rfl rfl ha1 ?_; intro w2 ha2 hg2
  refine wpList_nil ?_
  go_wp2
  refine bodyPost_ret (v := arrV .i32 (tabI 50)) (results_cell_row Tryd.results23 _ w2 w.heap.size 55 _ (0, 0) _ rfl ha2 Tryd.underlying55 rfl (by rw [infoA]; simp [tabI_len])) rfl ⟨rfl, ?_⟩
  exact grownBy_new hg1 hg2 (fun k hk => by have h5 := Option.some.inj hk; omega)
set_option maxRecDepth 100000 in
set_option maxHeartbeats 1000000 in
theorem arr51 (w : World) : Calls Tryd.prog 24 #[] w fun e w' => e = .returned (arrV .i32 (tabI 51)) ∧ w.grownBy w' none := by
  go_enter Tryd.func24, Tryd.ntmps24
  go_upto_region 1 with (refine wpList_allocA _ rfl 55 rfl (List.replicate 128 0) (zeroA _) ?_; intro w1 ha1 hg1)
  refine wp_region_lit ?_
  refine wpList_buildA (q := .i32) _ rfl 55 _ rfl 128 21 Tryd.underlying55 _ zeroB (arrV_size _ _ zlen) infoR (tabI 51) (tabI_len 51) (by kernel_rfl) ?_
  refine wpList_storeA _ rfl 55 _ _ rfl 128 infoA w.heap.size (List.replicate 128 0) (tabI 51) zlen (tabI_len 51) rfl rfl ha1 ?_; intro w2 ha2 hg2
  refine wpList_nil ?_
  go_wp2
  refine bodyPost_ret (v := arrV .i32 (tabI 51)) (results_cell_row Tryd.results24 _ w2 w.heap.size 55 _ (0, 0) _ rfl ha2 Tryd.underlying55 rfl (by rw [infoA]; simp [tabI_len])) rfl ⟨rfl, ?_⟩
  exact grownBy_new hg1 hg2 (fun k hk => by have h5 := Option.some.inj hk; omega)
set_option maxRecDepth 100000 in
set_option maxHeartbeats 1000000 in
theorem arr52 (w : World) : Calls Tryd.prog 25 #[] w fun e w' => e = .returned (arrV .i32 (tabI 52)) ∧ w.grownBy w' none := by
  go_enter Tryd.func25, Tryd.ntmps25
  go_upto_region 1 with (refine wpList_allocA _ rfl 55 rfl (List.replicate 128 0) (zeroA _) ?_; intro w1 ha1 hg1)
  refine wp_region_lit ?_
  refine wpList_buildA (q := .i32) _ rfl 55 _ rfl 128 21 Tryd.underlying55 _ zeroB (arrV_size _ _ zlen) infoR (tabI 52) (tabI_len 52) (by kernel_rfl) ?_
  refine wpList_storeA _ rfl 55 _ _ rfl 128 infoA w.heap.size (List.replicate 128 0) (tabI 52) zlen (tabI_len 52) rfl rfl ha1 ?_; intro w2 ha2 hg2
  refine wpList_nil ?_
  go_wp2
  refine bodyPost_ret (v := arrV .i32 (tabI 52)) (results_cell_row Tryd.results25 _ w2 w.heap.size 55 _ (0, 0) _ rfl ha2 Tryd.underlying55 rfl (by rw [infoA]; simp [tabI_len])) rfl ⟨rfl, ?_⟩
  exact grownBy_new hg1 hg2 (fun k hk => by have h5 := Option.some.inj hk; omega)
set_option maxRecDepth 100000 in
set_option maxHeartbeats 1000000 in
theorem arr53 (w : World) : Calls Tryd.prog 26 #[] w fun e w' => e = .returned (arrV .i32 (tabI 53)) ∧ w.grownBy w' none := by
  go_enter Tryd.func26, Tryd.ntmps26
  go_upto_region 1 with (refine wpList_allocA _ rfl 55 rfl (List.replicate 128 0) (zeroA _) ?_; intro w1 ha1 hg1)
  refine wp_region_lit ?_
  refine wpList_buildA (q := .i32) _ rfl 55 _ rfl 128 21 Tryd.underlying55 _ zeroB (arrV_size _ _ zlen) infoR (tabI 53) (tabI_len 53) (by kernel_rfl) ?_
  refine wpList_storeA _ rfl 55 _ _ rfl 128 infoA w.heap.size (List.replicate 128 0) (tabI 53) zlen (tabI_len 53) rfl rfl ha1 ?_; intro w2 ha2 hg2
  refine wpList_nil ?_
  go_wp2
  refine bodyPost_ret (v := arrV .i32 (tabI 53)) (results_cell_row Tryd.results26 _ w2 w.heap.size 55 _ (0, 0) _ rfl ha2 Tryd.underlying55 rfl (by rw [infoA]; simp [tabI_len])) rfl ⟨rfl, ?_⟩
  exact grownBy_new hg1 hg2 (fun k hk => by have h5 := Option.some.inj hk; omega)
set_option maxRecDepth 100000 in
set_option maxHeartbeats 1000000 in
theorem arr54 (w : World) : Calls Tryd.prog 27 #[] w fun e w' => e = .returned (arrV .i32 (tabI 54)) ∧ w.grownBy w' none := by
  go_enter Tryd.func27, Tryd.ntmps27
  go_upto_region 1 with (refine wpList_allocA _ rfl 55 rfl (List.replicate 128 0) (zeroA _) ?_; intro w1 ha1 hg1)
  refine wp_region_lit ?_
  refine wpList_buildA (q := .i32) _ rfl 55 _ rfl 128 21 Tryd.underlying55 _ zeroB (arrV_size _ _ zlen) infoR (tabI 54) (tabI_len 54) (by kernel_rfl) ?_
  refine wpList_storeA _ rfl 55 _ _ rfl 128 infoA w.heap.size (List.replicate 128 0) (tabI 54) zlen (tabI_len 54) rfl rfl ha1 ?_; intro w2 ha2 hg2
  refine wpList_nil ?_
  go_wp2
  refine bodyPost_ret (v := arrV .i32 (tabI 54)) (results_cell_row Tryd.results27 _ w2 w.heap.size 55 _ (0, 0) _ rfl ha2 Tryd.underlying55 rfl (by rw [infoA]; simp [tabI_len])) rfl ⟨rfl, ?_⟩
  exact grownBy_new hg1 hg2 (fun k hk => by have h5 := Option.some.inj hk; omega)
set_option maxRecDepth 100000 in
set_option maxHeartbeats 1000000 in
theorem arr55 (w : World) : Calls Tryd.prog 28 #[] w fun e w' => e = .returned (arrV .i32 (tabI 55)) ∧ w.grownBy w' none := by
  go_enter Tryd.func28, Tryd.ntmps28
  go_upto_region 1 with (refine wpList_allocA _ rfl 55 rfl (List.replicate 128 0) (zeroA _) ?_; intro w1 ha1 hg1)
  refine wp_region_lit ?_
  refine wpList_buildA (q := .i32) _ rfl 55 _ rfl 128 21 Tryd.underlying55 _ zeroB (arrV_size _ _ zlen) infoR (tabI 55) (tabI_len 55) (by kernel_rfl) ?_
  refine wpList_storeA _ rfl 55 _ _ rfl 128 infoA w.heap.size (List.replicate 128 0) (tabI 55) zlen (tabI_len 55) rfl rfl ha1 ?_; intro w2 ha2 hg2
  refine wpList_nil ?_
  go_wp2
  refine bodyPost_ret (v := arrV .i32 (tabI 55)) (results_cell_row Tryd.results28 _ w2 w.heap.size 55 _ (0, 0) _ rfl ha2 Tryd.underlying55 rfl (by rw [infoA]; simp [tabI_len])) rfl ⟨rfl, ?_⟩
  exact grownBy_new hg1 hg2 (fun k hk => by have h5 := Option.some.inj hk; omega)
set_option maxRecDepth 100000 in
set_option maxHeartbeats 1000000 in
theorem arr56 (w : World) : Calls Tryd.prog 29 #[] w fun e w' => e = .returned (arrV .i32 (tabI 56)) ∧ w.grownBy w' none := by
  go_enter Tryd.func29, Tryd.ntmps29
  go_upto_region 1 with (refine wpList_allocA _ rfl 55 rfl (List.replicate 128 0) (zeroA _) ?_; intro w1 ha1 hg1)
  refine wp_region_lit ?_
  refine wpList_buildA (q := .i32) _ rfl 55 _ rfl 128 21 Tryd.underlying55 _ zeroB (arrV_size _ _ zlen) infoR (tabI 56) (tabI_len 56) (by kernel_rfl) ?_
  refine wpList_storeA _ rfl 55 _ _ rfl 128 infoA w.heap.size (List.replicate 128 0) (tabI 56) zlen (tabI_len 56) rfl rfl ha1 ?_; intro w2 ha2 hg2
  refine wpList_nil ?_
  go_wp2
  refine bodyPost_ret (v := arrV .i32 (tabI 56)) (results_cell_row Tryd.results29 _ w2 w.heap.size 55 _ (0, 0) _ rfl ha2 Tryd.underlying55 rfl (by rw [infoA]; simp [tabI_len])) rfl ⟨rfl, ?_⟩
  exact grownBy_new hg1 hg2 (fun k hk => by have h5 := Option.some.inj hk; omega)
set_option maxRecDepth 100000 in
set_option maxHeartbeats 1000000 in
theorem arr57 (w : World) : Calls Tryd.prog 30 #[] w fun e w' => e = .returned (arrV .i32 (tabI 57)) ∧ w.grownBy w' none := by
  go_enter Tryd.func30, Tryd.ntmps30
  go_upto_region 1 with (refine wpList_allocA _ rfl 55 rfl (List.replicate 128 0) (zeroA _) ?_; intro w1 ha1 hg1)
  refine wp_region_lit ?_
  refine wpList_buildA (q := .i32) _ rfl 55 _ rfl 128 21 Tryd.underlying55 _ zeroB (arrV_size _ _ zlen) infoR (tabI 57) (tabI_len 57) (by kernel_rfl) ?_
  refine wpList_storeA _ rfl 55 _ _ rfl 128 infoA w.heap.size (List.replicate 128 0) (tabI 57) zlen (tabI_len 57) rfl rfl ha1 ?_; intro w2 ha2 hg2
  refine wpList_nil ?_
  go_wp2
  refine bodyPost_ret (v := arrV .i32 (tabI 57)) (results_cell_row Tryd.results30 _ w2 w.heap.size 55 _ (0, 0) _ rfl ha2 Tryd.underlying55 rfl (by rw [infoA]; simp [tabI_len])) rfl ⟨rfl, ?_⟩
  exact grownBy_new hg1 hg2 (fun k hk => by have h5 := Option.some.inj hk; omega)
set_option maxRecDepth 100000 in
set_option maxHeartbeats 1000000 in
theorem of40 (w : World) : Calls Tryd.prog 17 #[.int .i64 40] w fun e w' => e = .returned (.tuple #[arrV .i32 (tabI 40), .bool true]) ∧ w.grownBy w' none := by
  obtain ⟨Z, hZ⟩ : ∃ Z, tabI 40 = Z := ⟨_, rfl⟩
  have hl := tabI_len 40
  have a1 := Hid.mk' (fun w => arr40 w)
  rw [hZ] at hl a1
  rw [hZ]
  have hl0 := Hid.mk' hl
  clear hZ hl
  go_enter Tryd.func17, Tryd.ntmps17
  go_upto_region 1 with (refine wpList_allocA _ rfl 55 rfl (List.replicate 128 0) (zeroA _) ?_; intro w1 ha1 hg1)
  go_wp2_with (first
    | (go_at_call 21; refine (a1.out _).mono ?_; rintro e w2 ⟨rfl, hg2⟩)
    | (refine wpList_storeA _ rfl 55 _ _ rfl 128 infoA w.heap.size (List.replicate 128 0) Z zlen hl0.out rfl rfl (ha1.kept0 hg2) ?_; intro w3 ha3 hg3))
  refine bodyPost_ret (v := .tuple #[arrV .i32 Z, .bool true]) (results_cell_row_tmp Tryd.results17 _ w3 w.heap.size 55 _ (0, 0) _ rfl ha3 Tryd.underlying55 rfl (by rw [infoA]; simp [hl0.out]) _ rfl) rfl ⟨rfl, ?_⟩
  exact grownBy_new (grownBy_trans hg1 hg2) hg3 (fun k hk => by have h5 := Option.some.inj hk; omega)
set_option maxRecDepth 100000 in
set_option maxHeartbeats 1000000 in
theorem of41 (w : World) : Calls Tryd.prog 17 #[.int .i64 41] w fun e w' => e = .returned (.tuple #[arrV .i32 (tabI 41), .bool true]) ∧ w.grownBy w' none := by
  obtain ⟨Z, hZ⟩ : ∃ Z, tabI 41 = Z := ⟨_, rfl⟩
  have hl := tabI_len 41
  have a1 := Hid.mk' (fun w => arr41 w)
  rw [hZ] at hl a1
  rw [hZ]
  have hl0 := Hid.mk' hl
  clear hZ hl
  go_enter Tryd.func17, Tryd.ntmps17
  go_upto_region 1 with (refine wpList_allocA _ rfl 55 rfl (List.replicate 128 0) (zeroA _) ?_; intro w1 ha1 hg1)
  go_wp2_with (first
    | (go_at_call 22; refine (a1.out _).mono ?_; rintro e w2 ⟨rfl, hg2⟩)
    | (refine wpList_storeA _ rfl 55 _ _ rfl 128 infoA w.heap.size (List.replicate 128 0) Z zlen hl0.out rfl rfl (ha1.kept0 hg2) ?_; intro w3 ha3 hg3))
  refine bodyPost_ret (v := .tuple #[arrV .i32 Z, .bool true]) (results_cell_row_tmp Tryd.results17 _ w3 w.heap.size 55 _ (0, 0) _ rfl ha3 Tryd.underlying55 rfl (by rw [infoA]; simp [hl0.out]) _ rfl) rfl ⟨rfl, ?_⟩
  exact grownBy_new (grownBy_trans hg1 hg2) hg3 (fun k hk => by have h5 := Option.some.inj hk; omega)
set_option maxRecDepth 100000 in
set_option maxHeartbeats 1000000 in
theorem of50 (w : World) : Calls Tryd.prog 17 #[.int .i64 50] w fun e w' => e = .returned (.tuple #[arrV .i32 (tabI 50), .bool true]) ∧ w.grownBy w' none := by
  obtain ⟨Z, hZ⟩ : ∃ Z, tabI 50 = Z := ⟨_, rfl⟩
  have hl := tabI_len 50
  have a1 := Hid.mk' (fun w => arr50 w)
  rw [hZ] at hl a1
  rw [hZ]
  have hl0 := Hid.mk' hl
  clear hZ hl
  go_enter Tryd.func17, Tryd.ntmps17
  go_upto_region 1 with (refine wpList_allocA _ rfl 55 rfl (List.replicate 128 0) (zeroA _) ?_; intro w1 ha1 hg1)
  go_wp2_with (first
    | (go_at_call 23; refine (a1.out _).mono ?_; rintro e w2 ⟨rfl, hg2⟩)
    | (refine wpList_storeA _ rfl 55 _ _ rfl 128 infoA w.heap.size (List.replicate 128 0) Z zlen hl0.out rfl rfl (ha1.kept0 hg2) ?_; intro w3 ha3 hg3))
  refine bodyPost_ret (v := .tuple #[arrV .i32 Z, .bool true]) (results_cell_row_tmp Tryd.results17 _ w3 w.heap.size 55 _ (0, 0) _ rfl ha3 Tryd.underlying55 rfl (by rw [infoA]; simp [hl0.out]) _ rfl) rfl ⟨rfl, ?_⟩
  exact grownBy_new (grownBy_trans hg1 hg2) hg3 (fun k hk => by have h5 := Option.some.inj hk; omega)
set_option maxRecDepth 100000 in
set_option maxHeartbeats 1000000 in
theorem of51 (w : World) : Calls Tryd.prog 17 #[.int .i64 51] w fun e w' => e = .returned (.tuple #[arrV .i32 (tabI 51), .bool true]) ∧ w.grownBy w' none := by
  obtain ⟨Z, hZ⟩ : ∃ Z, tabI 51 = Z := ⟨_, rfl⟩
  have hl := tabI_len 51
  have a1 := Hid.mk' (fun w => arr51 w)
  rw [hZ] at hl a1
  rw [hZ]
  have hl0 := Hid.mk' hl
  clear hZ hl
  go_enter Tryd.func17, Tryd.ntmps17
  go_upto_region 1 with (refine wpList_allocA _ rfl 55 rfl (List.replicate 128 0) (zeroA _) ?_; intro w1 ha1 hg1)
  go_wp2_with (first
    | (go_at_call 24; refine (a1.out _).mono ?_; rintro e w2 ⟨rfl, hg2⟩)
    | (refine wpList_storeA _ rfl 55 _ _ rfl 128 infoA w.heap.size (List.replicate 128 0) Z zlen hl0.out rfl rfl (ha1.kept0 hg2) ?_; intro w3 ha3 hg3))
  refine bodyPost_ret (v := .tuple #[arrV .i32 Z, .bool true]) (results_cell_row_tmp Tryd.results17 _ w3 w.heap.size 55 _ (0, 0) _ rfl ha3 Tryd.underlying55 rfl (by rw [infoA]; simp [hl0.out]) _ rfl) rfl ⟨rfl, ?_⟩
  exact grownBy_new (grownBy_trans hg1 hg2) hg3 (fun k hk => by have h5 := Option.some.inj hk; omega)
set_option maxRecDepth 100000 in
set_option maxHeartbeats 1000000 in
theorem of52 (w : World) : Calls Tryd.prog 17 #[.int .i64 52] w fun e w' => e = .returned (.tuple #[arrV .i32 (tabI 52), .bool true]) ∧ w.grownBy w' none := by
  obtain ⟨Z, hZ⟩ : ∃ Z, tabI 52 = Z := ⟨_, rfl⟩
  have hl := tabI_len 52
  have a1 := Hid.mk' (fun w => arr52 w)
  rw [hZ] at hl a1
  rw [hZ]
  have hl0 := Hid.mk' hl
  clear hZ hl
  go_enter Tryd.func17, Tryd.ntmps17
  go_upto_region 1 with (refine wpList_allocA _ rfl 55 rfl (List.replicate 128 0) (zeroA _) ?_; intro w1 ha1 hg1)
  go_wp2_with (first
    | (go_at_call 25; refine (a1.out _).mono ?_; rintro e w2 ⟨rfl, hg2⟩)
    | (refine wpList_storeA _ rfl 55 _ _ rfl 128 infoA w.heap.size (List.replicate 128 0) Z zlen hl0.out rfl rfl (ha1.kept0 hg2) ?_; intro w3 ha3 hg3))
  refine bodyPost_ret (v := .tuple #[arrV .i32 Z, .bool true]) (results_cell_row_tmp Tryd.results17 _ w3 w.heap.size 55 _ (0, 0) _ rfl ha3 Tryd.underlying55 rfl (by rw [infoA]; simp [hl0.out]) _ rfl) rfl ⟨rfl, ?_⟩
  exact grownBy_new (grownBy_trans hg1 hg2) hg3 (fun k hk => by have h5 := Option.some.inj hk; omega)
set_option maxRecDepth 100000 in
set_option maxHeartbeats 1000000 in
theorem of53 (w : World) : Calls Tryd.prog 17 #[.int .i64 53] w fun e w' => e = .returned (.tuple #[arrV .i32 (tabI 53), .bool true]) ∧ w.grownBy w' none := by
  obtain ⟨Z, hZ⟩ : ∃ Z, tabI 53 = Z := ⟨_, rfl⟩
  have hl := tabI_len 53
  have a1 := Hid.mk' (fun w => arr53 w)
  rw [hZ] at hl a1
  rw [hZ]
  have hl0 := Hid.mk' hl
  clear hZ hl
  go_enter Tryd.func17, Tryd.ntmps17
  go_upto_region 1 with (refine wpList_allocA _ rfl 55 rfl (List.replicate 128 0) (zeroA _) ?_; intro w1 ha1 hg1)
  go_wp2_with (first
    | (go_at_call 26; refine (a1.out _).mono ?_; rintro e w2 ⟨rfl, hg2⟩)
    | (refine wpList_storeA _ rfl 55 _ _ rfl 128 infoA w.heap.size (List.replicate 128 0) Z zlen hl0.out rfl rfl (ha1.kept0 hg2) ?_; intro w3 ha3 hg3))
  refine bodyPost_ret (v := .tuple #[arrV .i32 Z, .bool true]) (results_cell_row_tmp Tryd.results17 _ w3 w.heap.size 55 _ (0, 0) _ rfl ha3 Tryd.underlying55 rfl (by rw [infoA]; simp [hl0.out]) _ rfl) rfl ⟨rfl, ?_⟩
  exact grownBy_new (grownBy_trans hg1 hg2) hg3 (fun k hk => by have h5 := Option.some.inj hk; omega)
set_option maxRecDepth 100000 in
set_option maxHeartbeats 1000000 in
theorem of54 (w : World) : Calls Tryd.prog 17 #[.int .i64 54] w fun e w' => e = .returned (.tuple #[arrV .i32 (tabI 54), .bool true]) ∧ w.grownBy w' none := by
  obtain ⟨Z, hZ⟩ : ∃ Z, tabI 54 = Z := ⟨_, rfl⟩
  have hl := tabI_len 54
  have a1 := Hid.mk' (fun w => arr54 w)
  rw [hZ] at hl a1
  rw [hZ]
  have hl0 := Hid.mk' hl
  clear hZ hl
  go_enter Tryd.func17, Tryd.ntmps17
  go_upto_region 1 with (refine wpList_allocA _ rfl 55 rfl (List.replicate 128 0) (zeroA _) ?_; intro w1 ha1 hg1)
  go_wp2_with (first
    | (go_at_call 27; refine (a1.out _).mono ?_; rintro e w2 ⟨rfl, hg2⟩)
    | (refine wpList_storeA _ rfl 55 _ _ rfl 128 infoA w.heap.size (List.replicate 128 0) Z zlen hl0.out rfl rfl (ha1.kept0 hg2) ?_; intro w3 ha3 hg3))
  refine bodyPost_ret (v := .tuple #[arrV .i32 Z, .bool true]) (results_cell_row_tmp Tryd.results17 _ w3 w.heap.size 55 _ (0, 0) _ rfl ha3 Tryd.underlying55 rfl (by rw [infoA]; simp [hl0.out]) _ rfl) rfl ⟨rfl, ?_⟩
  exact grownBy_new (grownBy_trans hg1 hg2) hg3 (fun k hk => by have h5 := Option.some.inj hk; omega)
set_option maxRecDepth 100000 in
set_option maxHeartbeats 1000000 in
theorem of55 (w : World) : Calls Tryd.prog 17 #[.int .i64 55] w fun e w' => e = .returned (.tuple #[arrV .i32 (tabI 55), .bool true]) ∧ w.grownBy w' none := by
  obtain ⟨Z, hZ⟩ : ∃ Z, tabI 55 = Z := ⟨_, rfl⟩
  have hl := tabI_len 55
  have a1 := Hid.mk' (fun w => arr55 w)
  rw [hZ] at hl a1
  rw [hZ]
  have hl0 := Hid.mk' hl
  clear hZ hl
  go_enter Tryd.func17, Tryd.ntmps17
  go_upto_region 1 with (refine wpList_allocA _ rfl 55 rfl (List.replicate 128 0) (zeroA _) ?_; intro w1 ha1 hg1)
  go_wp2_with (first
    | (go_at_call 28; refine (a1.out _).mono ?_; rintro e w2 ⟨rfl, hg2⟩)
    | (refine wpList_storeA _ rfl 55 _ _ rfl 128 infoA w.heap.size (List.replicate 128 0) Z zlen hl0.out rfl rfl (ha1.kept0 hg2) ?_; intro w3 ha3 hg3))
  refine bodyPost_ret (v := .tuple #[arrV .i32 Z, .bool true]) (results_cell_row_tmp Tryd.results17 _ w3 w.heap.size 55 _ (0, 0) _ rfl ha3 Tryd.underlying55 rfl (by rw [infoA]; simp [hl0.out]) _ rfl) rfl ⟨rfl, ?_⟩
  exact grownBy_new (grownBy_trans hg1 hg2) hg3 (fun k hk => by have h5 := Option.some.inj hk; omega)
set_option maxRecDepth 100000 in
set_option maxHeartbeats 1000000 in
theorem of56 (w : World) : Calls Tryd.prog 17 #[.int .i64 56] w fun e w' => e = .returned (.tuple #[arrV .i32 (tabI 56), .bool true]) ∧ w.grownBy w' none := by
  obtain ⟨Z, hZ⟩ : ∃ Z, tabI 56 = Z := ⟨_, rfl⟩
  have hl := tabI_len 56
  have a1 := Hid.mk' (fun w => arr56 w)
  rw [hZ] at hl a1
  rw [hZ]
  have hl0 := Hid.mk' hl
  clear hZ hl
  go_enter Tryd.func17, Tryd.ntmps17
  go_upto_region 1 with (refine wpList_allocA _ rfl 55 rfl (List.replicate 128 0) (zeroA _) ?_; intro w1 ha1 hg1)
  go_wp2_with (first
    | (go_at_call 29; refine (a1.out _).mono ?_; rintro e w2 ⟨rfl, hg2⟩)
    | (refine wpList_storeA _ rfl 55 _ _ rfl 128 infoA w.heap.size (List.replicate 128 0) Z zlen hl0.out rfl rfl (ha1.kept0 hg2) ?_; intro w3 ha3 hg3))
  refine bodyPost_ret (v := .tuple #[arrV .i32 Z, .bool true]) (results_cell_row_tmp Tryd.results17 _ w3 w.heap.size 55 _ (0, 0) _ rfl ha3 Tryd.underlying55 rfl (by rw [infoA]; simp [hl0.out]) _ rfl) rfl ⟨rfl, ?_⟩
  exact grownBy_new (grownBy_trans hg1 hg2) hg3 (fun k hk => by have h5 := Option.some.inj hk; omega)
set_option maxRecDepth 100000 in
set_option maxHeartbeats 1000000 in
theorem of57 (w : World) : Calls Tryd.prog 17 #[.int .i64 57] w fun e w' => e = .returned (.tuple #[arrV .i32 (tabI 57), .bool true]) ∧ w.grownBy w' none := by
  obtain ⟨Z, hZ⟩ : ∃ Z, tabI 57 = Z := ⟨_, rfl⟩
  have hl := tabI_len 57
  have a1 := Hid.mk' (fun w => arr57 w)
  rw [hZ] at hl a1
  rw [hZ]
  have hl0 := Hid.mk' hl
  clear hZ hl
  go_enter Tryd.func17, Tryd.ntmps17
  go_upto_region 1 with (refine wpList_allocA _ rfl 55 rfl (List.replicate 128 0) (zeroA _) ?_; intro w1 ha1 hg1)
  go_wp2_with (first
    | (go_at_call 30; refine (a1.out _).mono ?_; rintro e w2 ⟨rfl, hg2⟩)
    | (refine wpList_storeA _ rfl 55 _ _ rfl 128 infoA w.heap.size (List.replicate 128 0) Z zlen hl0.out rfl rfl (ha1.kept0 hg2) ?_; intro w3 ha3 hg3))
  refine bodyPost_ret (v := .tuple #[arrV .i32 Z, .bool true]) (results_cell_row_tmp Tryd.results17 _ w3 w.heap.size 55 _ (0, 0) _ rfl ha3 Tryd.underlying55 rfl (by rw [infoA]; simp [hl0.out]) _ rfl) rfl ⟨rfl, ?_⟩
  exact grownBy_new (grownBy_trans hg1 hg2) hg3 (fun k hk => by have h5 := Option.some.inj hk; omega)
set_option maxRecDepth 100000 in
set_option maxHeartbeats 1000000 in
theorem of_none (k : Int) (w : World) (h40 : ¬ k = 40) (h41 : ¬ k = 41) (h50 : ¬ k = 50) (h51 : ¬ k = 51) (h52 : ¬ k = 52) (h53 : ¬ k = 53) (h54 : ¬ k = 54) (h55 : ¬ k = 55) (h56 : ¬ k = 56) (h57 : ¬ k = 57) : Calls Tryd.prog 17 #[.int .i64 k] w fun e w' => e = .returned (.tuple #[arrV .i32 (List.replicate 128 0), .bool false]) ∧ w.grownBy w' none := by
  have b40 : (k == 40) = false := by simpa using h40
  have b41 : (k == 41) = false := by simpa using h41
  have b50 : (k == 50) = false := by simpa using h50
  have b51 : (k == 51) = false := by simpa using h51
  have b52 : (k == 52) = false := by simpa using h52
  have b53 : (k == 53) = false := by simpa using h53
  have b54 : (k == 54) = false := by simpa using h54
  have b55 : (k == 55) = false := by simpa using h55
  have b56 : (k == 56) = false := by simpa using h56
  have b57 : (k == 57) = false := by simpa using h57
  obtain ⟨Z, hZ⟩ : ∃ Z : List Int, List.replicate 128 (0 : Int) = Z := ⟨_, rfl⟩
  have hl := zlen
  have hz := Hid.mk' (fun w => zeroA w)
  have hb := Hid.mk' zeroB
  rw [hZ] at hl hz hb
  rw [hZ]
  have hl0 := Hid.mk' hl
  clear hZ hl
  go_enter Tryd.func17, Tryd.ntmps17
  go_upto_region 1 with (refine wpList_allocA _ rfl 55 rfl Z (hz.out _) ?_; intro w1 ha1 hg1)
  go_wp2_with (first
    | (refine wpList_buildZ _ rfl 55 rfl 128 21 Tryd.underlying55 Z hb.out infoR ?_)
    | (refine wpList_storeA _ rfl 55 _ _ rfl 128 infoA w.heap.size Z Z hl0.out hl0.out rfl rfl ha1 ?_; intro w3 ha3 hg3))
  refine bodyPost_ret (v := .tuple #[arrV .i32 Z, .bool false]) (results_cell_row_tmp Tryd.results17 _ w3 w.heap.size 55 _ (0, 0) _ rfl ha3 Tryd.underlying55 rfl (by rw [infoA]; simp [hl0.out]) _ rfl) rfl ⟨rfl, ?_⟩
  exact grownBy_new hg1 hg3 (fun k hk => by have h5 := Option.some.inj hk; omega)
theorem of_any (k : Int) (H : Bool) (hH : Hid (decide (k ∈ kinds) = H)) (w : World) : Calls Tryd.prog 17 #[.int .i64 k] w fun e w' => e = .returned (.tuple #[arrV .i32 (tabI k), .bool H]) ∧ w.grownBy w' none := by
  by_cases h : k ∈ kinds
  · obtain rfl : H = true := by rw [← hH.out]; exact decide_eq_true h
    clear hH
    have gen : ∀ k ∈ kinds, Calls Tryd.prog 17 #[.int .i64 k] w fun e w' => e = .returned (.tuple #[arrV .i32 (tabI k), .bool true]) ∧ w.grownBy w' none := by
      intro k hk
      simp only [kinds, List.mem_cons, List.not_mem_nil, or_false] at hk
      rcases hk with rfl | rfl | rfl | rfl | rfl | rfl | rfl | rfl | rfl | rfl
      · exact of40 w
      · exact of41 w
      · exact of50 w
      · exact of51 w
      · exact of52 w
      · exact of53 w
      · exact of54 w
      · exact of55 w
      · exact of56 w
      · exact of57 w
    exact gen k h
  · obtain rfl : H = false := by rw [← hH.out]; exact decide_eq_false h
    rw [tabI, if_neg h]
    simp only [kinds, List.mem_cons, List.not_mem_nil, or_false, not_or] at h
    obtain ⟨a1, a2, a3, a4, a5, a6, a7, a8, a9, a10⟩ := h
    exact of_none k w a1 a2 a3 a4 a5 a6 a7 a8 a9 a10
end Go.Proofs.YtklccjnfjdojdaaDoor.C10

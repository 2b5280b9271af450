/- The program's lists of layer 15, and the one of a kind: walks. -/
import Derived.Test.YtpkhkeamnfoekaaRB15
import Derived.Test.YtpkhkeamnfoekaaAr
namespace Go.Proofs.Ytpkhkeamnfoekaa.C15
open Go.ChangeShapes Go.WideShapes Go.ChangeAt Go.RowKit Go.Proofs.Ytpkhkeamnfoekaa.Mem Go.Proofs.Ytpkhkeamnfoekaa.Ar
set_option linter.unusedVariables false
set_option linter.unusedSimpArgs false

theorem infoA : (Try.prog.info? 40).map (·.size) = some 94 := by kernel_rfl
theorem zeroA (w : World) : (zeroValue 40).run Try.prog w = .ok (arrV .i32 (List.replicate 94 0)) w := by kernel_rfl
theorem zeroB : (Try.prog.info? 40).bind (·.zero) = some (arrV .i32 (List.replicate 94 0)) := by kernel_rfl
theorem infoR : (Try.prog.info? 21).map (·.size) = some 1 := by kernel_rfl
/-- A kind's list as the program has it: zeros where it is none. -/
def tabI (k : Int) : List Int := if k ∈ kinds then (tab k).map (fun n : Nat => (n : Int)) else List.replicate 94 0
theorem tabI_len (k : Int) : (tabI k).length = 94 := by
  unfold tabI
  split
  · rename_i h; rw [List.length_map, tab_len h]
  · rw [List.length_replicate]
theorem zlen : (List.replicate 94 (0 : Int)).length = 94 := List.length_replicate
set_option maxRecDepth 100000 in
set_option maxHeartbeats 1000000 in
theorem arr1 (w : World) : Calls Try.prog 19 #[] w fun e w' => e = .returned (arrV .i32 (tabI 1)) ∧ w.grownBy w' none := by
  go_enter Try.func19, Try.ntmps19
  go_upto_region 1 with (refine wpList_allocA _ rfl 40 rfl (List.replicate 94 0) (zeroA _) ?_; intro w1 ha1 hg1)
  refine wp_region_lit ?_
  refine wpList_buildA (q := .i32) _ rfl 40 _ rfl 94 21 Try.underlying40 _ zeroB (arrV_size _ _ zlen) infoR (tabI 1) (tabI_len 1) (by kernel_rfl) ?_
  refine wpList_storeA _ rfl 40 _ _ rfl 94 infoA w.heap.size (List.replicate 94 0) (tabI 1) zlen (tabI_len 1) rfl rfl ha1 ?_; intro w2 ha2 hg2
  refine wpList_nil ?_
  go_wp2
  refine bodyPost_ret (v := arrV .i32 (tabI 1)) (results_cell_row Try.results19 _ w2 w.heap.size 40 _ (0, 0) _ rfl ha2 Try.underlying40 rfl (by rw [infoA]; simp [tabI_len])) rfl ⟨rfl, ?_⟩
  exact grownBy_new hg1 hg2 (fun k hk => by have h5 := Option.some.inj hk; omega)
set_option maxRecDepth 100000 in
set_option maxHeartbeats 1000000 in
theorem arr2 (w : World) : Calls Try.prog 20 #[] w fun e w' => e = .returned (arrV .i32 (tabI 2)) ∧ w.grownBy w' none := by
  go_enter Try.func20, Try.ntmps20
  go_upto_region 1 with (refine wpList_allocA _ rfl 40 rfl (List.replicate 94 0) (zeroA _) ?_; intro w1 ha1 hg1)
  refine wp_region_lit ?_
  refine wpList_buildA (q := .i32) _ rfl 40 _ rfl 94 21 Try.underlying40 _ zeroB (arrV_size _ _ zlen) infoR (tabI 2) (tabI_len 2) (by kernel_rfl) ?_
  refine wpList_storeA _ rfl 40 _ _ rfl 94 infoA w.heap.size (List.replicate 94 0) (tabI 2) zlen (tabI_len 2) rfl rfl ha1 ?_; intro w2 ha2 hg2
  refine wpList_nil ?_
  go_wp2
  refine bodyPost_ret (v := arrV .i32 (tabI 2)) (results_cell_row Try.results20 _ w2 w.heap.size 40 _ (0, 0) _ rfl ha2 Try.underlying40 rfl (by rw [infoA]; simp [tabI_len])) rfl ⟨rfl, ?_⟩
  exact grownBy_new hg1 hg2 (fun k hk => by have h5 := Option.some.inj hk; omega)
set_option maxRecDepth 100000 in
set_option maxHeartbeats 1000000 in
theorem arr3 (w : World) : Calls Try.prog 21 #[] w fun e w' => e = .returned (arrV .i32 (tabI 3)) ∧ w.grownBy w' none := by
  go_enter Try.func21, Try.ntmps21
  go_upto_region 1 with (refine wpList_allocA _ rfl 40 rfl (List.replicate 94 0) (zeroA _) ?_; intro w1 ha1 hg1)
  refine wp_region_lit ?_
  refine wpList_buildA (q := .i32) _ rfl 40 _ rfl 94 21 Try.underlying40 _ zeroB (arrV_size _ _ zlen) infoR (tabI 3) (tabI_len 3) (by kernel_rfl) ?_
  refine wpList_storeA _ rfl 40 _ _ rfl 94 infoA w.heap.size (List.replicate 94 0) (tabI 3) zlen (tabI_len 3) rfl rfl ha1 ?_; intro w2 ha2 hg2
  refine wpList_nil ?_
  go_wp2
  refine bodyPost_ret (v := arrV .i32 (tabI 3)) (results_cell_row Try.results21 _ w2 w.heap.size 40 _ (0, 0) _ rfl ha2 Try.underlying40 rfl (by rw [infoA]; simp [tabI_len])) rfl ⟨rfl, ?_⟩
  exact grownBy_new hg1 hg2 (fun k hk => by have h5 := Option.some.inj hk; omega)
set_option maxRecDepth 100000 in
set_option maxHeartbeats 1000000 in
theorem arr4 (w : World) : Calls Try.prog 22 #[] w fun e w' => e = .returned (arrV .i32 (tabI 4)) ∧ w.grownBy w' none := by
  go_enter Try.func22, Try.ntmps22
  go_upto_region 1 with (refine wpList_allocA _ rfl 40 rfl (List.replicate 94 0) (zeroA _) ?_; intro w1 ha1 hg1)
  refine wp_region_lit ?_
  refine wpList_buildA (q := .i32) _ rfl 40 _ rfl 94 21 Try.underlying40 _ zeroB (arrV_size _ _ zlen) infoR (tabI 4) (tabI_len 4) (by kernel_rfl) ?_
  refine wpList_storeA _ rfl 40 _ _ rfl 94 infoA w.heap.size (List.replicate 94 0) (tabI 4) zlen (tabI_len 4) rfl rfl ha1 ?_; intro w2 ha2 hg2
  refine wpList_nil ?_
  go_wp2
  refine bodyPost_ret (v := arrV .i32 (tabI 4)) (results_cell_row Try.results22 _ w2 w.heap.size 40 _ (0, 0) _ rfl ha2 Try.underlying40 rfl (by rw [infoA]; simp [tabI_len])) rfl ⟨rfl, ?_⟩
  exact grownBy_new hg1 hg2 (fun k hk => by have h5 := Option.some.inj hk; omega)
set_option maxRecDepth 100000 in
set_option maxHeartbeats 1000000 in
theorem arr5 (w : World) : Calls Try.prog 23 #[] w fun e w' => e = .returned (arrV .i32 (tabI 5)) ∧ w.grownBy w' none := by
  go_enter Try.func23, Try.ntmps23
  go_upto_region 1 with (refine wpList_allocA _ rfl 40 rfl (List.replicate 94 0) (zeroA _) ?_; intro w1 ha1 hg1)
  refine wp_region_lit ?_
  refine wpList_buildA (q := .i32) _ rfl 40 _ rfl 94 21 Try.underlying40 _ zeroB (arrV_size _ _ zlen) infoR (tabI 5) (tabI_len 5) (by kernel_rfl) ?_
  refine wpList_storeA _ rfl 40 _ _ rfl 94 infoA w.heap.size (List.replicate 94 0) (tabI 5) zlen (tabI_len 5) rfl rfl ha1 ?_; intro w2 ha2 hg2
  refine wpList_nil ?_
  go_wp2
  refine bodyPost_ret (v := arrV .i32 (tabI 5)) (results_cell_row Try.results23 _ w2 w.heap.size 40 _ (0, 0) _ rfl ha2 Try.underlying40 rfl (by rw [infoA]; simp [tabI_len])) rfl ⟨rfl, ?_⟩
  exact grownBy_new hg1 hg2 (fun k hk => by have h5 := Option.some.inj hk; omega)
set_option maxRecDepth 100000 in
set_option maxHeartbeats 1000000 in
theorem arr6 (w : World) : Calls Try.prog 24 #[] w fun e w' => e = .returned (arrV .i32 (tabI 6)) ∧ w.grownBy w' none := by
  go_enter Try.func24, Try.ntmps24
  go_upto_region 1 with (refine wpList_allocA _ rfl 40 rfl (List.replicate 94 0) (zeroA _) ?_; intro w1 ha1 hg1)
  refine wp_region_lit ?_
  refine wpList_buildA (q := .i32) _ rfl 40 _ rfl 94 21 Try.underlying40 _ zeroB (arrV_size _ _ zlen) infoR (tabI 6) (tabI_len 6) (by kernel_rfl) ?_
  refine wpList_storeA _ rfl 40 _ _ rfl 94 infoA w.heap.size (List.replicate 94 0) (tabI 6) zlen (tabI_len 6) rfl rfl ha1 ?_; intro w2 ha2 hg2
  refine wpList_nil ?_
  go_wp2
  refine bodyPost_ret (v := arrV .i32 (tabI 6)) (results_cell_row Try.results24 _ w2 w.heap.size 40 _ (0, 0) _ rfl ha2 Try.underlying40 rfl (by rw [infoA]; simp [tabI_len])) rfl ⟨rfl, ?_⟩
  exact grownBy_new hg1 hg2 (fun k hk => by have h5 := Option.some.inj hk; omega)
set_option maxRecDepth 100000 in
set_option maxHeartbeats 1000000 in
theorem arr7 (w : World) : Calls Try.prog 25 #[] w fun e w' => e = .returned (arrV .i32 (tabI 7)) ∧ w.grownBy w' none := by
  go_enter Try.func25, Try.ntmps25
  go_upto_region 1 with (refine wpList_allocA _ rfl 40 rfl (List.replicate 94 0) (zeroA _) ?_; intro w1 ha1 hg1)
  refine wp_region_lit ?_
  refine wpList_buildA (q := .i32) _ rfl 40 _ rfl 94 21 Try.underlying40 _ zeroB (arrV_size _ _ zlen) infoR (tabI 7) (tabI_len 7) (by kernel_rfl) ?_
  refine wpList_storeA _ rfl 40 _ _ rfl 94 infoA w.heap.size (List.replicate 94 0) (tabI 7) zlen (tabI_len 7) rfl rfl ha1 ?_; intro w2 ha2 hg2
  refine wpList_nil ?_
  go_wp2
  refine bodyPost_ret (v := arrV .i32 (tabI 7)) (results_cell_row Try.results25 _ w2 w.heap.size 40 _ (0, 0) _ rfl ha2 Try.underlying40 rfl (by rw [infoA]; simp [tabI_len])) rfl ⟨rfl, ?_⟩
  exact grownBy_new hg1 hg2 (fun k hk => by have h5 := Option.some.inj hk; omega)
set_option maxRecDepth 100000 in
set_option maxHeartbeats 1000000 in
theorem arr8 (w : World) : Calls Try.prog 26 #[] w fun e w' => e = .returned (arrV .i32 (tabI 8)) ∧ w.grownBy w' none := by
  go_enter Try.func26, Try.ntmps26
  go_upto_region 1 with (refine wpList_allocA _ rfl 40 rfl (List.replicate 94 0) (zeroA _) ?_; intro w1 ha1 hg1)
  refine wp_region_lit ?_
  refine wpList_buildA (q := .i32) _ rfl 40 _ rfl 94 21 Try.underlying40 _ zeroB (arrV_size _ _ zlen) infoR (tabI 8) (tabI_len 8) (by kernel_rfl) ?_
  refine wpList_storeA _ rfl 40 _ _ rfl 94 infoA w.heap.size (List.replicate 94 0) (tabI 8) zlen (tabI_len 8) rfl rfl ha1 ?_; intro w2 ha2 hg2
  refine wpList_nil ?_
  go_wp2
  refine bodyPost_ret (v := arrV .i32 (tabI 8)) (results_cell_row Try.results26 _ w2 w.heap.size 40 _ (0, 0) _ rfl ha2 Try.underlying40 rfl (by rw [infoA]; simp [tabI_len])) rfl ⟨rfl, ?_⟩
  exact grownBy_new hg1 hg2 (fun k hk => by have h5 := Option.some.inj hk; omega)
set_option maxRecDepth 100000 in
set_option maxHeartbeats 1000000 in
theorem arr9 (w : World) : Calls Try.prog 27 #[] w fun e w' => e = .returned (arrV .i32 (tabI 9)) ∧ w.grownBy w' none := by
  go_enter Try.func27, Try.ntmps27
  go_upto_region 1 with (refine wpList_allocA _ rfl 40 rfl (List.replicate 94 0) (zeroA _) ?_; intro w1 ha1 hg1)
  refine wp_region_lit ?_
  refine wpList_buildA (q := .i32) _ rfl 40 _ rfl 94 21 Try.underlying40 _ zeroB (arrV_size _ _ zlen) infoR (tabI 9) (tabI_len 9) (by kernel_rfl) ?_
  refine wpList_storeA _ rfl 40 _ _ rfl 94 infoA w.heap.size (List.replicate 94 0) (tabI 9) zlen (tabI_len 9) rfl rfl ha1 ?_; intro w2 ha2 hg2
  refine wpList_nil ?_
  go_wp2
  refine bodyPost_ret (v := arrV .i32 (tabI 9)) (results_cell_row Try.results27 _ w2 w.heap.size 40 _ (0, 0) _ rfl ha2 Try.underlying40 rfl (by rw [infoA]; simp [tabI_len])) rfl ⟨rfl, ?_⟩
  exact grownBy_new hg1 hg2 (fun k hk => by have h5 := Option.some.inj hk; omega)
set_option maxRecDepth 100000 in
set_option maxHeartbeats 1000000 in
theorem arr16 (w : World) : Calls Try.prog 28 #[] w fun e w' => e = .returned (arrV .i32 (tabI 16)) ∧ w.grownBy w' none := by
  go_enter Try.func28, Try.ntmps28
  go_upto_region 1 with (refine wpList_allocA _ rfl 40 rfl (List.replicate 94 0) (zeroA _) ?_; intro w1 ha1 hg1)
  refine wp_region_lit ?_
  refine wpList_buildA (q := .i32) _ rfl 40 _ rfl 94 21 Try.underlying40 _ zeroB (arrV_size _ _ zlen) infoR (tabI 16) (tabI_len 16) (by kernel_rfl) ?_
  refine wpList_storeA _ rfl 40 _ _ rfl 94 infoA w.heap.size (List.replicate 94 0) (tabI 16) zlen (tabI_len 16) rfl rfl ha1 ?_; intro w2 ha2 hg2
  refine wpList_nil ?_
  go_wp2
  refine bodyPost_ret (v := arrV .i32 (tabI 16)) (results_cell_row Try.results28 _ w2 w.heap.size 40 _ (0, 0) _ rfl ha2 Try.underlying40 rfl (by rw [infoA]; simp [tabI_len])) rfl ⟨rfl, ?_⟩
  exact grownBy_new hg1 hg2 (fun k hk => by have h5 := Option.some.inj hk; omega)
set_option maxRecDepth 100000 in
set_option maxHeartbeats 1000000 in
theorem of1 (w : World) : Calls Try.prog 16 #[.int .i64 1] w fun e w' => e = .returned (.tuple #[arrV .i32 (tabI 1), .bool true]) ∧ w.grownBy w' none := by
  obtain ⟨Z, hZ⟩ : ∃ Z, tabI 1 = Z := ⟨_, rfl⟩
  have hl := tabI_len 1
  have a1 := Hid.mk' (fun w => arr1 w)
  rw [hZ] at hl a1
  rw [hZ]
  have hl0 := Hid.mk' hl
  clear hZ hl
  go_enter Try.func16, Try.ntmps16
  go_upto_region 1 with (refine wpList_allocA _ rfl 40 rfl (List.replicate 94 0) (zeroA _) ?_; intro w1 ha1 hg1)
  go_wp2_with (first
    | (go_at_call 19; refine (a1.out _).mono ?_; rintro e w2 ⟨rfl, hg2⟩)
    | (refine wpList_storeA _ rfl 40 _ _ rfl 94 infoA w.heap.size (List.replicate 94 0) Z zlen hl0.out rfl rfl (ha1.kept0 hg2) ?_; intro w3 ha3 hg3))
  refine bodyPost_ret (v := .tuple #[arrV .i32 Z, .bool true]) (results_cell_row_tmp Try.results16 _ w3 w.heap.size 40 _ (0, 0) _ rfl ha3 Try.underlying40 rfl (by rw [infoA]; simp [hl0.out]) _ rfl) rfl ⟨rfl, ?_⟩
  exact grownBy_new (grownBy_trans hg1 hg2) hg3 (fun k hk => by have h5 := Option.some.inj hk; omega)
set_option maxRecDepth 100000 in
set_option maxHeartbeats 1000000 in
theorem of2 (w : World) : Calls Try.prog 16 #[.int .i64 2] w fun e w' => e = .returned (.tuple #[arrV .i32 (tabI 2), .bool true]) ∧ w.grownBy w' none := by
  obtain ⟨Z, hZ⟩ : ∃ Z, tabI 2 = Z := ⟨_, rfl⟩
  have hl := tabI_len 2
  have a1 := Hid.mk' (fun w => arr2 w)
  rw [hZ] at hl a1
  rw [hZ]
  have hl0 := Hid.mk' hl
  clear hZ hl
  go_enter Try.func16, Try.ntmps16
  go_upto_region 1 with (refine wpList_allocA _ rfl 40 rfl (List.replicate 94 0) (zeroA _) ?_; intro w1 ha1 hg1)
  go_wp2_with (first
    | (go_at_call 20; refine (a1.out _).mono ?_; rintro e w2 ⟨rfl, hg2⟩)
    | (refine wpList_storeA _ rfl 40 _ _ rfl 94 infoA w.heap.size (List.replicate 94 0) Z zlen hl0.out rfl rfl (ha1.kept0 hg2) ?_; intro w3 ha3 hg3))
  refine bodyPost_ret (v := .tuple #[arrV .i32 Z, .bool true]) (results_cell_row_tmp Try.results16 _ w3 w.heap.size 40 _ (0, 0) _ rfl ha3 Try.underlying40 rfl (by rw [infoA]; simp [hl0.out]) _ rfl) rfl ⟨rfl, ?_⟩
  exact grownBy_new (grownBy_trans hg1 hg2) hg3 (fun k hk => by have h5 := Option.some.inj hk; omega)
set_option maxRecDepth 100000 in
set_option maxHeartbeats 1000000 in
theorem of3 (w : World) : Calls Try.prog 16 #[.int .i64 3] w fun e w' => e = .returned (.tuple #[arrV .i32 (tabI 3), .bool true]) ∧ w.grownBy w' none := by
  obtain ⟨Z, hZ⟩ : ∃ Z, tabI 3 = Z := ⟨_, rfl⟩
  have hl := tabI_len 3
  have a1 := Hid.mk' (fun w => arr3 w)
  rw [hZ] at hl a1
  rw [hZ]
  have hl0 := Hid.mk' hl
  clear hZ hl
  go_enter Try.func16, Try.ntmps16
  go_upto_region 1 with (refine wpList_allocA _ rfl 40 rfl (List.replicate 94 0) (zeroA _) ?_; intro w1 ha1 hg1)
  go_wp2_with (first
    | (go_at_call 21; refine (a1.out _).mono ?_; rintro e w2 ⟨rfl, hg2⟩)
    | (refine wpList_storeA _ rfl 40 _ _ rfl 94 infoA w.heap.size (List.replicate 94 0) Z zlen hl0.out rfl rfl (ha1.kept0 hg2) ?_; intro w3 ha3 hg3))
  refine bodyPost_ret (v := .tuple #[arrV .i32 Z, .bool true]) (results_cell_row_tmp Try.results16 _ w3 w.heap.size 40 _ (0, 0) _ rfl ha3 Try.underlying40 rfl (by rw [infoA]; simp [hl0.out]) _ rfl) rfl ⟨rfl, ?_⟩
  exact grownBy_new (grownBy_trans hg1 hg2) hg3 (fun k hk => by have h5 := Option.some.inj hk; omega)
set_option maxRecDepth 100000 in
set_option maxHeartbeats 1000000 in
theorem of4 (w : World) : Calls Try.prog 16 #[.int .i64 4] w fun e w' => e = .returned (.tuple #[arrV .i32 (tabI 4), .bool true]) ∧ w.grownBy w' none := by
  obtain ⟨Z, hZ⟩ : ∃ Z, tabI 4 = Z := ⟨_, rfl⟩
  have hl := tabI_len 4
  have a1 := Hid.mk' (fun w => arr4 w)
  rw [hZ] at hl a1
  rw [hZ]
  have hl0 := Hid.mk' hl
  clear hZ hl
  go_enter Try.func16, Try.ntmps16
  go_upto_region 1 with (refine wpList_allocA _ rfl 40 rfl (List.replicate 94 0) (zeroA _) ?_; intro w1 ha1 hg1)
  go_wp2_with (first
    | (go_at_call 22; refine (a1.out _).mono ?_; rintro e w2 ⟨rfl, hg2⟩)
    | (refine wpList_storeA _ rfl 40 _ _ rfl 94 infoA w.heap.size (List.replicate 94 0) Z zlen hl0.out rfl rfl (ha1.kept0 hg2) ?_; intro w3 ha3 hg3))
  refine bodyPost_ret (v := .tuple #[arrV .i32 Z, .bool true]) (results_cell_row_tmp Try.results16 _ w3 w.heap.size 40 _ (0, 0) _ rfl ha3 Try.underlying40 rfl (by rw [infoA]; simp [hl0.out]) _ rfl) rfl ⟨rfl, ?_⟩
  exact grownBy_new (grownBy_trans hg1 hg2) hg3 (fun k hk => by have h5 := Option.some.inj hk; omega)
set_option maxRecDepth 100000 in
set_option maxHeartbeats 1000000 in
theorem of5 (w : World) : Calls Try.prog 16 #[.int .i64 5] w fun e w' => e = .returned (.tuple #[arrV .i32 (tabI 5), .bool true]) ∧ w.grownBy w' none := by
  obtain ⟨Z, hZ⟩ : ∃ Z, tabI 5 = Z := ⟨_, rfl⟩
  have hl := tabI_len 5
  have a1 := Hid.mk' (fun w => arr5 w)
  rw [hZ] at hl a1
  rw [hZ]
  have hl0 := Hid.mk' hl
  clear hZ hl
  go_enter Try.func16, Try.ntmps16
  go_upto_region 1 with (refine wpList_allocA _ rfl 40 rfl (List.replicate 94 0) (zeroA _) ?_; intro w1 ha1 hg1)
  go_wp2_with (first
    | (go_at_call 23; refine (a1.out _).mono ?_; rintro e w2 ⟨rfl, hg2⟩)
    | (refine wpList_storeA _ rfl 40 _ _ rfl 94 infoA w.heap.size (List.replicate 94 0) Z zlen hl0.out rfl rfl (ha1.kept0 hg2) ?_; intro w3 ha3 hg3))
  refine bodyPost_ret (v := .tuple #[arrV .i32 Z, .bool true]) (results_cell_row_tmp Try.results16 _ w3 w.heap.size 40 _ (0, 0) _ rfl ha3 Try.underlying40 rfl (by rw [infoA]; simp [hl0.out]) _ rfl) rfl ⟨rfl, ?_⟩
  exact grownBy_new (grownBy_trans hg1 hg2) hg3 (fun k hk => by have h5 := Option.some.inj hk; omega)
set_option maxRecDepth 100000 in
set_option maxHeartbeats 1000000 in
theorem of6 (w : World) : Calls Try.prog 16 #[.int .i64 6] w fun e w' => e = .returned (.tuple #[arrV .i32 (tabI 6), .bool true]) ∧ w.grownBy w' none := by
  obtain ⟨Z, hZ⟩ : ∃ Z, tabI 6 = Z := ⟨_, rfl⟩
  have hl := tabI_len 6
  have a1 := Hid.mk' (fun w => arr6 w)
  rw [hZ] at hl a1
  rw [hZ]
  have hl0 := Hid.mk' hl
  clear hZ hl
  go_enter Try.func16, Try.ntmps16
  go_upto_region 1 with (refine wpList_allocA _ rfl 40 rfl (List.replicate 94 0) (zeroA _) ?_; intro w1 ha1 hg1)
  go_wp2_with (first
    | (go_at_call 24; refine (a1.out _).mono ?_; rintro e w2 ⟨rfl, hg2⟩)
    | (refine wpList_storeA _ rfl 40 _ _ rfl 94 infoA w.heap.size (List.replicate 94 0) Z zlen hl0.out rfl rfl (ha1.kept0 hg2) ?_; intro w3 ha3 hg3))
  refine bodyPost_ret (v := .tuple #[arrV .i32 Z, .bool true]) (results_cell_row_tmp Try.results16 _ w3 w.heap.size 40 _ (0, 0) _ rfl ha3 Try.underlying40 rfl (by rw [infoA]; simp [hl0.out]) _ rfl) rfl ⟨rfl, ?_⟩
  exact grownBy_new (grownBy_trans hg1 hg2) hg3 (fun k hk => by have h5 := Option.some.inj hk; omega)
set_option maxRecDepth 100000 in
set_option maxHeartbeats 1000000 in
theorem of7 (w : World) : Calls Try.prog 16 #[.int .i64 7] w fun e w' => e = .returned (.tuple #[arrV .i32 (tabI 7), .bool true]) ∧ w.grownBy w' none := by
  obtain ⟨Z, hZ⟩ : ∃ Z, tabI 7 = Z := ⟨_, rfl⟩
  have hl := tabI_len 7
  have a1 := Hid.mk' (fun w => arr7 w)
  rw [hZ] at hl a1
  rw [hZ]
  have hl0 := Hid.mk' hl
  clear hZ hl
  go_enter Try.func16, Try.ntmps16
  go_upto_region 1 with (refine wpList_allocA _ rfl 40 rfl (List.replicate 94 0) (zeroA _) ?_; intro w1 ha1 hg1)
  go_wp2_with (first
    | (go_at_call 25; refine (a1.out _).mono ?_; rintro e w2 ⟨rfl, hg2⟩)
    | (refine wpList_storeA _ rfl 40 _ _ rfl 94 infoA w.heap.size (List.replicate 94 0) Z zlen hl0.out rfl rfl (ha1.kept0 hg2) ?_; intro w3 ha3 hg3))
  refine bodyPost_ret (v := .tuple #[arrV .i32 Z, .bool true]) (results_cell_row_tmp Try.results16 _ w3 w.heap.size 40 _ (0, 0) _ rfl ha3 Try.underlying40 rfl (by rw [infoA]; simp [hl0.out]) _ rfl) rfl ⟨rfl, ?_⟩
  exact grownBy_new (grownBy_trans hg1 hg2) hg3 (fun k hk => by have h5 := Option.some.inj hk; omega)
set_option maxRecDepth 100000 in
set_option maxHeartbeats 1000000 in
theorem of8 (w : World) : Calls Try.prog 16 #[.int .i64 8] w fun e w' => e = .returned (.tuple #[arrV .i32 (tabI 8), .bool true]) ∧ w.grownBy w' none := by
  obtain ⟨Z, hZ⟩ : ∃ Z, tabI 8 = Z := ⟨_, rfl⟩
  have hl := tabI_len 8
  have a1 := Hid.mk' (fun w => arr8 w)
  rw [hZ] at hl a1
  rw [hZ]
  have hl0 := Hid.mk' hl
  clear hZ hl
  go_enter Try.func16, Try.ntmps16
  go_upto_region 1 with (refine wpList_allocA _ rfl 40 rfl (List.replicate 94 0) (zeroA _) ?_; intro w1 ha1 hg1)
  go_wp2_with (first
    | (go_at_call 26; refine (a1.out _).mono ?_; rintro e w2 ⟨rfl, hg2⟩)
    | (refine wpList_storeA _ rfl 40 _ _ rfl 94 infoA w.heap.size (List.replicate 94 0) Z zlen hl0.out rfl rfl (ha1.kept0 hg2) ?_; intro w3 ha3 hg3))
  refine bodyPost_ret (v := .tuple #[arrV .i32 Z, .bool true]) (results_cell_row_tmp Try.results16 _ w3 w.heap.size 40 _ (0, 0) _ rfl ha3 Try.underlying40 rfl (by rw [infoA]; simp [hl0.out]) _ rfl) rfl ⟨rfl, ?_⟩
  exact grownBy_new (grownBy_trans hg1 hg2) hg3 (fun k hk => by have h5 := Option.some.inj hk; omega)
set_option maxRecDepth 100000 in
set_option maxHeartbeats 1000000 in
theorem of9 (w : World) : Calls Try.prog 16 #[.int .i64 9] w fun e w' => e = .returned (.tuple #[arrV .i32 (tabI 9), .bool true]) ∧ w.grownBy w' none := by
  obtain ⟨Z, hZ⟩ : ∃ Z, tabI 9 = Z := ⟨_, rfl⟩
  have hl := tabI_len 9
  have a1 := Hid.mk' (fun w => arr9 w)
  rw [hZ] at hl a1
  rw [hZ]
  have hl0 := Hid.mk' hl
  clear hZ hl
  go_enter Try.func16, Try.ntmps16
  go_upto_region 1 with (refine wpList_allocA _ rfl 40 rfl (List.replicate 94 0) (zeroA _) ?_; intro w1 ha1 hg1)
  go_wp2_with (first
    | (go_at_call 27; refine (a1.out _).mono ?_; rintro e w2 ⟨rfl, hg2⟩)
    | (refine wpList_storeA _ rfl 40 _ _ rfl 94 infoA w.heap.size (List.replicate 94 0) Z zlen hl0.out rfl rfl (ha1.kept0 hg2) ?_; intro w3 ha3 hg3))
  refine bodyPost_ret (v := .tuple #[arrV .i32 Z, .bool true]) (results_cell_row_tmp Try.results16 _ w3 w.heap.size 40 _ (0, 0) _ rfl ha3 Try.underlying40 rfl (by rw [infoA]; simp [hl0.out]) _ rfl) rfl ⟨rfl, ?_⟩
  exact grownBy_new (grownBy_trans hg1 hg2) hg3 (fun k hk => by have h5 := Option.some.inj hk; omega)
set_option maxRecDepth 100000 in
set_option maxHeartbeats 1000000 in
theorem of16 (w : World) : Calls Try.prog 16 #[.int .i64 16] w fun e w' => e = .returned (.tuple #[arrV .i32 (tabI 16), .bool true]) ∧ w.grownBy w' none := by
  obtain ⟨Z, hZ⟩ : ∃ Z, tabI 16 = Z := ⟨_, rfl⟩
  have hl := tabI_len 16
  have a1 := Hid.mk' (fun w => arr16 w)
  rw [hZ] at hl a1
  rw [hZ]
  have hl0 := Hid.mk' hl
  clear hZ hl
  go_enter Try.func16, Try.ntmps16
  go_upto_region 1 with (refine wpList_allocA _ rfl 40 rfl (List.replicate 94 0) (zeroA _) ?_; intro w1 ha1 hg1)
  go_wp2_with (first
    | (go_at_call 28; refine (a1.out _).mono ?_; rintro e w2 ⟨rfl, hg2⟩)
    | (refine wpList_storeA _ rfl 40 _ _ rfl 94 infoA w.heap.size (List.replicate 94 0) Z zlen hl0.out rfl rfl (ha1.kept0 hg2) ?_; intro w3 ha3 hg3))
  refine bodyPost_ret (v := .tuple #[arrV .i32 Z, .bool true]) (results_cell_row_tmp Try.results16 _ w3 w.heap.size 40 _ (0, 0) _ rfl ha3 Try.underlying40 rfl (by rw [infoA]; simp [hl0.out]) _ rfl) rfl ⟨rfl, ?_⟩
  exact grownBy_new (grownBy_trans hg1 hg2) hg3 (fun k hk => by have h5 := Option.some.inj hk; omega)
set_option maxRecDepth 100000 in
set_option maxHeartbeats 1000000 in
theorem of_none (k : Int) (w : World) (h1 : ¬ k = 1) (h2 : ¬ k = 2) (h3 : ¬ k = 3) (h4 : ¬ k = 4) (h5 : ¬ k = 5) (h6 : ¬ k = 6) (h7 : ¬ k = 7) (h8 : ¬ k = 8) (h9 : ¬ k = 9) (h16 : ¬ k = 16) : Calls Try.prog 16 #[.int .i64 k] w fun e w' => e = .returned (.tuple #[arrV .i32 (List.replicate 94 0), .bool false]) ∧ w.grownBy w' none := by
  have b1 : (k == 1) = false := by simpa using h1
  have b2 : (k == 2) = false := by simpa using h2
  have b3 : (k == 3) = false := by simpa using h3
  have b4 : (k == 4) = false := by simpa using h4
  have b5 : (k == 5) = false := by simpa using h5
  have b6 : (k == 6) = false := by simpa using h6
  have b7 : (k == 7) = false := by simpa using h7
  have b8 : (k == 8) = false := by simpa using h8
  have b9 : (k == 9) = false := by simpa using h9
  have b16 : (k == 16) = false := by simpa using h16
  obtain ⟨Z, hZ⟩ : ∃ Z : List Int, List.replicate 94 (0 : Int) = Z := ⟨_, rfl⟩
  have hl := zlen
  have hz := Hid.mk' (fun w => zeroA w)
  have hb := Hid.mk' zeroB
  rw [hZ] at hl hz hb
  rw [hZ]
  have hl0 := Hid.mk' hl
  clear hZ hl
  go_enter Try.func16, Try.ntmps16
  go_upto_region 1 with (refine wpList_allocA _ rfl 40 rfl Z (hz.out _) ?_; intro w1 ha1 hg1)
  go_wp2_with (first
    | (refine wpList_buildZ _ rfl 40 rfl 94 21 Try.underlying40 Z hb.out infoR ?_)
    | (refine wpList_storeA _ rfl 40 _ _ rfl 94 infoA w.heap.size Z Z hl0.out hl0.out rfl rfl ha1 ?_; intro w3 ha3 hg3))
  refine bodyPost_ret (v := .tuple #[arrV .i32 Z, .bool false]) (results_cell_row_tmp Try.results16 _ w3 w.heap.size 40 _ (0, 0) _ rfl ha3 Try.underlying40 rfl (by rw [infoA]; simp [hl0.out]) _ rfl) rfl ⟨rfl, ?_⟩
  exact grownBy_new hg1 hg3 (fun k hk => by have h5 := Option.some.inj hk; omega)
theorem of_any (k : Int) (H : Bool) (hH : Hid (decide (k ∈ kinds) = H)) (w : World) : Calls Try.prog 16 #[.int .i64 k] w fun e w' => e = .returned (.tuple #[arrV .i32 (tabI k), .bool H]) ∧ w.grownBy w' none := by
  by_cases h : k ∈ kinds
  · obtain rfl : H = true := by rw [← hH.out]; exact decide_eq_true h
    clear hH
    have gen : ∀ k ∈ kinds, Calls Try.prog 16 #[.int .i64 k] w fun e w' => e = .returned (.tuple #[arrV .i32 (tabI k), .bool true]) ∧ w.grownBy w' none := by
      intro k hk
      simp only [kinds, List.mem_cons, List.not_mem_nil, or_false] at hk
      rcases hk with rfl | rfl | rfl | rfl | rfl | rfl | rfl | rfl | rfl | rfl
      · exact of1 w
      · exact of2 w
      · exact of3 w
      · exact of4 w
      · exact of5 w
      · exact of6 w
      · exact of7 w
      · exact of8 w
      · exact of9 w
      · exact of16 w
    exact gen k h
  · obtain rfl : H = false := by rw [← hH.out]; exact decide_eq_false h
    rw [tabI, if_neg h]
    simp only [kinds, List.mem_cons, List.not_mem_nil, or_false, not_or] at h
    obtain ⟨a1, a2, a3, a4, a5, a6, a7, a8, a9, a10⟩ := h
    exact of_none k w a1 a2 a3 a4 a5 a6 a7 a8 a9 a10
end Go.Proofs.Ytpkhkeamnfoekaa.C15

/- The program's lists of layer 11, and the one of a kind: walks. -/
import Derived.Test.YtjmpdlkckpediaaDoorRf11
import Derived.Test.YtjmpdlkckpediaaDoorAr
namespace Go.Proofs.YtjmpdlkckpediaaDoor.C11
open Go.ChangeShapes Go.WideShapes Go.ChangeAt Go.RowKit Go.Proofs.YtjmpdlkckpediaaDoor.Mem Go.Proofs.YtjmpdlkckpediaaDoor.Ar
set_option linter.unusedVariables false
set_option linter.unusedSimpArgs false

theorem infoA : (Tryd.prog.info? 55).map (·.size) = some 128 := by kernel_rfl
theorem zeroA (w : World) : (zeroValue 55).run Tryd.prog w = .ok (arrV .i32 (List.replicate 128 0)) w := by kernel_rfl
theorem zeroB : (Tryd.prog.info? 55).bind (·.zero) = some (arrV .i32 (List.replicate 128 0)) := by kernel_rfl
theorem infoR : (Tryd.prog.info? 21).map (·.size) = some 1 := by kernel_rfl
/-- A kind's list as the program has it: zeros where it is none. -/
def tabI (k : Int) : List Int := if k ∈ kinds then (tab k).map (fun n : Nat => (n : Int)) else List.replicate 128 0
theorem tabI_len (k : Int) : (tabI k).length = 128 := by
  unfold tabI
  split
  · rename_i h; rw [List.length_map, tab_len h]
  · rw [List.length_replicate]
theorem zlen : (List.replicate 128 (0 : Int)).length = 128 := List.length_replicate
set_option maxRecDepth 100000 in
set_option maxHeartbeats 1000000 in
theorem arr60 (w : World) : Calls Tryd.prog 21 #[] w fun e w' => e = .returned (arrV .i32 (tabI 60)) ∧ w.grownBy w' none := by
  go_enter Tryd.func21, Tryd.ntmps21
  go_upto_region 1 with (refine wpList_allocA _ rfl 55 rfl (List.replicate 128 0) (zeroA _) ?_; intro w1 ha1 hg1)
  refine wp_region_lit ?_
  refine wpList_buildA (q := .i32) _ rfl 55 _ rfl 128 21 Tryd.underlying55 _ zeroB (arrV_size _ _ zlen) infoR (tabI 60) (tabI_len 60) (by kernel_rfl) ?_
  refine wpList_storeA _ rfl 55 _ _ rfl 128 infoA w.heap.size (List.replicate 128 0) (tabI 60) zlen (tabI_len 60) rfl rfl ha1 ?_; intro w2 ha2 hg2
  refine wpList_nil ?_
  go_wp2
  refine bodyPost_ret (v := arrV .i32 (tabI 60)) (results_cell_row Tryd.results21 _ w2 w.heap.size 55 _ (0, 0) _ rfl ha2 Tryd.underlying55 rfl (by rw [infoA]; simp [tabI_len])) rfl ⟨rfl, ?_⟩
  exact grownBy_new hg1 hg2 (fun k hk => by have h5 := Option.some.inj hk; omega)
set_option maxRecDepth 100000 in
set_option maxHeartbeats 1000000 in
theorem arr61 (w : World) : Calls Tryd.prog 22 #[] w fun e w' => e = .returned (arrV .i32 (tabI 61)) ∧ w.grownBy w' none := by
  go_enter Tryd.func22, Tryd.ntmps22
  go_upto_region 1 with (refine wpList_allocA _ rfl 55 rfl (List.replicate 128 0) (zeroA _) ?_; intro w1 ha1 hg1)
  refine wp_region_lit ?_
  refine wpList_buildA (q := .i32) _ rfl 55 _ rfl 128 21 Tryd.underlying55 _ zeroB (arrV_size _ _ zlen) infoR (tabI 61) (tabI_len 61) (by kernel_rfl) ?_
  refine wpList_storeA _ rfl 55 _ _ rfl 128 infoA w.heap.size (List.replicate 128 0) (tabI 61) zlen (tabI_len 61) rfl rfl ha1 ?_; intro w2 ha2 hg2
  refine wpList_nil ?_
  go_wp2
  refine bodyPost_ret (v := arrV .i32 (tabI 61)) (results_cell_row Tryd.results22 _ w2 w.heap.size 55 _ (0, 0) _ rfl ha2 Tryd.underlying55 rfl (by rw [infoA]; simp [tabI_len])) rfl ⟨rfl, ?_⟩
  exact grownBy_new hg1 hg2 (fun k hk => by have h5 := Option.some.inj hk; omega)
set_option maxRecDepth 100000 in
set_option maxHeartbeats 1000000 in
theorem arr62 (w : World) : Calls Tryd.prog 23 #[] w fun e w' => e = .returned (arrV .i32 (tabI 62)) ∧ w.grownBy w' none := by
  go_enter Tryd.func23, Tryd.ntmps23
  go_upto_region 1 with (refine wpList_allocA _ rfl 55 rfl (List.replicate 128 0) (zeroA _) ?_; intro w1 ha1 hg1)
  refine wp_region_lit ?_
  refine wpList_buildA (q := .i32) _ rfl 55 _ rfl 128 21 Tryd.underlying55 _ zeroB (arrV_size _ _ zlen) infoR (tabI 62) (tabI_len 62) (by kernel_rfl) ?_
  refine wpList_storeA _ rfl 55 _ _ rfl 128 infoA w.heap.size (List.replicate 128 0) (tabI 62) zlen (tabI_len 62) rfl rfl ha1 ?_; intro w2 ha2 hg2
  refine wpList_nil ?_
  go_wp2
  refine bodyPost_ret (v := arrV .i32 (tabI 62)) (results_cell_row Tryd.results23 _ w2 w.heap.size 55 _ (0, 0) _ rfl ha2 Tryd.underlying55 rfl (by rw [infoA]; simp [tabI_len])) rfl ⟨rfl, ?_⟩
  exact grownBy_new hg1 hg2 (fun k hk => by have h5 := Option.some.inj hk; omega)
set_option maxRecDepth 100000 in
set_option maxHeartbeats 1000000 in
theorem arr63 (w : World) : Calls Tryd.prog 24 #[] w fun e w' => e = .returned (arrV .i32 (tabI 63)) ∧ w.grownBy w' none := by
  go_enter Tryd.func24, Tryd.ntmps24
  go_upto_region 1 with (refine wpList_allocA _ rfl 55 rfl (List.replicate 128 0) (zeroA _) ?_; intro w1 ha1 hg1)
  refine wp_region_lit ?_
  refine wpList_buildA (q := .i32) _ rfl 55 _ rfl 128 21 Tryd.underlying55 _ zeroB (arrV_size _ _ zlen) infoR (tabI 63) (tabI_len 63) (by kernel_rfl) ?_
  refine wpList_storeA _ rfl 55 _ _ rfl 128 infoA w.heap.size (List.replicate 128 0) (tabI 63) zlen (tabI_len 63) rfl rfl ha1 ?_; intro w2 ha2 hg2
  refine wpList_nil ?_
  go_wp2
  refine bodyPost_ret (v := arrV .i32 (tabI 63)) (results_cell_row Tryd.results24 _ w2 w.heap.size 55 _ (0, 0) _ rfl ha2 Tryd.underlying55 rfl (by rw [infoA]; simp [tabI_len])) rfl ⟨rfl, ?_⟩
  exact grownBy_new hg1 hg2 (fun k hk => by have h5 := Option.some.inj hk; omega)
set_option maxRecDepth 100000 in
set_option maxHeartbeats 1000000 in
theorem arr64 (w : World) : Calls Tryd.prog 25 #[] w fun e w' => e = .returned (arrV .i32 (tabI 64)) ∧ w.grownBy w' none := by
  go_enter Tryd.func25, Tryd.ntmps25
  go_upto_region 1 with (refine wpList_allocA _ rfl 55 rfl (List.replicate 128 0) (zeroA _) ?_; intro w1 ha1 hg1)
  refine wp_region_lit ?_
  refine wpList_buildA (q := .i32) _ rfl 55 _ rfl 128 21 Tryd.underlying55 _ zeroB (arrV_size _ _ zlen) infoR (tabI 64) (tabI_len 64) (by kernel_rfl) ?_
  refine wpList_storeA _ rfl 55 _ _ rfl 128 infoA w.heap.size (List.replicate 128 0) (tabI 64) zlen (tabI_len 64) rfl rfl ha1 ?_; intro w2 ha2 hg2
  refine wpList_nil ?_
  go_wp2
  refine bodyPost_ret (v := arrV .i32 (tabI 64)) (results_cell_row Tryd.results25 _ w2 w.heap.size 55 _ (0, 0) _ rfl ha2 Tryd.underlying55 rfl (by rw [infoA]; simp [tabI_len])) rfl ⟨rfl, ?_⟩
  exact grownBy_new hg1 hg2 (fun k hk => by have h5 := Option.some.inj hk; omega)
set_option maxRecDepth 100000 in
set_option maxHeartbeats 1000000 in
theorem arr65 (w : World) : Calls Tryd.prog 26 #[] w fun e w' => e = .returned (arrV .i32 (tabI 65)) ∧ w.grownBy w' none := by
  go_enter Tryd.func26, Tryd.ntmps26
  go_upto_region 1 with (refine wpList_allocA _ rfl 55 rfl (List.replicate 128 0) (zeroA _) ?_; intro w1 ha1 hg1)
  refine wp_region_lit ?_
  refine wpList_buildA (q := .i32) _ rfl 55 _ rfl 128 21 Tryd.underlying55 _ zeroB (arrV_size _ _ zlen) infoR (tabI 65) (tabI_len 65) (by kernel_rfl) ?_
  refine wpList_storeA _ rfl 55 _ _ rfl 128 infoA w.heap.size (List.replicate 128 0) (tabI 65) zlen (tabI_len 65) rfl rfl ha1 ?_; intro w2 ha2 hg2
  refine wpList_nil ?_
  go_wp2
  refine bodyPost_ret (v := arrV .i32 (tabI 65)) (results_cell_row Tryd.results26 _ w2 w.heap.size 55 _ (0, 0) _ rfl ha2 Tryd.underlying55 rfl (by rw [infoA]; simp [tabI_len])) rfl ⟨rfl, ?_⟩
  exact grownBy_new hg1 hg2 (fun k hk => by have h5 := Option.some.inj hk; omega)
set_option maxRecDepth 100000 in
set_option maxHeartbeats 1000000 in
theorem arr66 (w : World) : Calls Tryd.prog 27 #[] w fun e w' => e = .returned (arrV .i32 (tabI 66)) ∧ w.grownBy w' none := by
  go_enter Tryd.func27, Tryd.ntmps27
  go_upto_region 1 with (refine wpList_allocA _ rfl 55 rfl (List.replicate 128 0) (zeroA _) ?_; intro w1 ha1 hg1)
  refine wp_region_lit ?_
  refine wpList_buildA (q := .i32) _ rfl 55 _ rfl 128 21 Tryd.underlying55 _ zeroB (arrV_size _ _ zlen) infoR (tabI 66) (tabI_len 66) (by kernel_rfl) ?_
  refine wpList_storeA _ rfl 55 _ _ rfl 128 infoA w.heap.size (List.replicate 128 0) (tabI 66) zlen (tabI_len 66) rfl rfl ha1 ?_; intro w2 ha2 hg2
  refine wpList_nil ?_
  go_wp2
  refine bodyPost_ret (v := arrV .i32 (tabI 66)) (results_cell_row Tryd.results27 _ w2 w.heap.size 55 _ (0, 0) _ rfl ha2 Tryd.underlying55 rfl (by rw [infoA]; simp [tabI_len])) rfl ⟨rfl, ?_⟩
  exact grownBy_new hg1 hg2 (fun k hk => by have h5 := Option.some.inj hk; omega)
set_option maxRecDepth 100000 in
set_option maxHeartbeats 1000000 in
theorem of60 (w : World) : Calls Tryd.prog 17 #[.int .i64 60] w fun e w' => e = .returned (.tuple #[arrV .i32 (tabI 60), .bool true]) ∧ w.grownBy w' none := by
  obtain ⟨Z, hZ⟩ : ∃ Z, tabI 60 = Z := ⟨_, rfl⟩
  have hl := tabI_len 60
  have a1 := Hid.mk' (fun w => arr60 w)
  rw [hZ] at hl a1
  rw [hZ]
  have hl0 := Hid.mk' hl
  clear hZ hl
  go_enter Tryd.func17, Tryd.ntmps17
  go_upto_region 1 with (refine wpList_allocA _ rfl 55 rfl (List.replicate 128 0) (zeroA _) ?_; intro w1 ha1 hg1)
  go_wp2_with (first
    | (go_at_call 21; refine (a1.out _).mono ?_; rintro e w2 ⟨rfl, hg2⟩)
    | (refine wpList_storeA _ rfl 55 _ _ rfl 128 infoA w.heap.size (List.replicate 128 0) Z zlen hl0.out rfl rfl (ha1.kept0 hg2) ?_; intro w3 ha3 hg3))
  refine bodyPost_ret (v := .tuple #[arrV .i32 Z, .bool true]) (results_cell_row_tmp Tryd.results17 _ w3 w.heap.size 55 _ (0, 0) _ rfl ha3 Tryd.underlying55 rfl (by rw [infoA]; simp [hl0.out]) _ rfl) rfl ⟨rfl, ?_⟩
  exact grownBy_new (grownBy_trans hg1 hg2) hg3 (fun k hk => by have h5 := Option.some.inj hk; omega)
set_option maxRecDepth 100000 in
set_option maxHeartbeats 1000000 in
theorem of61 (w : World) : Calls Tryd.prog 17 #[.int .i64 61] w fun e w' => e = .returned (.tuple #[arrV .i32 (tabI 61), .bool true]) ∧ w.grownBy w' none := by
  obtain ⟨Z, hZ⟩ : ∃ Z, tabI 61 = Z := ⟨_, rfl⟩
  have hl := tabI_len 61
  have a1 := Hid.mk' (fun w => arr61 w)
  rw [hZ] at hl a1
  rw [hZ]
  have hl0 := Hid.mk' hl
  clear hZ hl
  go_enter Tryd.func17, Tryd.ntmps17
  go_upto_region 1 with (refine wpList_allocA _ rfl 55 rfl (List.replicate 128 0) (zeroA _) ?_; intro w1 ha1 hg1)
  go_wp2_with (first
    | (go_at_call 22; refine (a1.out _).mono ?_; rintro e w2 ⟨rfl, hg2⟩)
    | (refine wpList_storeA _ rfl 55 _ _ rfl 128 infoA w.heap.size (List.replicate 128 0) Z zlen hl0.out rfl rfl (ha1.kept0 hg2) ?_; intro w3 ha3 hg3))
  refine bodyPost_ret (v := .tuple #[arrV .i32 Z, .bool true]) (results_cell_row_tmp Tryd.results17 _ w3 w.heap.size 55 _ (0, 0) _ rfl ha3 Tryd.underlying55 rfl (by rw [infoA]; simp [hl0.out]) _ rfl) rfl ⟨rfl, ?_⟩
  exact grownBy_new (grownBy_trans hg1 hg2) hg3 (fun k hk => by have h5 := Option.some.inj hk; omega)
set_option maxRecDepth 100000 in
set_option maxHeartbeats 1000000 in
theorem of62 (w : World) : Calls Tryd.prog 17 #[.int .i64 62] w fun e w' => e = .returned (.tuple #[arrV .i32 (tabI 62), .bool true]) ∧ w.grownBy w' none := by
  obtain ⟨Z, hZ⟩ : ∃ Z, tabI 62 = Z := ⟨_, rfl⟩
  have hl := tabI_len 62
  have a1 := Hid.mk' (fun w => arr62 w)
  rw [hZ] at hl a1
  rw [hZ]
  have hl0 := Hid.mk' hl
  clear hZ hl
  go_enter Tryd.func17, Tryd.ntmps17
  go_upto_region 1 with (refine wpList_allocA _ rfl 55 rfl (List.replicate 128 0) (zeroA _) ?_; intro w1 ha1 hg1)
  go_wp2_with (first
    | (go_at_call 23; refine (a1.out _).mono ?_; rintro e w2 ⟨rfl, hg2⟩)
    | (refine wpList_storeA _ rfl 55 _ _ rfl 128 infoA w.heap.size (List.replicate 128 0) Z zlen hl0.out rfl rfl (ha1.kept0 hg2) ?_; intro w3 ha3 hg3))
  refine bodyPost_ret (v := .tuple #[arrV .i32 Z, .bool true]) (results_cell_row_tmp Tryd.results17 _ w3 w.heap.size 55 _ (0, 0) _ rfl ha3 Tryd.underlying55 rfl (by rw [infoA]; simp [hl0.out]) _ rfl) rfl ⟨rfl, ?_⟩
  exact grownBy_new (grownBy_trans hg1 hg2) hg3 (fun k hk => by have h5 := Option.some.inj hk; omega)
set_option maxRecDepth 100000 in
set_option maxHeartbeats 1000000 in
theorem of63 (w : World) : Calls Tryd.prog 17 #[.int .i64 63] w fun e w' => e = .returned (.tuple #[arrV .i32 (tabI 63), .bool true]) ∧ w.grownBy w' none := by
  obtain ⟨Z, hZ⟩ : ∃ Z, tabI 63 = Z := ⟨_, rfl⟩
  have hl := tabI_len 63
  have a1 := Hid.mk' (fun w => arr63 w)
  rw [hZ] at hl a1
  rw [hZ]
  have hl0 := Hid.mk' hl
  clear hZ hl
  go_enter Tryd.func17, Tryd.ntmps17
  go_upto_region 1 with (refine wpList_allocA _ rfl 55 rfl (List.replicate 128 0) (zeroA _) ?_; intro w1 ha1 hg1)
  go_wp2_with (first
    | (go_at_call 24; refine (a1.out _).mono ?_; rintro e w2 ⟨rfl, hg2⟩)
    | (refine wpList_storeA _ rfl 55 _ _ rfl 128 infoA w.heap.size (List.replicate 128 0) Z zlen hl0.out rfl rfl (ha1.kept0 hg2) ?_; intro w3 ha3 hg3))
  refine bodyPost_ret (v := .tuple #[arrV .i32 Z, .bool true]) (results_cell_row_tmp Tryd.results17 _ w3 w.heap.size 55 _ (0, 0) _ rfl ha3 Tryd.underlying55 rfl (by rw [infoA]; simp [hl0.out]) _ rfl) rfl ⟨rfl, ?_⟩
  exact grownBy_new (grownBy_trans hg1 hg2) hg3 (fun k hk => by have h5 := Option.some.inj hk; omega)
set_option maxRecDepth 100000 in
set_option maxHeartbeats 1000000 in
theorem of64 (w : World) : Calls Tryd.prog 17 #[.int .i64 64] w fun e w' => e = .returned (.tuple #[arrV .i32 (tabI 64), .bool true]) ∧ w.grownBy w' none := by
  obtain ⟨Z, hZ⟩ : ∃ Z, tabI 64 = Z := ⟨_, rfl⟩
  have hl := tabI_len 64
  have a1 := Hid.mk' (fun w => arr64 w)
  rw [hZ] at hl a1
  rw [hZ]
  have hl0 := Hid.mk' hl
  clear hZ hl
  go_enter Tryd.func17, Tryd.ntmps17
  go_upto_region 1 with (refine wpList_allocA _ rfl 55 rfl (List.replicate 128 0) (zeroA _) ?_; intro w1 ha1 hg1)
  go_wp2_with (first
    | (go_at_call 25; refine (a1.out _).mono ?_; rintro e w2 ⟨rfl, hg2⟩)
    | (refine wpList_storeA _ rfl 55 _ _ rfl 128 infoA w.heap.size (List.replicate 128 0) Z zlen hl0.out rfl rfl (ha1.kept0 hg2) ?_; intro w3 ha3 hg3))
  refine bodyPost_ret (v := .tuple #[arrV .i32 Z, .bool true]) (results_cell_row_tmp Tryd.results17 _ w3 w.heap.size 55 _ (0, 0) _ rfl ha3 Tryd.underlying55 rfl (by rw [infoA]; simp [hl0.out]) _ rfl) rfl ⟨rfl, ?_⟩
  exact grownBy_new (grownBy_trans hg1 hg2) hg3 (fun k hk => by have h5 := Option.some.inj hk; omega)
set_option maxRecDepth 100000 in
set_option maxHeartbeats 1000000 in
theorem of65 (w : World) : Calls Tryd.prog 17 #[.int .i64 65] w fun e w' => e = .returned (.tuple #[arrV .i32 (tabI 65), .bool true]) ∧ w.grownBy w' none := by
  obtain ⟨Z, hZ⟩ : ∃ Z, tabI 65 = Z := ⟨_, rfl⟩
  have hl := tabI_len 65
  have a1 := Hid.mk' (fun w => arr65 w)
  rw [hZ] at hl a1
  rw [hZ]
  have hl0 := Hid.mk' hl
  clear hZ hl
  go_enter Tryd.func17, Tryd.ntmps17
  go_upto_region 1 with (refine wpList_allocA _ rfl 55 rfl (List.replicate 128 0) (zeroA _) ?_; intro w1 ha1 hg1)
  go_wp2_with (first
    | (go_at_call 26; refine (a1.out _).mono ?_; rintro e w2 ⟨rfl, hg2⟩)
    | (refine wpList_storeA _ rfl 55 _ _ rfl 128 infoA w.heap.size (List.replicate 128 0) Z zlen hl0.out rfl rfl (ha1.kept0 hg2) ?_; intro w3 ha3 hg3))
  refine bodyPost_ret (v := .tuple #[arrV .i32 Z, .bool true]) (results_cell_row_tmp Tryd.results17 _ w3 w.heap.size 55 _ (0, 0) _ rfl ha3 Tryd.underlying55 rfl (by rw [infoA]; simp [hl0.out]) _ rfl) rfl ⟨rfl, ?_⟩
  exact grownBy_new (grownBy_trans hg1 hg2) hg3 (fun k hk => by have h5 := Option.some.inj hk; omega)
set_option maxRecDepth 100000 in
set_option maxHeartbeats 1000000 in
theorem of66 (w : World) : Calls Tryd.prog 17 #[.int .i64 66] w fun e w' => e = .returned (.tuple #[arrV .i32 (tabI 66), .bool true]) ∧ w.grownBy w' none := by
  obtain ⟨Z, hZ⟩ : ∃ Z, tabI 66 = Z := ⟨_, rfl⟩
  have hl := tabI_len 66
  have a1 := Hid.mk' (fun w => arr66 w)
  rw [hZ] at hl a1
  rw [hZ]
  have hl0 := Hid.mk' hl
  clear hZ hl
  go_enter Tryd.func17, Tryd.ntmps17
  go_upto_region 1 with (refine wpList_allocA _ rfl 55 rfl (List.replicate 128 0) (zeroA _) ?_; intro w1 ha1 hg1)
  go_wp2_with (first
    | (go_at_call 27; refine (a1.out _).mono ?_; rintro e w2 ⟨rfl, hg2⟩)
    | (refine wpList_storeA _ rfl 55 _ _ rfl 128 infoA w.heap.size (List.replicate 128 0) Z zlen hl0.out rfl rfl (ha1.kept0 hg2) ?_; intro w3 ha3 hg3))
  refine bodyPost_ret (v := .tuple #[arrV .i32 Z, .bool true]) (results_cell_row_tmp Tryd.results17 _ w3 w.heap.size 55 _ (0, 0) _ rfl ha3 Tryd.underlying55 rfl (by rw [infoA]; simp [hl0.out]) _ rfl) rfl ⟨rfl, ?_⟩
  exact grownBy_new (grownBy_trans hg1 hg2) hg3 (fun k hk => by have h5 := Option.some.inj hk; omega)
set_option maxRecDepth 100000 in
set_option maxHeartbeats 1000000 in
theorem of_none (k : Int) (w : World) (h60 : ¬ k = 60) (h61 : ¬ k = 61) (h62 : ¬ k = 62) (h63 : ¬ k = 63) (h64 : ¬ k = 64) (h65 : ¬ k = 65) (h66 : ¬ k = 66) : Calls Tryd.prog 17 #[.int .i64 k] w fun e w' => e = .returned (.tuple #[arrV .i32 (List.replicate 128 0), .bool false]) ∧ w.grownBy w' none := by
  have b60 : (k == 60) = false := by simpa using h60
  have b61 : (k == 61) = false := by simpa using h61
  have b62 : (k == 62) = false := by simpa using h62
  have b63 : (k == 63) = false := by simpa using h63
  have b64 : (k == 64) = false := by simpa using h64
  have b65 : (k == 65) = false := by simpa using h65
  have b66 : (k == 66) = false := by simpa using h66
  obtain ⟨Z, hZ⟩ : ∃ Z : List Int, List.replicate 128 (0 : Int) = Z := ⟨_, rfl⟩
  have hl := zlen
  have hz := Hid.mk' (fun w => zeroA w)
  have hb := Hid.mk' zeroB
  rw [hZ] at hl hz hb
  rw [hZ]
  have hl0 := Hid.mk' hl
  clear hZ hl
  go_enter Tryd.func17, Tryd.ntmps17
  go_upto_region 1 with (refine wpList_allocA _ rfl 55 rfl Z (hz.out _) ?_; intro w1 ha1 hg1)
  go_wp2_with (first
    | (refine wpList_buildZ _ rfl 55 rfl 128 21 Tryd.underlying55 Z hb.out infoR ?_)
    | (refine wpList_storeA _ rfl 55 _ _ rfl 128 infoA w.heap.size Z Z hl0.out hl0.out rfl rfl ha1 ?_; intro w3 ha3 hg3))
  refine bodyPost_ret (v := .tuple #[arrV .i32 Z, .bool false]) (results_cell_row_tmp Tryd.results17 _ w3 w.heap.size 55 _ (0, 0) _ rfl ha3 Tryd.underlying55 rfl (by rw [infoA]; simp [hl0.out]) _ rfl) rfl ⟨rfl, ?_⟩
  exact grownBy_new hg1 hg3 (fun k hk => by have h5 := Option.some.inj hk; omega)
theorem of_any (k : Int) (H : Bool) (hH : Hid (decide (k ∈ kinds) = H)) (w : World) : Calls Tryd.prog 17 #[.int .i64 k] w fun e w' => e = .returned (.tuple #[arrV .i32 (tabI k), .bool H]) ∧ w.grownBy w' none := by
  by_cases h : k ∈ kinds
  · obtain rfl : H = true := by rw [← hH.out]; exact decide_eq_true h
    clear hH
    have gen : ∀ k ∈ kinds, Calls Tryd.prog 17 #[.int .i64 k] w fun e w' => e = .returned (.tuple #[arrV .i32 (tabI k), .bool true]) ∧ w.grownBy w' none := by
      intro k hk
      simp only [kinds, List.mem_cons, List.not_mem_nil, or_false] at hk
      rcases hk with rfl | rfl | rfl | rfl | rfl | rfl | rfl
      · exact of60 w
      · exact of61 w
      · exact of62 w
      · exact of63 w
      · exact of64 w
      · exact of65 w
      · exact of66 w
    exact gen k h
  · obtain rfl : H = false := by rw [← hH.out]; exact decide_eq_false h
    rw [tabI, if_neg h]
    simp only [kinds, List.mem_cons, List.not_mem_nil, or_false, not_or] at h
    obtain ⟨a1, a2, a3, a4, a5, a6, a7⟩ := h
    exact of_none k w a1 a2 a3 a4 a5 a6 a7
end Go.Proofs.YtjmpdlkckpediaaDoor.C11

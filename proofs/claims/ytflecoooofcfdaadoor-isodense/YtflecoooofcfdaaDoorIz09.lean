/- The program's lists of layer 9, and the one of a kind: walks. -/
import Derived.Test.YtflecoooofcfdaaDoorRf09
import Derived.Test.YtflecoooofcfdaaDoorAr
namespace Go.Proofs.YtflecoooofcfdaaDoor.C09
open Go.ChangeShapes Go.WideShapes Go.ChangeAt Go.RowKit Go.Proofs.YtflecoooofcfdaaDoor.Mem Go.Proofs.YtflecoooofcfdaaDoor.Ar
set_option linter.unusedVariables false
set_option linter.unusedSimpArgs false

theorem infoA : (Tryd.prog.info? 55).map (·.size) = some 96 := by kernel_rfl
theorem zeroA (w : World) : (zeroValue 55).run Tryd.prog w = .ok (arrV .i32 (List.replicate 96 0)) w := by kernel_rfl
theorem zeroB : (Tryd.prog.info? 55).bind (·.zero) = some (arrV .i32 (List.replicate 96 0)) := by kernel_rfl
theorem infoR : (Tryd.prog.info? 21).map (·.size) = some 1 := by kernel_rfl
/-- A kind's list as the program has it: zeros where it is none. -/
def tabI (k : Int) : List Int := if k ∈ kinds then (tab k).map (fun n : Nat => (n : Int)) else List.replicate 96 0
theorem tabI_len (k : Int) : (tabI k).length = 96 := by
  unfold tabI
  split
  · rename_i h; rw [List.length_map, tab_len h]
  · rw [List.length_replicate]
theorem zlen : (List.replicate 96 (0 : Int)).length = 96 := List.length_replicate
set_option maxRecDepth 100000 in
set_option maxHeartbeats 1000000 in
theorem arr21 (w : World) : Calls Tryd.prog 21 #[] w fun e w' => e = .returned (arrV .i32 (tabI 21)) ∧ w.grownBy w' none := by
  go_enter Tryd.func21, Tryd.ntmps21
  go_upto_region 1 with (refine wpList_allocA _ rfl 55 rfl (List.replicate 96 0) (zeroA _) ?_; intro w1 ha1 hg1)
  refine wp_region_lit ?_
  refine wpList_buildA (q := .i32) _ rfl 55 _ rfl 96 21 Tryd.underlying55 _ zeroB (arrV_size _ _ zlen) infoR (tabI 21) (tabI_len 21) (by kernel_rfl) ?_
  refine wpList_storeA _ rfl 55 _ _ rfl 96 infoA w.heap.size (List.replicate 96 0) (tabI 21) zlen (tabI_len 21) rfl rfl ha1 ?_; intro w2 ha2 hg2
  refine wpList_nil ?_
  go_wp2
  refine bodyPost_ret (v := arrV .i32 (tabI 21)) (results_cell_row Tryd.results21 _ w2 w.heap.size 55 _ (0, 0) _ rfl ha2 Tryd.underlying55 rfl (by rw [infoA]; simp [tabI_len])) rfl ⟨rfl, ?_⟩
  exact grownBy_new hg1 hg2 (fun k hk => by have h5 := Option.some.inj hk; omega)
set_option maxRecDepth 100000 in
set_option maxHeartbeats 1000000 in
theorem arr22 (w : World) : Calls Tryd.prog 22 #[] w fun e w' => e = .returned (arrV .i32 (tabI 22)) ∧ w.grownBy w' none := by
  go_enter Tryd.func22, Tryd.ntmps22
  go_upto_region 1 with (refine wpList_allocA _ rfl 55 rfl (List.replicate 96 0) (zeroA _) ?_; intro w1 ha1 hg1)
  refine wp_region_lit ?_
  refine wpList_buildA (q := .i32) _ rfl 55 _ rfl 96 21 Tryd.underlying55 _ zeroB (arrV_size _ _ zlen) infoR (tabI 22) (tabI_len 22) (by kernel_rfl) ?_
  refine wpList_storeA _ rfl 55 _ _ rfl 96 infoA w.heap.size (List.replicate 96 0) (tabI 22) zlen (tabI_len 22) rfl rfl ha1 ?_; intro w2 ha2 hg2
  refine wpList_nil ?_
  go_wp2
  refine bodyPost_ret (v := arrV .i32 (tabI 22)) (results_cell_row Tryd.results22 _ w2 w.heap.size 55 _ (0, 0) _ rfl ha2 Tryd.underlying55 rfl (by rw [infoA]; simp [tabI_len])) rfl ⟨rfl, ?_⟩
  exact grownBy_new hg1 hg2 (fun k hk => by have h5 := Option.some.inj hk; omega)
set_option maxRecDepth 100000 in
set_option maxHeartbeats 1000000 in
theorem arr23 (w : World) : Calls Tryd.prog 23 #[] w fun e w' => e = .returned (arrV .i32 (tabI 23)) ∧ w.grownBy w' none := by
  go_enter Tryd.func23, Tryd.ntmps23
  go_upto_region 1 with (refine wpList_allocA _ rfl 55 rfl (List.replicate 96 0) (zeroA _) ?_; intro w1 ha1 hg1)
  refine wp_region_lit ?_
  refine wpList_buildA (q := .i32) _ rfl 55 _ rfl 96 21 Tryd.underlying55 _ zeroB (arrV_size _ _ zlen) infoR (tabI 23) (tabI_len 23) (by kernel_rfl) ?_
  refine wpList_storeA _ rfl 55 _ _ rfl 96 infoA w.heap.size (List.replicate 96 0) (tabI 23) zlen (tabI_len 23) rfl rfl ha1 ?_; intro w2 ha2 hg2
  refine wpList_nil ?_
  go_wp2
  refine bodyPost_ret (v := arrV .i32 (tabI 23)) (results_cell_row Tryd.results23 _ w2 w.heap.size 55 _ (0, 0) _ rfl ha2 Tryd.underlying55 rfl (by rw [infoA]; simp [tabI_len])) rfl ⟨rfl, ?_⟩
  exact grownBy_new hg1 hg2 (fun k hk => by have h5 := Option.some.inj hk; omega)
set_option maxRecDepth 100000 in
set_option maxHeartbeats 1000000 in
theorem arr24 (w : World) : Calls Tryd.prog 24 #[] w fun e w' => e = .returned (arrV .i32 (tabI 24)) ∧ w.grownBy w' none := by
  go_enter Tryd.func24, Tryd.ntmps24
  go_upto_region 1 with (refine wpList_allocA _ rfl 55 rfl (List.replicate 96 0) (zeroA _) ?_; intro w1 ha1 hg1)
  refine wp_region_lit ?_
  refine wpList_buildA (q := .i32) _ rfl 55 _ rfl 96 21 Tryd.underlying55 _ zeroB (arrV_size _ _ zlen) infoR (tabI 24) (tabI_len 24) (by kernel_rfl) ?_
  refine wpList_storeA _ rfl 55 _ _ rfl 96 infoA w.heap.size (List.replicate 96 0) (tabI 24) zlen (tabI_len 24) rfl rfl ha1 ?_; intro w2 ha2 hg2
  refine wpList_nil ?_
  go_wp2
  refine bodyPost_ret (v := arrV .i32 (tabI 24)) (results_cell_row Tryd.results24 _ w2 w.heap.size 55 _ (0, 0) _ rfl ha2 Tryd.underlying55 rfl (by rw [infoA]; simp [tabI_len])) rfl ⟨rfl, ?_⟩
  exact grownBy_new hg1 hg2 (fun k hk => by have h5 := Option.some.inj hk; omega)
set_option maxRecDepth 100000 in
set_option maxHeartbeats 1000000 in
theorem arr25 (w : World) : Calls Tryd.prog 25 #[] w fun e w' => e = .returned (arrV .i32 (tabI 25)) ∧ w.grownBy w' none := by
  go_enter Tryd.func25, Tryd.ntmps25
  go_upto_region 1 with (refine wpList_allocA _ rfl 55 rfl (List.replicate 96 0) (zeroA _) ?_; intro w1 ha1 hg1)
  refine wp_region_lit ?_
  refine wpList_buildA (q := .i32) _ rfl 55 _ rfl 96 21 Tryd.underlying55 _ zeroB (arrV_size _ _ zlen) infoR (tabI 25) (tabI_len 25) (by kernel_rfl) ?_
  refine wpList_storeA _ rfl 55 _ _ rfl 96 infoA w.heap.size (List.replicate 96 0) (tabI 25) zlen (tabI_len 25) rfl rfl ha1 ?_; intro w2 ha2 hg2
  refine wpList_nil ?_
  go_wp2
  refine bodyPost_ret (v := arrV .i32 (tabI 25)) (results_cell_row Tryd.results25 _ w2 w.heap.size 55 _ (0, 0) _ rfl ha2 Tryd.underlying55 rfl (by rw [infoA]; simp [tabI_len])) rfl ⟨rfl, ?_⟩
  exact grownBy_new hg1 hg2 (fun k hk => by have h5 := Option.some.inj hk; omega)
set_option maxRecDepth 100000 in
set_option maxHeartbeats 1000000 in
theorem arr26 (w : World) : Calls Tryd.prog 26 #[] w fun e w' => e = .returned (arrV .i32 (tabI 26)) ∧ w.grownBy w' none := by
  go_enter Tryd.func26, Tryd.ntmps26
  go_upto_region 1 with (refine wpList_allocA _ rfl 55 rfl (List.replicate 96 0) (zeroA _) ?_; intro w1 ha1 hg1)
  refine wp_region_lit ?_
  refine wpList_buildA (q := .i32) _ rfl 55 _ rfl 96 21 Tryd.underlying55 _ zeroB (arrV_size _ _ zlen) infoR (tabI 26) (tabI_len 26) (by kernel_rfl) ?_
  refine wpList_storeA _ rfl 55 _ _ rfl 96 infoA w.heap.size (List.replicate 96 0) (tabI 26) zlen (tabI_len 26) rfl rfl ha1 ?_; intro w2 ha2 hg2
  refine wpList_nil ?_
  go_wp2
  refine bodyPost_ret (v := arrV .i32 (tabI 26)) (results_cell_row Tryd.results26 _ w2 w.heap.size 55 _ (0, 0) _ rfl ha2 Tryd.underlying55 rfl (by rw [infoA]; simp [tabI_len])) rfl ⟨rfl, ?_⟩
  exact grownBy_new hg1 hg2 (fun k hk => by have h5 := Option.some.inj hk; omega)
set_option maxRecDepth 100000 in
set_option maxHeartbeats 1000000 in
theorem arr27 (w : World) : Calls Tryd.prog 27 #[] w fun e w' => e = .returned (arrV .i32 (tabI 27)) ∧ w.grownBy w' none := by
  go_enter Tryd.func27, Tryd.ntmps27
  go_upto_region 1 with (refine wpList_allocA _ rfl 55 rfl (List.replicate 96 0) (zeroA _) ?_; intro w1 ha1 hg1)
  refine wp_region_lit ?_
  refine wpList_buildA (q := .i32) _ rfl 55 _ rfl 96 21 Tryd.underlying55 _ zeroB (arrV_size _ _ zlen) infoR (tabI 27) (tabI_len 27) (by kernel_rfl) ?_
  refine wpList_storeA _ rfl 55 _ _ rfl 96 infoA w.heap.size (List.replicate 96 0) (tabI 27) zlen (tabI_len 27) rfl rfl ha1 ?_; intro w2 ha2 hg2
  refine wpList_nil ?_
  go_wp2
  refine bodyPost_ret (v := arrV .i32 (tabI 27)) (results_cell_row Tryd.results27 _ w2 w.heap.size 55 _ (0, 0) _ rfl ha2 Tryd.underlying55 rfl (by rw [infoA]; simp [tabI_len])) rfl ⟨rfl, ?_⟩
  exact grownBy_new hg1 hg2 (fun k hk => by have h5 := Option.some.inj hk; omega)
set_option maxRecDepth 100000 in
set_option maxHeartbeats 1000000 in
theorem arr28 (w : World) : Calls Tryd.prog 28 #[] w fun e w' => e = .returned (arrV .i32 (tabI 28)) ∧ w.grownBy w' none := by
  go_enter Tryd.func28, Tryd.ntmps28
  go_upto_region 1 with (refine wpList_allocA _ rfl 55 rfl (List.replicate 96 0) (zeroA _) ?_; intro w1 ha1 hg1)
  refine wp_region_lit ?_
  refine wpList_buildA (q := .i32) _ rfl 55 _ rfl 96 21 Tryd.underlying55 _ zeroB (arrV_size _ _ zlen) infoR (tabI 28) (tabI_len 28) (by kernel_rfl) ?_
  refine wpList_storeA _ rfl 55 _ _ rfl 96 infoA w.heap.size (List.replicate 96 0) (tabI 28) zlen (tabI_len 28) rfl rfl ha1 ?_; intro w2 ha2 hg2
  refine wpList_nil ?_
  go_wp2
  refine bodyPost_ret (v := arrV .i32 (tabI 28)) (results_cell_row Tryd.results28 _ w2 w.heap.size 55 _ (0, 0) _ rfl ha2 Tryd.underlying55 rfl (by rw [infoA]; simp [tabI_len])) rfl ⟨rfl, ?_⟩
  exact grownBy_new hg1 hg2 (fun k hk => by have h5 := Option.some.inj hk; omega)
set_option maxRecDepth 100000 in
set_option maxHeartbeats 1000000 in
theorem arr29 (w : World) : Calls Tryd.prog 29 #[] w fun e w' => e = .returned (arrV .i32 (tabI 29)) ∧ w.grownBy w' none := by
  go_enter Tryd.func29, Tryd.ntmps29
  go_upto_region 1 with (refine wpList_allocA _ rfl 55 rfl (List.replicate 96 0) (zeroA _) ?_; intro w1 ha1 hg1)
  refine wp_region_lit ?_
  refine wpList_buildA (q := .i32) _ rfl 55 _ rfl 96 21 Tryd.underlying55 _ zeroB (arrV_size _ _ zlen) infoR (tabI 29) (tabI_len 29) (by kernel_rfl) ?_
  refine wpList_storeA _ rfl 55 _ _ rfl 96 infoA w.heap.size (List.replicate 96 0) (tabI 29) zlen (tabI_len 29) rfl rfl ha1 ?_; intro w2 ha2 hg2
  refine wpList_nil ?_
  go_wp2
  refine bodyPost_ret (v := arrV .i32 (tabI 29)) (results_cell_row Tryd.results29 _ w2 w.heap.size 55 _ (0, 0) _ rfl ha2 Tryd.underlying55 rfl (by rw [infoA]; simp [tabI_len])) rfl ⟨rfl, ?_⟩
  exact grownBy_new hg1 hg2 (fun k hk => by have h5 := Option.some.inj hk; omega)
set_option maxRecDepth 100000 in
set_option maxHeartbeats 1000000 in
theorem arr30 (w : World) : Calls Tryd.prog 30 #[] w fun e w' => e = .returned (arrV .i32 (tabI 30)) ∧ w.grownBy w' none := by
  go_enter Tryd.func30, Tryd.ntmps30
  go_upto_region 1 with (refine wpList_allocA _ rfl 55 rfl (List.replicate 96 0) (zeroA _) ?_; intro w1 ha1 hg1)
  refine wp_region_lit ?_
  refine wpList_buildA (q := .i32) _ rfl 55 _ rfl 96 21 Tryd.underlying55 _ zeroB (arrV_size _ _ zlen) infoR (tabI 30) (tabI_len 30) (by kernel_rfl) ?_
  refine wpList_storeA _ rfl 55 _ _ rfl 96 infoA w.heap.size (List.replicate 96 0) (tabI 30) zlen (tabI_len 30) rfl rfl ha1 ?_; intro w2 ha2 hg2
  refine wpList_nil ?_
  go_wp2
  refine bodyPost_ret (v := arrV .i32 (tabI 30)) (results_cell_row Tryd.results30 _ w2 w.heap.size 55 _ (0, 0) _ rfl ha2 Tryd.underlying55 rfl (by rw [infoA]; simp [tabI_len])) rfl ⟨rfl, ?_⟩
  exact grownBy_new hg1 hg2 (fun k hk => by have h5 := Option.some.inj hk; omega)
set_option maxRecDepth 100000 in
set_option maxHeartbeats 1000000 in
theorem arr31 (w : World) : Calls Tryd.prog 31 #[] w fun e w' => e = .returned (arrV .i32 (tabI 31)) ∧ w.grownBy w' none := by
  go_enter Tryd.func31, Tryd.ntmps31
  go_upto_region 1 with (refine wpList_allocA _ rfl 55 rfl (List.replicate 96 0) (zeroA _) ?_; intro w1 ha1 hg1)
  refine wp_region_lit ?_
  refine wpList_buildA (q := .i32) _ rfl 55 _ rfl 96 21 Tryd.underlying55 _ zeroB (arrV_size _ _ zlen) infoR (tabI 31) (tabI_len 31) (by kernel_rfl) ?_
  refine wpList_storeA _ rfl 55 _ _ rfl 96 infoA w.heap.size (List.replicate 96 0) (tabI 31) zlen (tabI_len 31) rfl rfl ha1 ?_; intro w2 ha2 hg2
  refine wpList_nil ?_
  go_wp2
  refine bodyPost_ret (v := arrV .i32 (tabI 31)) (results_cell_row Tryd.results31 _ w2 w.heap.size 55 _ (0, 0) _ rfl ha2 Tryd.underlying55 rfl (by rw [infoA]; simp [tabI_len])) rfl ⟨rfl, ?_⟩
  exact grownBy_new hg1 hg2 (fun k hk => by have h5 := Option.some.inj hk; omega)
set_option maxRecDepth 100000 in
set_option maxHeartbeats 1000000 in
theorem arr33 (w : World) : Calls Tryd.prog 32 #[] w fun e w' => e = .returned (arrV .i32 (tabI 33)) ∧ w.grownBy w' none := by
  go_enter Tryd.func32, Tryd.ntmps32
  go_upto_region 1 with (refine wpList_allocA _ rfl 55 rfl (List.replicate 96 0) (zeroA _) ?_; intro w1 ha1 hg1)
  refine wp_region_lit ?_
  refine wpList_buildA (q := .i32) _ rfl 55 _ rfl 96 21 Tryd.underlying55 _ zeroB (arrV_size _ _ zlen) infoR (tabI 33) (tabI_len 33) (by kernel_rfl) ?_
  refine wpList_storeA _ rfl 55 _ _ rfl 96 infoA w.heap.size (List.replicate 96 0) (tabI 33) zlen (tabI_len 33) rfl rfl ha1 ?_; intro w2 ha2 hg2
  refine wpList_nil ?_
  go_wp2
  refine bodyPost_ret (v := arrV .i32 (tabI 33)) (results_cell_row Tryd.results32 _ w2 w.heap.size 55 _ (0, 0) _ rfl ha2 Tryd.underlying55 rfl (by rw [infoA]; simp [tabI_len])) rfl ⟨rfl, ?_⟩
  exact grownBy_new hg1 hg2 (fun k hk => by have h5 := Option.some.inj hk; omega)
set_option maxRecDepth 100000 in
set_option maxHeartbeats 1000000 in
theorem arr34 (w : World) : Calls Tryd.prog 33 #[] w fun e w' => e = .returned (arrV .i32 (tabI 34)) ∧ w.grownBy w' none := by
  go_enter Tryd.func33, Tryd.ntmps33
  go_upto_region 1 with (refine wpList_allocA _ rfl 55 rfl (List.replicate 96 0) (zeroA _) ?_; intro w1 ha1 hg1)
  refine wp_region_lit ?_
  refine wpList_buildA (q := .i32) _ rfl 55 _ rfl 96 21 Tryd.underlying55 _ zeroB (arrV_size _ _ zlen) infoR (tabI 34) (tabI_len 34) (by kernel_rfl) ?_
  refine wpList_storeA _ rfl 55 _ _ rfl 96 infoA w.heap.size (List.replicate 96 0) (tabI 34) zlen (tabI_len 34) rfl rfl ha1 ?_; intro w2 ha2 hg2
  refine wpList_nil ?_
  go_wp2
  refine bodyPost_ret (v := arrV .i32 (tabI 34)) (results_cell_row Tryd.results33 _ w2 w.heap.size 55 _ (0, 0) _ rfl ha2 Tryd.underlying55 rfl (by rw [infoA]; simp [tabI_len])) rfl ⟨rfl, ?_⟩
  exact grownBy_new hg1 hg2 (fun k hk => by have h5 := Option.some.inj hk; omega)
set_option maxRecDepth 100000 in
set_option maxHeartbeats 1000000 in
theorem arr35 (w : World) : Calls Tryd.prog 34 #[] w fun e w' => e = .returned (arrV .i32 (tabI 35)) ∧ w.grownBy w' none := by
  go_enter Tryd.func34, Tryd.ntmps34
  go_upto_region 1 with (refine wpList_allocA _ rfl 55 rfl (List.replicate 96 0) (zeroA _) ?_; intro w1 ha1 hg1)
  refine wp_region_lit ?_
  refine wpList_buildA (q := .i32) _ rfl 55 _ rfl 96 21 Tryd.underlying55 _ zeroB (arrV_size _ _ zlen) infoR (tabI 35) (tabI_len 35) (by kernel_rfl) ?_
  refine wpList_storeA _ rfl 55 _ _ rfl 96 infoA w.heap.size (List.replicate 96 0) (tabI 35) zlen (tabI_len 35) rfl rfl ha1 ?_; intro w2 ha2 hg2
  refine wpList_nil ?_
  go_wp2
  refine bodyPost_ret (v := arrV .i32 (tabI 35)) (results_cell_row Tryd.results34 _ w2 w.heap.size 55 _ (0, 0) _ rfl ha2 Tryd.underlying55 rfl (by rw [infoA]; simp [tabI_len])) rfl ⟨rfl, ?_⟩
  exact grownBy_new hg1 hg2 (fun k hk => by have h5 := Option.some.inj hk; omega)
set_option maxRecDepth 100000 in
set_option maxHeartbeats 1000000 in
theorem arr36 (w : World) : Calls Tryd.prog 35 #[] w fun e w' => e = .returned (arrV .i32 (tabI 36)) ∧ w.grownBy w' none := by
  go_enter Tryd.func35, Tryd.ntmps35
  go_upto_region 1 with (refine wpList_allocA _ rfl 55 rfl (List.replicate 96 0) (zeroA _) ?_; intro w1 ha1 hg1)
  refine wp_region_lit ?_
  refine wpList_buildA (q := .i32) _ rfl 55 _ rfl 96 21 Tryd.underlying55 _ zeroB (arrV_size _ _ zlen) infoR (tabI 36) (tabI_len 36) (by kernel_rfl) ?_
  refine wpList_storeA _ rfl 55 _ _ rfl 96 infoA w.heap.size (List.replicate 96 0) (tabI 36) zlen (tabI_len 36) rfl rfl ha1 ?_; intro w2 ha2 hg2
  refine wpList_nil ?_
  go_wp2
  refine bodyPost_ret (v := arrV .i32 (tabI 36)) (results_cell_row Tryd.results35 _ w2 w.heap.size 55 _ (0, 0) _ rfl ha2 Tryd.underlying55 rfl (by rw [infoA]; simp [tabI_len])) rfl ⟨rfl, ?_⟩
  exact grownBy_new hg1 hg2 (fun k hk => by have h5 := Option.some.inj hk; omega)
set_option maxRecDepth 100000 in
set_option maxHeartbeats 1000000 in
theorem of21 (w : World) : Calls Tryd.prog 17 #[.int .i64 21] w fun e w' => e = .returned (.tuple #[arrV .i32 (tabI 21), .bool true]) ∧ w.grownBy w' none := by
  obtain ⟨Z, hZ⟩ : ∃ Z, tabI 21 = Z := ⟨_, rfl⟩
  have hl := tabI_len 21
  have a1 := Hid.mk' (fun w => arr21 w)
  rw [hZ] at hl a1
  rw [hZ]
  have hl0 := Hid.mk' hl
  clear hZ hl
  go_enter Tryd.func17, Tryd.ntmps17
  go_upto_region 1 with (refine wpList_allocA _ rfl 55 rfl (List.replicate 96 0) (zeroA _) ?_; intro w1 ha1 hg1)
  go_wp2_with (first
    | (go_at_call 21; refine (a1.out _).mono ?_; rintro e w2 ⟨rfl, hg2⟩)
    | (refine wpList_storeA _ rfl 55 _ _ rfl 96 infoA w.heap.size (List.replicate 96 0) Z zlen hl0.out rfl rfl (ha1.kept0 hg2) ?_; intro w3 ha3 hg3))
  refine bodyPost_ret (v := .tuple #[arrV .i32 Z, .bool true]) (results_cell_row_tmp Tryd.results17 _ w3 w.heap.size 55 _ (0, 0) _ rfl ha3 Tryd.underlying55 rfl (by rw [infoA]; simp [hl0.out]) _ rfl) rfl ⟨rfl, ?_⟩
  exact grownBy_new (grownBy_trans hg1 hg2) hg3 (fun k hk => by have h5 := Option.some.inj hk; omega)
set_option maxRecDepth 100000 in
set_option maxHeartbeats 1000000 in
theorem of22 (w : World) : Calls Tryd.prog 17 #[.int .i64 22] w fun e w' => e = .returned (.tuple #[arrV .i32 (tabI 22), .bool true]) ∧ w.grownBy w' none := by
  obtain ⟨Z, hZ⟩ : ∃ Z, tabI 22 = Z := ⟨_, rfl⟩
  have hl := tabI_len 22
  have a1 := Hid.mk' (fun w => arr22 w)
  rw [hZ] at hl a1
  rw [hZ]
  have hl0 := Hid.mk' hl
  clear hZ hl
  go_enter Tryd.func17, Tryd.ntmps17
  go_upto_region 1 with (refine wpList_allocA _ rfl 55 rfl (List.replicate 96 0) (zeroA _) ?_; intro w1 ha1 hg1)
  go_wp2_with (first
    | (go_at_call 22; refine (a1.out _).mono ?_; rintro e w2 ⟨rfl, hg2⟩)
    | (refine wpList_storeA _ rfl 55 _ _ rfl 96 infoA w.heap.size (List.replicate 96 0) Z zlen hl0.out rfl rfl (ha1.kept0 hg2) ?_; intro w3 ha3 hg3))
  refine bodyPost_ret (v := .tuple #[arrV .i32 Z, .bool true]) (results_cell_row_tmp Tryd.results17 _ w3 w.heap.size 55 _ (0, 0) _ rfl ha3 Tryd.underlying55 rfl (by rw [infoA]; simp [hl0.out]) _ rfl) rfl ⟨rfl, ?_⟩
  exact grownBy_new (grownBy_trans hg1 hg2) hg3 (fun k hk => by have h5 := Option.some.inj hk; omega)
set_option maxRecDepth 100000 in
set_option maxHeartbeats 1000000 in
theorem of23 (w : World) : Calls Tryd.prog 17 #[.int .i64 23] w fun e w' => e = .returned (.tuple #[arrV .i32 (tabI 23), .bool true]) ∧ w.grownBy w' none := by
  obtain ⟨Z, hZ⟩ : ∃ Z, tabI 23 = Z := ⟨_, rfl⟩
  have hl := tabI_len 23
  have a1 := Hid.mk' (fun w => arr23 w)
  rw [hZ] at hl a1
  rw [hZ]
  have hl0 := Hid.mk' hl
  clear hZ hl
  go_enter Tryd.func17, Tryd.ntmps17
  go_upto_region 1 with (refine wpList_allocA _ rfl 55 rfl (List.replicate 96 0) (zeroA _) ?_; intro w1 ha1 hg1)
  go_wp2_with (first
    | (go_at_call 23; refine (a1.out _).mono ?_; rintro e w2 ⟨rfl, hg2⟩)
    | (refine wpList_storeA _ rfl 55 _ _ rfl 96 infoA w.heap.size (List.replicate 96 0) Z zlen hl0.out rfl rfl (ha1.kept0 hg2) ?_; intro w3 ha3 hg3))
  refine bodyPost_ret (v := .tuple #[arrV .i32 Z, .bool true]) (results_cell_row_tmp Tryd.results17 _ w3 w.heap.size 55 _ (0, 0) _ rfl ha3 Tryd.underlying55 rfl (by rw [infoA]; simp [hl0.out]) _ rfl) rfl ⟨rfl, ?_⟩
  exact grownBy_new (grownBy_trans hg1 hg2) hg3 (fun k hk => by have h5 := Option.some.inj hk; omega)
set_option maxRecDepth 100000 in
set_option maxHeartbeats 1000000 in
theorem of24 (w : World) : Calls Tryd.prog 17 #[.int .i64 24] w fun e w' => e = .returned (.tuple #[arrV .i32 (tabI 24), .bool true]) ∧ w.grownBy w' none := by
  obtain ⟨Z, hZ⟩ : ∃ Z, tabI 24 = Z := ⟨_, rfl⟩
  have hl := tabI_len 24
  have a1 := Hid.mk' (fun w => arr24 w)
  rw [hZ] at hl a1
  rw [hZ]
  have hl0 := Hid.mk' hl
  clear hZ hl
  go_enter Tryd.func17, Tryd.ntmps17
  go_upto_region 1 with (refine wpList_allocA _ rfl 55 rfl (List.replicate 96 0) (zeroA _) ?_; intro w1 ha1 hg1)
  go_wp2_with (first
    | (go_at_call 24; refine (a1.out _).mono ?_; rintro e w2 ⟨rfl, hg2⟩)
    | (refine wpList_storeA _ rfl 55 _ _ rfl 96 infoA w.heap.size (List.replicate 96 0) Z zlen hl0.out rfl rfl (ha1.kept0 hg2) ?_; intro w3 ha3 hg3))
  refine bodyPost_ret (v := .tuple #[arrV .i32 Z, .bool true]) (results_cell_row_tmp Tryd.results17 _ w3 w.heap.size 55 _ (0, 0) _ rfl ha3 Tryd.underlying55 rfl (by rw [infoA]; simp [hl0.out]) _ rfl) rfl ⟨rfl, ?_⟩
  exact grownBy_new (grownBy_trans hg1 hg2) hg3 (fun k hk => by have h5 := Option.some.inj hk; omega)
set_option maxRecDepth 100000 in
set_option maxHeartbeats 1000000 in
theorem of25 (w : World) : Calls Tryd.prog 17 #[.int .i64 25] w fun e w' => e = .returned (.tuple #[arrV .i32 (tabI 25), .bool true]) ∧ w.grownBy w' none := by
  obtain ⟨Z, hZ⟩ : ∃ Z, tabI 25 = Z := ⟨_, rfl⟩
  have hl := tabI_len 25
  have a1 := Hid.mk' (fun w => arr25 w)
  rw [hZ] at hl a1
  rw [hZ]
  have hl0 := Hid.mk' hl
  clear hZ hl
  go_enter Tryd.func17, Tryd.ntmps17
  go_upto_region 1 with (refine wpList_allocA _ rfl 55 rfl (List.replicate 96 0) (zeroA _) ?_; intro w1 ha1 hg1)
  go_wp2_with (first
    | (go_at_call 25; refine (a1.out _).mono ?_; rintro e w2 ⟨rfl, hg2⟩)
    | (refine wpList_storeA _ rfl 55 _ _ rfl 96 infoA w.heap.size (List.replicate 96 0) Z zlen hl0.out rfl rfl (ha1.kept0 hg2) ?_; intro w3 ha3 hg3))
  refine bodyPost_ret (v := .tuple #[arrV .i32 Z, .bool true]) (results_cell_row_tmp Tryd.results17 _ w3 w.heap.size 55 _ (0, 0) _ rfl ha3 Tryd.underlying55 rfl (by rw [infoA]; simp [hl0.out]) _ rfl) rfl ⟨rfl, ?_⟩
  exact grownBy_new (grownBy_trans hg1 hg2) hg3 (fun k hk => by have h5 := Option.some.inj hk; omega)
set_option maxRecDepth 100000 in
set_option maxHeartbeats 1000000 in
theorem of26 (w : World) : Calls Tryd.prog 17 #[.int .i64 26] w fun e w' => e = .returned (.tuple #[arrV .i32 (tabI 26), .bool true]) ∧ w.grownBy w' none := by
  obtain ⟨Z, hZ⟩ : ∃ Z, tabI 26 = Z := ⟨_, rfl⟩
  have hl := tabI_len 26
  have a1 := Hid.mk' (fun w => arr26 w)
  rw [hZ] at hl a1
  rw [hZ]
  have hl0 := Hid.mk' hl
  clear hZ hl
  go_enter Tryd.func17, Tryd.ntmps17
  go_upto_region 1 with (refine wpList_allocA _ rfl 55 rfl (List.replicate 96 0) (zeroA _) ?_; intro w1 ha1 hg1)
  go_wp2_with (first
    | (go_at_call 26; refine (a1.out _).mono ?_; rintro e w2 ⟨rfl, hg2⟩)
    | (refine wpList_storeA _ rfl 55 _ _ rfl 96 infoA w.heap.size (List.replicate 96 0) Z zlen hl0.out rfl rfl (ha1.kept0 hg2) ?_; intro w3 ha3 hg3))
  refine bodyPost_ret (v := .tuple #[arrV .i32 Z, .bool true]) (results_cell_row_tmp Tryd.results17 _ w3 w.heap.size 55 _ (0, 0) _ rfl ha3 Tryd.underlying55 rfl (by rw [infoA]; simp [hl0.out]) _ rfl) rfl ⟨rfl, ?_⟩
  exact grownBy_new (grownBy_trans hg1 hg2) hg3 (fun k hk => by have h5 := Option.some.inj hk; omega)
set_option maxRecDepth 100000 in
set_option maxHeartbeats 1000000 in
theorem of27 (w : World) : Calls Tryd.prog 17 #[.int .i64 27] w fun e w' => e = .returned (.tuple #[arrV .i32 (tabI 27), .bool true]) ∧ w.grownBy w' none := by
  obtain ⟨Z, hZ⟩ : ∃ Z, tabI 27 = Z := ⟨_, rfl⟩
  have hl := tabI_len 27
  have a1 := Hid.mk' (fun w => arr27 w)
  rw [hZ] at hl a1
  rw [hZ]
  have hl0 := Hid.mk' hl
  clear hZ hl
  go_enter Tryd.func17, Tryd.ntmps17
  go_upto_region 1 with (refine wpList_allocA _ rfl 55 rfl (List.replicate 96 0) (zeroA _) ?_; intro w1 ha1 hg1)
  go_wp2_with (first
    | (go_at_call 27; refine (a1.out _).mono ?_; rintro e w2 ⟨rfl, hg2⟩)
    | (refine wpList_storeA _ rfl 55 _ _ rfl 96 infoA w.heap.size (List.replicate 96 0) Z zlen hl0.out rfl rfl (ha1.kept0 hg2) ?_; intro w3 ha3 hg3))
  refine bodyPost_ret (v := .tuple #[arrV .i32 Z, .bool true]) (results_cell_row_tmp Tryd.results17 _ w3 w.heap.size 55 _ (0, 0) _ rfl ha3 Tryd.underlying55 rfl (by rw [infoA]; simp [hl0.out]) _ rfl) rfl ⟨rfl, ?_⟩
  exact grownBy_new (grownBy_trans hg1 hg2) hg3 (fun k hk => by have h5 := Option.some.inj hk; omega)
set_option maxRecDepth 100000 in
set_option maxHeartbeats 1000000 in
theorem of28 (w : World) : Calls Tryd.prog 17 #[.int .i64 28] w fun e w' => e = .returned (.tuple #[arrV .i32 (tabI 28), .bool true]) ∧ w.grownBy w' none := by
  obtain ⟨Z, hZ⟩ : ∃ Z, tabI 28 = Z := ⟨_, rfl⟩
  have hl := tabI_len 28
  have a1 := Hid.mk' (fun w => arr28 w)
  rw [hZ] at hl a1
  rw [hZ]
  have hl0 := Hid.mk' hl
  clear hZ hl
  go_enter Tryd.func17, Tryd.ntmps17
  go_upto_region 1 with (refine wpList_allocA _ rfl 55 rfl (List.replicate 96 0) (zeroA _) ?_; intro w1 ha1 hg1)
  go_wp2_with (first
    | (go_at_call 28; refine (a1.out _).mono ?_; rintro e w2 ⟨rfl, hg2⟩)
    | (refine wpList_storeA _ rfl 55 _ _ rfl 96 infoA w.heap.size (List.replicate 96 0) Z zlen hl0.out rfl rfl (ha1.kept0 hg2) ?_; intro w3 ha3 hg3))
  refine bodyPost_ret (v := .tuple #[arrV .i32 Z, .bool true]) (results_cell_row_tmp Tryd.results17 _ w3 w.heap.size 55 _ (0, 0) _ rfl ha3 Tryd.underlying55 rfl (by rw [infoA]; simp [hl0.out]) _ rfl) rfl ⟨rfl, ?_⟩
  exact grownBy_new (grownBy_trans hg1 hg2) hg3 (fun k hk => by have h5 := Option.some.inj hk; omega)
set_option maxRecDepth 100000 in
set_option maxHeartbeats 1000000 in
theorem of29 (w : World) : Calls Tryd.prog 17 #[.int .i64 29] w fun e w' => e = .returned (.tuple #[arrV .i32 (tabI 29), .bool true]) ∧ w.grownBy w' none := by
  obtain ⟨Z, hZ⟩ : ∃ Z, tabI 29 = Z := ⟨_, rfl⟩
  have hl := tabI_len 29
  have a1 := Hid.mk' (fun w => arr29 w)
  rw [hZ] at hl a1
  rw [hZ]
  have hl0 := Hid.mk' hl
  clear hZ hl
  go_enter Tryd.func17, Tryd.ntmps17
  go_upto_region 1 with (refine wpList_allocA _ rfl 55 rfl (List.replicate 96 0) (zeroA _) ?_; intro w1 ha1 hg1)
  go_wp2_with (first
    | (go_at_call 29; refine (a1.out _).mono ?_; rintro e w2 ⟨rfl, hg2⟩)
    | (refine wpList_storeA _ rfl 55 _ _ rfl 96 infoA w.heap.size (List.replicate 96 0) Z zlen hl0.out rfl rfl (ha1.kept0 hg2) ?_; intro w3 ha3 hg3))
  refine bodyPost_ret (v := .tuple #[arrV .i32 Z, .bool true]) (results_cell_row_tmp Tryd.results17 _ w3 w.heap.size 55 _ (0, 0) _ rfl ha3 Tryd.underlying55 rfl (by rw [infoA]; simp [hl0.out]) _ rfl) rfl ⟨rfl, ?_⟩
  exact grownBy_new (grownBy_trans hg1 hg2) hg3 (fun k hk => by have h5 := Option.some.inj hk; omega)
set_option maxRecDepth 100000 in
set_option maxHeartbeats 1000000 in
theorem of30 (w : World) : Calls Tryd.prog 17 #[.int .i64 30] w fun e w' => e = .returned (.tuple #[arrV .i32 (tabI 30), .bool true]) ∧ w.grownBy w' none := by
  obtain ⟨Z, hZ⟩ : ∃ Z, tabI 30 = Z := ⟨_, rfl⟩
  have hl := tabI_len 30
  have a1 := Hid.mk' (fun w => arr30 w)
  rw [hZ] at hl a1
  rw [hZ]
  have hl0 := Hid.mk' hl
  clear hZ hl
  go_enter Tryd.func17, Tryd.ntmps17
  go_upto_region 1 with (refine wpList_allocA _ rfl 55 rfl (List.replicate 96 0) (zeroA _) ?_; intro w1 ha1 hg1)
  go_wp2_with (first
    | (go_at_call 30; refine (a1.out _).mono ?_; rintro e w2 ⟨rfl, hg2⟩)
    | (refine wpList_storeA _ rfl 55 _ _ rfl 96 infoA w.heap.size (List.replicate 96 0) Z zlen hl0.out rfl rfl (ha1.kept0 hg2) ?_; intro w3 ha3 hg3))
  refine bodyPost_ret (v := .tuple #[arrV .i32 Z, .bool true]) (results_cell_row_tmp Tryd.results17 _ w3 w.heap.size 55 _ (0, 0) _ rfl ha3 Tryd.underlying55 rfl (by rw [infoA]; simp [hl0.out]) _ rfl) rfl ⟨rfl, ?_⟩
  exact grownBy_new (grownBy_trans hg1 hg2) hg3 (fun k hk => by have h5 := Option.some.inj hk; omega)
set_option maxRecDepth 100000 in
set_option maxHeartbeats 1000000 in
theorem of31 (w : World) : Calls Tryd.prog 17 #[.int .i64 31] w fun e w' => e = .returned (.tuple #[arrV .i32 (tabI 31), .bool true]) ∧ w.grownBy w' none := by
  obtain ⟨Z, hZ⟩ : ∃ Z, tabI 31 = Z := ⟨_, rfl⟩
  have hl := tabI_len 31
  have a1 := Hid.mk' (fun w => arr31 w)
  rw [hZ] at hl a1
  rw [hZ]
  have hl0 := Hid.mk' hl
  clear hZ hl
  go_enter Tryd.func17, Tryd.ntmps17
  go_upto_region 1 with (refine wpList_allocA _ rfl 55 rfl (List.replicate 96 0) (zeroA _) ?_; intro w1 ha1 hg1)
  go_wp2_with (first
    | (go_at_call 31; refine (a1.out _).mono ?_; rintro e w2 ⟨rfl, hg2⟩)
    | (refine wpList_storeA _ rfl 55 _ _ rfl 96 infoA w.heap.size (List.replicate 96 0) Z zlen hl0.out rfl rfl (ha1.kept0 hg2) ?_; intro w3 ha3 hg3))
  refine bodyPost_ret (v := .tuple #[arrV .i32 Z, .bool true]) (results_cell_row_tmp Tryd.results17 _ w3 w.heap.size 55 _ (0, 0) _ rfl ha3 Tryd.underlying55 rfl (by rw [infoA]; simp [hl0.out]) _ rfl) rfl ⟨rfl, ?_⟩
  exact grownBy_new (grownBy_trans hg1 hg2) hg3 (fun k hk => by have h5 := Option.some.inj hk; omega)
set_option maxRecDepth 100000 in
set_option maxHeartbeats 1000000 in
theorem of33 (w : World) : Calls Tryd.prog 17 #[.int .i64 33] w fun e w' => e = .returned (.tuple #[arrV .i32 (tabI 33), .bool true]) ∧ w.grownBy w' none := by
  obtain ⟨Z, hZ⟩ : ∃ Z, tabI 33 = Z := ⟨_, rfl⟩
  have hl := tabI_len 33
  have a1 := Hid.mk' (fun w => arr33 w)
  rw [hZ] at hl a1
  rw [hZ]
  have hl0 := Hid.mk' hl
  clear hZ hl
  go_enter Tryd.func17, Tryd.ntmps17
  go_upto_region 1 with (refine wpList_allocA _ rfl 55 rfl (List.replicate 96 0) (zeroA _) ?_; intro w1 ha1 hg1)
  go_wp2_with (first
    | (go_at_call 32; refine (a1.out _).mono ?_; rintro e w2 ⟨rfl, hg2⟩)
    | (refine wpList_storeA _ rfl 55 _ _ rfl 96 infoA w.heap.size (List.replicate 96 0) Z zlen hl0.out rfl rfl (ha1.kept0 hg2) ?_; intro w3 ha3 hg3))
  refine bodyPost_ret (v := .tuple #[arrV .i32 Z, .bool true]) (results_cell_row_tmp Tryd.results17 _ w3 w.heap.size 55 _ (0, 0) _ rfl ha3 Tryd.underlying55 rfl (by rw [infoA]; simp [hl0.out]) _ rfl) rfl ⟨rfl, ?_⟩
  exact grownBy_new (grownBy_trans hg1 hg2) hg3 (fun k hk => by have h5 := Option.some.inj hk; omega)
set_option maxRecDepth 100000 in
set_option maxHeartbeats 1000000 in
theorem of34 (w : World) : Calls Tryd.prog 17 #[.int .i64 34] w fun e w' => e = .returned (.tuple #[arrV .i32 (tabI 34), .bool true]) ∧ w.grownBy w' none := by
  obtain ⟨Z, hZ⟩ : ∃ Z, tabI 34 = Z := ⟨_, rfl⟩
  have hl := tabI_len 34
  have a1 := Hid.mk' (fun w => arr34 w)
  rw [hZ] at hl a1
  rw [hZ]
  have hl0 := Hid.mk' hl
  clear hZ hl
  go_enter Tryd.func17, Tryd.ntmps17
  go_upto_region 1 with (refine wpList_allocA _ rfl 55 rfl (List.replicate 96 0) (zeroA _) ?_; intro w1 ha1 hg1)
  go_wp2_with (first
    | (go_at_call 33; refine (a1.out _).mono ?_; rintro e w2 ⟨rfl, hg2⟩)
    | (refine wpList_storeA _ rfl 55 _ _ rfl 96 infoA w.heap.size (List.replicate 96 0) Z zlen hl0.out rfl rfl (ha1.kept0 hg2) ?_; intro w3 ha3 hg3))
  refine bodyPost_ret (v := .tuple #[arrV .i32 Z, .bool true]) (results_cell_row_tmp Tryd.results17 _ w3 w.heap.size 55 _ (0, 0) _ rfl ha3 Tryd.underlying55 rfl (by rw [infoA]; simp [hl0.out]) _ rfl) rfl ⟨rfl, ?_⟩
  exact grownBy_new (grownBy_trans hg1 hg2) hg3 (fun k hk => by have h5 := Option.some.inj hk; omega)
set_option maxRecDepth 100000 in
set_option maxHeartbeats 1000000 in
theorem of35 (w : World) : Calls Tryd.prog 17 #[.int .i64 35] w fun e w' => e = .returned (.tuple #[arrV .i32 (tabI 35), .bool true]) ∧ w.grownBy w' none := by
  obtain ⟨Z, hZ⟩ : ∃ Z, tabI 35 = Z := ⟨_, rfl⟩
  have hl := tabI_len 35
  have a1 := Hid.mk' (fun w => arr35 w)
  rw [hZ] at hl a1
  rw [hZ]
  have hl0 := Hid.mk' hl
  clear hZ hl
  go_enter Tryd.func17, Tryd.ntmps17
  go_upto_region 1 with (refine wpList_allocA _ rfl 55 rfl (List.replicate 96 0) (zeroA _) ?_; intro w1 ha1 hg1)
  go_wp2_with (first
    | (go_at_call 34; refine (a1.out _).mono ?_; rintro e w2 ⟨rfl, hg2⟩)
    | (refine wpList_storeA _ rfl 55 _ _ rfl 96 infoA w.heap.size (List.replicate 96 0) Z zlen hl0.out rfl rfl (ha1.kept0 hg2) ?_; intro w3 ha3 hg3))
  refine bodyPost_ret (v := .tuple #[arrV .i32 Z, .bool true]) (results_cell_row_tmp Tryd.results17 _ w3 w.heap.size 55 _ (0, 0) _ rfl ha3 Tryd.underlying55 rfl (by rw [infoA]; simp [hl0.out]) _ rfl) rfl ⟨rfl, ?_⟩
  exact grownBy_new (grownBy_trans hg1 hg2) hg3 (fun k hk => by have h5 := Option.some.inj hk; omega)
set_option maxRecDepth 100000 in
set_option maxHeartbeats 1000000 in
theorem of36 (w : World) : Calls Tryd.prog 17 #[.int .i64 36] w fun e w' => e = .returned (.tuple #[arrV .i32 (tabI 36), .bool true]) ∧ w.grownBy w' none := by
  obtain ⟨Z, hZ⟩ : ∃ Z, tabI 36 = Z := ⟨_, rfl⟩
  have hl := tabI_len 36
  have a1 := Hid.mk' (fun w => arr36 w)
  rw [hZ] at hl a1
  rw [hZ]
  have hl0 := Hid.mk' hl
  clear hZ hl
  go_enter Tryd.func17, Tryd.ntmps17
  go_upto_region 1 with (refine wpList_allocA _ rfl 55 rfl (List.replicate 96 0) (zeroA _) ?_; intro w1 ha1 hg1)
  go_wp2_with (first
    | (go_at_call 35; refine (a1.out _).mono ?_; rintro e w2 ⟨rfl, hg2⟩)
    | (refine wpList_storeA _ rfl 55 _ _ rfl 96 infoA w.heap.size (List.replicate 96 0) Z zlen hl0.out rfl rfl (ha1.kept0 hg2) ?_; intro w3 ha3 hg3))
  refine bodyPost_ret (v := .tuple #[arrV .i32 Z, .bool true]) (results_cell_row_tmp Tryd.results17 _ w3 w.heap.size 55 _ (0, 0) _ rfl ha3 Tryd.underlying55 rfl (by rw [infoA]; simp [hl0.out]) _ rfl) rfl ⟨rfl, ?_⟩
  exact grownBy_new (grownBy_trans hg1 hg2) hg3 (fun k hk => by have h5 := Option.some.inj hk; omega)
set_option maxRecDepth 100000 in
set_option maxHeartbeats 1000000 in
theorem of_none (k : Int) (w : World) (h21 : ¬ k = 21) (h22 : ¬ k = 22) (h23 : ¬ k = 23) (h24 : ¬ k = 24) (h25 : ¬ k = 25) (h26 : ¬ k = 26) (h27 : ¬ k = 27) (h28 : ¬ k = 28) (h29 : ¬ k = 29) (h30 : ¬ k = 30) (h31 : ¬ k = 31) (h33 : ¬ k = 33) (h34 : ¬ k = 34) (h35 : ¬ k = 35) (h36 : ¬ k = 36) : Calls Tryd.prog 17 #[.int .i64 k] w fun e w' => e = .returned (.tuple #[arrV .i32 (List.replicate 96 0), .bool false]) ∧ w.grownBy w' none := by
  have b21 : (k == 21) = false := by simpa using h21
  have b22 : (k == 22) = false := by simpa using h22
  have b23 : (k == 23) = false := by simpa using h23
  have b24 : (k == 24) = false := by simpa using h24
  have b25 : (k == 25) = false := by simpa using h25
  have b26 : (k == 26) = false := by simpa using h26
  have b27 : (k == 27) = false := by simpa using h27
  have b28 : (k == 28) = false := by simpa using h28
  have b29 : (k == 29) = false := by simpa using h29
  have b30 : (k == 30) = false := by simpa using h30
  have b31 : (k == 31) = false := by simpa using h31
  have b33 : (k == 33) = false := by simpa using h33
  have b34 : (k == 34) = false := by simpa using h34
  have b35 : (k == 35) = false := by simpa using h35
  have b36 : (k == 36) = false := by simpa using h36
  obtain ⟨Z, hZ⟩ : ∃ Z : List Int, List.replicate 96 (0 : Int) = Z := ⟨_, rfl⟩
  have hl := zlen
  have hz := Hid.mk' (fun w => zeroA w)
  have hb := Hid.mk' zeroB
  rw [hZ] at hl hz hb
  rw [hZ]
  have hl0 := Hid.mk' hl
  clear hZ hl
  go_enter Tryd.func17, Tryd.ntmps17
  go_upto_region 1 with (refine wpList_allocA _ rfl 55 rfl Z (hz.out _) ?_; intro w1 ha1 hg1)
  go_wp2_with (first
    | (refine wpList_buildZ _ rfl 55 rfl 96 21 Tryd.underlying55 Z hb.out infoR ?_)
    | (refine wpList_storeA _ rfl 55 _ _ rfl 96 infoA w.heap.size Z Z hl0.out hl0.out rfl rfl ha1 ?_; intro w3 ha3 hg3))
  refine bodyPost_ret (v := .tuple #[arrV .i32 Z, .bool false]) (results_cell_row_tmp Tryd.results17 _ w3 w.heap.size 55 _ (0, 0) _ rfl ha3 Tryd.underlying55 rfl (by rw [infoA]; simp [hl0.out]) _ rfl) rfl ⟨rfl, ?_⟩
  exact grownBy_new hg1 hg3 (fun k hk => by have h5 := Option.some.inj hk; omega)
theorem of_any (k : Int) (H : Bool) (hH : Hid (decide (k ∈ kinds) = H)) (w : World) : Calls Tryd.prog 17 #[.int .i64 k] w fun e w' => e = .returned (.tuple #[arrV .i32 (tabI k), .bool H]) ∧ w.grownBy w' none := by
  by_cases h : k ∈ kinds
  · obtain rfl : H = true := by rw [← hH.out]; exact decide_eq_true h
    clear hH
    have gen : ∀ k ∈ kinds, Calls Tryd.prog 17 #[.int .i64 k] w fun e w' => e = .returned (.tuple #[arrV .i32 (tabI k), .bool true]) ∧ w.grownBy w' none := by
      intro k hk
      simp only [kinds, List.mem_cons, List.not_mem_nil, or_false] at hk
      rcases hk with rfl | rfl | rfl | rfl | rfl | rfl | rfl | rfl | rfl | rfl | rfl | rfl | rfl | rfl | rfl
      · exact of21 w
      · exact of22 w
      · exact of23 w
      · exact of24 w
      · exact of25 w
      · exact of26 w
      · exact of27 w
      · exact of28 w
      · exact of29 w
      · exact of30 w
      · exact of31 w
      · exact of33 w
      · exact of34 w
      · exact of35 w
      · exact of36 w
    exact gen k h
  · obtain rfl : H = false := by rw [← hH.out]; exact decide_eq_false h
    rw [tabI, if_neg h]
    simp only [kinds, List.mem_cons, List.not_mem_nil, or_false, not_or] at h
    obtain ⟨a1, a2, a3, a4, a5, a6, a7, a8, a9, a10, a11, a12, a13, a14, a15⟩ := h
    exact of_none k w a1 a2 a3 a4 a5 a6 a7 a8 a9 a10 a11 a12 a13 a14 a15
end Go.Proofs.YtflecoooofcfdaaDoor.C09

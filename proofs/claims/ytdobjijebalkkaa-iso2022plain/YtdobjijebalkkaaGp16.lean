/- RZ16, RP16, RQ16, joined. -/
import Derived.Test.YtdobjijebalkkaaRB16
import Derived.Test.YtdobjijebalkkaaAr
import Derived.Test.YtdobjijebalkkaaRD16
/- The program's lists of layer 16, and the one of a kind: walks. -/
namespace Go.Proofs.Ytdobjijebalkkaa.C16
open Go.ChangeShapes Go.WideShapes Go.ChangeAt Go.RowKit Go.Proofs.Ytdobjijebalkkaa.Mem Go.Proofs.Ytdobjijebalkkaa.Ar
set_option linter.unusedVariables false
set_option linter.unusedSimpArgs false

theorem infoA : (Try.prog.info? 83).map (·.size) = some 94 := by kernel_rfl
theorem zeroA (w : World) : (zeroValue 83).run Try.prog w = .ok (arrV .i32 (List.replicate 94 0)) w := by kernel_rfl
theorem zeroB : (Try.prog.info? 83).bind (·.zero) = some (arrV .i32 (List.replicate 94 0)) := by kernel_rfl
theorem infoR : (Try.prog.info? 21).map (·.size) = some 1 := by kernel_rfl
/-- A kind's list as the program has it: zeros where it is none. -/
def tabI (k : Int) : List Int := if k ∈ kinds then (tab k).map (fun n : Nat => (n : Int)) else List.replicate 94 0
theorem tabI_len (k : Int) : (tabI k).length = 94 := by
  unfold tabI
  split
  · rename_i h; rw [List.length_map, tab_len h]
  · rw [List.length_replicate]
theorem zlen : (List.replicate 94 (0 : Int)).length = 94 := List.length_replicate
set_option maxRecDepth 100000 in
set_option maxHeartbeats 1000000 in
theorem arr1 (w : World) : Calls Try.prog 70 #[] w fun e w' => e = .returned (arrV .i32 (tabI 1)) ∧ w.grownBy w' none := by
  go_enter Try.func70, Try.ntmps70
  go_upto_region 1 with (refine wpList_allocA _ rfl 83 rfl (List.replicate 94 0) (zeroA _) ?_; intro w1 ha1 hg1)
  refine wp_region_lit ?_
  refine wpList_buildA (q := .i32) _ rfl 83 _ rfl 94 21 Try.underlying83 _ zeroB (arrV_size _ _ zlen) infoR (tabI 1) (tabI_len 1) (by kernel_rfl) ?_
  refine wpList_storeA _ rfl 83 _ _ rfl 94 infoA w.heap.size (List.replicate 94 0) (tabI 1) zlen (tabI_len 1) rfl rfl ha1 ?_; intro w2 ha2 hg2
  refine wpList_nil ?_
  go_wp2
  refine bodyPost_ret (v := arrV .i32 (tabI 1)) (results_cell_row Try.results70 _ w2 w.heap.size 83 _ (0, 0) _ rfl ha2 Try.underlying83 rfl (by rw [infoA]; simp [tabI_len])) rfl ⟨rfl, ?_⟩
  exact grownBy_new hg1 hg2 (fun k hk => by have h5 := Option.some.inj hk; omega)
set_option maxRecDepth 100000 in
set_option maxHeartbeats 1000000 in
theorem arr2 (w : World) : Calls Try.prog 71 #[] w fun e w' => e = .returned (arrV .i32 (tabI 2)) ∧ w.grownBy w' none := by
  go_enter Try.func71, Try.ntmps71
  go_upto_region 1 with (refine wpList_allocA _ rfl 83 rfl (List.replicate 94 0) (zeroA _) ?_; intro w1 ha1 hg1)
  refine wp_region_lit ?_
  refine wpList_buildA (q := .i32) _ rfl 83 _ rfl 94 21 Try.underlying83 _ zeroB (arrV_size _ _ zlen) infoR (tabI 2) (tabI_len 2) (by kernel_rfl) ?_
  refine wpList_storeA _ rfl 83 _ _ rfl 94 infoA w.heap.size (List.replicate 94 0) (tabI 2) zlen (tabI_len 2) rfl rfl ha1 ?_; intro w2 ha2 hg2
  refine wpList_nil ?_
  go_wp2
  refine bodyPost_ret (v := arrV .i32 (tabI 2)) (results_cell_row Try.results71 _ w2 w.heap.size 83 _ (0, 0) _ rfl ha2 Try.underlying83 rfl (by rw [infoA]; simp [tabI_len])) rfl ⟨rfl, ?_⟩
  exact grownBy_new hg1 hg2 (fun k hk => by have h5 := Option.some.inj hk; omega)
set_option maxRecDepth 100000 in
set_option maxHeartbeats 1000000 in
theorem arr3 (w : World) : Calls Try.prog 72 #[] w fun e w' => e = .returned (arrV .i32 (tabI 3)) ∧ w.grownBy w' none := by
  go_enter Try.func72, Try.ntmps72
  go_upto_region 1 with (refine wpList_allocA _ rfl 83 rfl (List.replicate 94 0) (zeroA _) ?_; intro w1 ha1 hg1)
  refine wp_region_lit ?_
  refine wpList_buildA (q := .i32) _ rfl 83 _ rfl 94 21 Try.underlying83 _ zeroB (arrV_size _ _ zlen) infoR (tabI 3) (tabI_len 3) (by kernel_rfl) ?_
  refine wpList_storeA _ rfl 83 _ _ rfl 94 infoA w.heap.size (List.replicate 94 0) (tabI 3) zlen (tabI_len 3) rfl rfl ha1 ?_; intro w2 ha2 hg2
  refine wpList_nil ?_
  go_wp2
  refine bodyPost_ret (v := arrV .i32 (tabI 3)) (results_cell_row Try.results72 _ w2 w.heap.size 83 _ (0, 0) _ rfl ha2 Try.underlying83 rfl (by rw [infoA]; simp [tabI_len])) rfl ⟨rfl, ?_⟩
  exact grownBy_new hg1 hg2 (fun k hk => by have h5 := Option.some.inj hk; omega)
set_option maxRecDepth 100000 in
set_option maxHeartbeats 1000000 in
theorem arr4 (w : World) : Calls Try.prog 73 #[] w fun e w' => e = .returned (arrV .i32 (tabI 4)) ∧ w.grownBy w' none := by
  go_enter Try.func73, Try.ntmps73
  go_upto_region 1 with (refine wpList_allocA _ rfl 83 rfl (List.replicate 94 0) (zeroA _) ?_; intro w1 ha1 hg1)
  refine wp_region_lit ?_
  refine wpList_buildA (q := .i32) _ rfl 83 _ rfl 94 21 Try.underlying83 _ zeroB (arrV_size _ _ zlen) infoR (tabI 4) (tabI_len 4) (by kernel_rfl) ?_
  refine wpList_storeA _ rfl 83 _ _ rfl 94 infoA w.heap.size (List.replicate 94 0) (tabI 4) zlen (tabI_len 4) rfl rfl ha1 ?_; intro w2 ha2 hg2
  refine wpList_nil ?_
  go_wp2
  refine bodyPost_ret (v := arrV .i32 (tabI 4)) (results_cell_row Try.results73 _ w2 w.heap.size 83 _ (0, 0) _ rfl ha2 Try.underlying83 rfl (by rw [infoA]; simp [tabI_len])) rfl ⟨rfl, ?_⟩
  exact grownBy_new hg1 hg2 (fun k hk => by have h5 := Option.some.inj hk; omega)
set_option maxRecDepth 100000 in
set_option maxHeartbeats 1000000 in
theorem arr5 (w : World) : Calls Try.prog 74 #[] w fun e w' => e = .returned (arrV .i32 (tabI 5)) ∧ w.grownBy w' none := by
  go_enter Try.func74, Try.ntmps74
  go_upto_region 1 with (refine wpList_allocA _ rfl 83 rfl (List.replicate 94 0) (zeroA _) ?_; intro w1 ha1 hg1)
  refine wp_region_lit ?_
  refine wpList_buildA (q := .i32) _ rfl 83 _ rfl 94 21 Try.underlying83 _ zeroB (arrV_size _ _ zlen) infoR (tabI 5) (tabI_len 5) (by kernel_rfl) ?_
  refine wpList_storeA _ rfl 83 _ _ rfl 94 infoA w.heap.size (List.replicate 94 0) (tabI 5) zlen (tabI_len 5) rfl rfl ha1 ?_; intro w2 ha2 hg2
  refine wpList_nil ?_
  go_wp2
  refine bodyPost_ret (v := arrV .i32 (tabI 5)) (results_cell_row Try.results74 _ w2 w.heap.size 83 _ (0, 0) _ rfl ha2 Try.underlying83 rfl (by rw [infoA]; simp [tabI_len])) rfl ⟨rfl, ?_⟩
  exact grownBy_new hg1 hg2 (fun k hk => by have h5 := Option.some.inj hk; omega)
set_option maxRecDepth 100000 in
set_option maxHeartbeats 1000000 in
theorem arr6 (w : World) : Calls Try.prog 75 #[] w fun e w' => e = .returned (arrV .i32 (tabI 6)) ∧ w.grownBy w' none := by
  go_enter Try.func75, Try.ntmps75
  go_upto_region 1 with (refine wpList_allocA _ rfl 83 rfl (List.replicate 94 0) (zeroA _) ?_; intro w1 ha1 hg1)
  refine wp_region_lit ?_
  refine wpList_buildA (q := .i32) _ rfl 83 _ rfl 94 21 Try.underlying83 _ zeroB (arrV_size _ _ zlen) infoR (tabI 6) (tabI_len 6) (by kernel_rfl) ?_
  refine wpList_storeA _ rfl 83 _ _ rfl 94 infoA w.heap.size (List.replicate 94 0) (tabI 6) zlen (tabI_len 6) rfl rfl ha1 ?_; intro w2 ha2 hg2
  refine wpList_nil ?_
  go_wp2
  refine bodyPost_ret (v := arrV .i32 (tabI 6)) (results_cell_row Try.results75 _ w2 w.heap.size 83 _ (0, 0) _ rfl ha2 Try.underlying83 rfl (by rw [infoA]; simp [tabI_len])) rfl ⟨rfl, ?_⟩
  exact grownBy_new hg1 hg2 (fun k hk => by have h5 := Option.some.inj hk; omega)
set_option maxRecDepth 100000 in
set_option maxHeartbeats 1000000 in
theorem arr7 (w : World) : Calls Try.prog 76 #[] w fun e w' => e = .returned (arrV .i32 (tabI 7)) ∧ w.grownBy w' none := by
  go_enter Try.func76, Try.ntmps76
  go_upto_region 1 with (refine wpList_allocA _ rfl 83 rfl (List.replicate 94 0) (zeroA _) ?_; intro w1 ha1 hg1)
  refine wp_region_lit ?_
  refine wpList_buildA (q := .i32) _ rfl 83 _ rfl 94 21 Try.underlying83 _ zeroB (arrV_size _ _ zlen) infoR (tabI 7) (tabI_len 7) (by kernel_rfl) ?_
  refine wpList_storeA _ rfl 83 _ _ rfl 94 infoA w.heap.size (List.replicate 94 0) (tabI 7) zlen (tabI_len 7) rfl rfl ha1 ?_; intro w2 ha2 hg2
  refine wpList_nil ?_
  go_wp2
  refine bodyPost_ret (v := arrV .i32 (tabI 7)) (results_cell_row Try.results76 _ w2 w.heap.size 83 _ (0, 0) _ rfl ha2 Try.underlying83 rfl (by rw [infoA]; simp [tabI_len])) rfl ⟨rfl, ?_⟩
  exact grownBy_new hg1 hg2 (fun k hk => by have h5 := Option.some.inj hk; omega)
set_option maxRecDepth 100000 in
set_option maxHeartbeats 1000000 in
theorem arr8 (w : World) : Calls Try.prog 77 #[] w fun e w' => e = .returned (arrV .i32 (tabI 8)) ∧ w.grownBy w' none := by
  go_enter Try.func77, Try.ntmps77
  go_upto_region 1 with (refine wpList_allocA _ rfl 83 rfl (List.replicate 94 0) (zeroA _) ?_; intro w1 ha1 hg1)
  refine wp_region_lit ?_
  refine wpList_buildA (q := .i32) _ rfl 83 _ rfl 94 21 Try.underlying83 _ zeroB (arrV_size _ _ zlen) infoR (tabI 8) (tabI_len 8) (by kernel_rfl) ?_
  refine wpList_storeA _ rfl 83 _ _ rfl 94 infoA w.heap.size (List.replicate 94 0) (tabI 8) zlen (tabI_len 8) rfl rfl ha1 ?_; intro w2 ha2 hg2
  refine wpList_nil ?_
  go_wp2
  refine bodyPost_ret (v := arrV .i32 (tabI 8)) (results_cell_row Try.results77 _ w2 w.heap.size 83 _ (0, 0) _ rfl ha2 Try.underlying83 rfl (by rw [infoA]; simp [tabI_len])) rfl ⟨rfl, ?_⟩
  exact grownBy_new hg1 hg2 (fun k hk => by have h5 := Option.some.inj hk; omega)
set_option maxRecDepth 100000 in
set_option maxHeartbeats 1000000 in
theorem arr9 (w : World) : Calls Try.prog 78 #[] w fun e w' => e = .returned (arrV .i32 (tabI 9)) ∧ w.grownBy w' none := by
  go_enter Try.func78, Try.ntmps78
  go_upto_region 1 with (refine wpList_allocA _ rfl 83 rfl (List.replicate 94 0) (zeroA _) ?_; intro w1 ha1 hg1)
  refine wp_region_lit ?_
  refine wpList_buildA (q := .i32) _ rfl 83 _ rfl 94 21 Try.underlying83 _ zeroB (arrV_size _ _ zlen) infoR (tabI 9) (tabI_len 9) (by kernel_rfl) ?_
  refine wpList_storeA _ rfl 83 _ _ rfl 94 infoA w.heap.size (List.replicate 94 0) (tabI 9) zlen (tabI_len 9) rfl rfl ha1 ?_; intro w2 ha2 hg2
  refine wpList_nil ?_
  go_wp2
  refine bodyPost_ret (v := arrV .i32 (tabI 9)) (results_cell_row Try.results78 _ w2 w.heap.size 83 _ (0, 0) _ rfl ha2 Try.underlying83 rfl (by rw [infoA]; simp [tabI_len])) rfl ⟨rfl, ?_⟩
  exact grownBy_new hg1 hg2 (fun k hk => by have h5 := Option.some.inj hk; omega)
set_option maxRecDepth 100000 in
set_option maxHeartbeats 1000000 in
theorem arr10 (w : World) : Calls Try.prog 79 #[] w fun e w' => e = .returned (arrV .i32 (tabI 10)) ∧ w.grownBy w' none := by
  go_enter Try.func79, Try.ntmps79
  go_upto_region 1 with (refine wpList_allocA _ rfl 83 rfl (List.replicate 94 0) (zeroA _) ?_; intro w1 ha1 hg1)
  refine wp_region_lit ?_
  refine wpList_buildA (q := .i32) _ rfl 83 _ rfl 94 21 Try.underlying83 _ zeroB (arrV_size _ _ zlen) infoR (tabI 10) (tabI_len 10) (by kernel_rfl) ?_
  refine wpList_storeA _ rfl 83 _ _ rfl 94 infoA w.heap.size (List.replicate 94 0) (tabI 10) zlen (tabI_len 10) rfl rfl ha1 ?_; intro w2 ha2 hg2
  refine wpList_nil ?_
  go_wp2
  refine bodyPost_ret (v := arrV .i32 (tabI 10)) (results_cell_row Try.results79 _ w2 w.heap.size 83 _ (0, 0) _ rfl ha2 Try.underlying83 rfl (by rw [infoA]; simp [tabI_len])) rfl ⟨rfl, ?_⟩
  exact grownBy_new hg1 hg2 (fun k hk => by have h5 := Option.some.inj hk; omega)
set_option maxRecDepth 100000 in
set_option maxHeartbeats 1000000 in
theorem arr11 (w : World) : Calls Try.prog 80 #[] w fun e w' => e = .returned (arrV .i32 (tabI 11)) ∧ w.grownBy w' none := by
  go_enter Try.func80, Try.ntmps80
  go_upto_region 1 with (refine wpList_allocA _ rfl 83 rfl (List.replicate 94 0) (zeroA _) ?_; intro w1 ha1 hg1)
  refine wp_region_lit ?_
  refine wpList_buildA (q := .i32) _ rfl 83 _ rfl 94 21 Try.underlying83 _ zeroB (arrV_size _ _ zlen) infoR (tabI 11) (tabI_len 11) (by kernel_rfl) ?_
  refine wpList_storeA _ rfl 83 _ _ rfl 94 infoA w.heap.size (List.replicate 94 0) (tabI 11) zlen (tabI_len 11) rfl rfl ha1 ?_; intro w2 ha2 hg2
  refine wpList_nil ?_
  go_wp2
  refine bodyPost_ret (v := arrV .i32 (tabI 11)) (results_cell_row Try.results80 _ w2 w.heap.size 83 _ (0, 0) _ rfl ha2 Try.underlying83 rfl (by rw [infoA]; simp [tabI_len])) rfl ⟨rfl, ?_⟩
  exact grownBy_new hg1 hg2 (fun k hk => by have h5 := Option.some.inj hk; omega)
set_option maxRecDepth 100000 in
set_option maxHeartbeats 1000000 in
theorem arr12 (w : World) : Calls Try.prog 81 #[] w fun e w' => e = .returned (arrV .i32 (tabI 12)) ∧ w.grownBy w' none := by
  go_enter Try.func81, Try.ntmps81
  go_upto_region 1 with (refine wpList_allocA _ rfl 83 rfl (List.replicate 94 0) (zeroA _) ?_; intro w1 ha1 hg1)
  refine wp_region_lit ?_
  refine wpList_buildA (q := .i32) _ rfl 83 _ rfl 94 21 Try.underlying83 _ zeroB (arrV_size _ _ zlen) infoR (tabI 12) (tabI_len 12) (by kernel_rfl) ?_
  refine wpList_storeA _ rfl 83 _ _ rfl 94 infoA w.heap.size (List.replicate 94 0) (tabI 12) zlen (tabI_len 12) rfl rfl ha1 ?_; intro w2 ha2 hg2
  refine wpList_nil ?_
  go_wp2
  refine bodyPost_ret (v := arrV .i32 (tabI 12)) (results_cell_row Try.results81 _ w2 w.heap.size 83 _ (0, 0) _ rfl ha2 Try.underlying83 rfl (by rw [infoA]; simp [tabI_len])) rfl ⟨rfl, ?_⟩
  exact grownBy_new hg1 hg2 (fun k hk => by have h5 := Option.some.inj hk; omega)
set_option maxRecDepth 100000 in
set_option maxHeartbeats 1000000 in
theorem arr16 (w : World) : Calls Try.prog 82 #[] w fun e w' => e = .returned (arrV .i32 (tabI 16)) ∧ w.grownBy w' none := by
  go_enter Try.func82, Try.ntmps82
  go_upto_region 1 with (refine wpList_allocA _ rfl 83 rfl (List.replicate 94 0) (zeroA _) ?_; intro w1 ha1 hg1)
  refine wp_region_lit ?_
  refine wpList_buildA (q := .i32) _ rfl 83 _ rfl 94 21 Try.underlying83 _ zeroB (arrV_size _ _ zlen) infoR (tabI 16) (tabI_len 16) (by kernel_rfl) ?_
  refine wpList_storeA _ rfl 83 _ _ rfl 94 infoA w.heap.size (List.replicate 94 0) (tabI 16) zlen (tabI_len 16) rfl rfl ha1 ?_; intro w2 ha2 hg2
  refine wpList_nil ?_
  go_wp2
  refine bodyPost_ret (v := arrV .i32 (tabI 16)) (results_cell_row Try.results82 _ w2 w.heap.size 83 _ (0, 0) _ rfl ha2 Try.underlying83 rfl (by rw [infoA]; simp [tabI_len])) rfl ⟨rfl, ?_⟩
  exact grownBy_new hg1 hg2 (fun k hk => by have h5 := Option.some.inj hk; omega)
set_option maxRecDepth 100000 in
set_option maxHeartbeats 1000000 in
theorem arr42 (w : World) : Calls Try.prog 83 #[] w fun e w' => e = .returned (arrV .i32 (tabI 42)) ∧ w.grownBy w' none := by
  go_enter Try.func83, Try.ntmps83
  go_upto_region 1 with (refine wpList_allocA _ rfl 83 rfl (List.replicate 94 0) (zeroA _) ?_; intro w1 ha1 hg1)
  refine wp_region_lit ?_
  refine wpList_buildA (q := .i32) _ rfl 83 _ rfl 94 21 Try.underlying83 _ zeroB (arrV_size _ _ zlen) infoR (tabI 42) (tabI_len 42) (by kernel_rfl) ?_
  refine wpList_storeA _ rfl 83 _ _ rfl 94 infoA w.heap.size (List.replicate 94 0) (tabI 42) zlen (tabI_len 42) rfl rfl ha1 ?_; intro w2 ha2 hg2
  refine wpList_nil ?_
  go_wp2
  refine bodyPost_ret (v := arrV .i32 (tabI 42)) (results_cell_row Try.results83 _ w2 w.heap.size 83 _ (0, 0) _ rfl ha2 Try.underlying83 rfl (by rw [infoA]; simp [tabI_len])) rfl ⟨rfl, ?_⟩
  exact grownBy_new hg1 hg2 (fun k hk => by have h5 := Option.some.inj hk; omega)
set_option maxRecDepth 100000 in
set_option maxHeartbeats 1000000 in
theorem of1 (w : World) : Calls Try.prog 52 #[.int .i64 1] w fun e w' => e = .returned (.tuple #[arrV .i32 (tabI 1), .bool true]) ∧ w.grownBy w' none := by
  obtain ⟨Z, hZ⟩ : ∃ Z, tabI 1 = Z := ⟨_, rfl⟩
  have hl := tabI_len 1
  have a1 := Hid.mk' (fun w => arr1 w)
  rw [hZ] at hl a1
  rw [hZ]
  have hl0 := Hid.mk' hl
  clear hZ hl
  go_enter Try.func52, Try.ntmps52
  go_upto_region 1 with (refine wpList_allocA _ rfl 83 rfl (List.replicate 94 0) (zeroA _) ?_; intro w1 ha1 hg1)
  go_wp2_with (first
    | (go_at_call 70; refine (a1.out _).mono ?_; rintro e w2 ⟨rfl, hg2⟩)
    | (refine wpList_storeA _ rfl 83 _ _ rfl 94 infoA w.heap.size (List.replicate 94 0) Z zlen hl0.out rfl rfl (ha1.kept0 hg2) ?_; intro w3 ha3 hg3))
  refine bodyPost_ret (v := .tuple #[arrV .i32 Z, .bool true]) (results_cell_row_tmp Try.results52 _ w3 w.heap.size 83 _ (0, 0) _ rfl ha3 Try.underlying83 rfl (by rw [infoA]; simp [hl0.out]) _ rfl) rfl ⟨rfl, ?_⟩
  exact grownBy_new (grownBy_trans hg1 hg2) hg3 (fun k hk => by have h5 := Option.some.inj hk; omega)
set_option maxRecDepth 100000 in
set_option maxHeartbeats 1000000 in
theorem of2 (w : World) : Calls Try.prog 52 #[.int .i64 2] w fun e w' => e = .returned (.tuple #[arrV .i32 (tabI 2), .bool true]) ∧ w.grownBy w' none := by
  obtain ⟨Z, hZ⟩ : ∃ Z, tabI 2 = Z := ⟨_, rfl⟩
  have hl := tabI_len 2
  have a1 := Hid.mk' (fun w => arr2 w)
  rw [hZ] at hl a1
  rw [hZ]
  have hl0 := Hid.mk' hl
  clear hZ hl
  go_enter Try.func52, Try.ntmps52
  go_upto_region 1 with (refine wpList_allocA _ rfl 83 rfl (List.replicate 94 0) (zeroA _) ?_; intro w1 ha1 hg1)
  go_wp2_with (first
    | (go_at_call 71; refine (a1.out _).mono ?_; rintro e w2 ⟨rfl, hg2⟩)
    | (refine wpList_storeA _ rfl 83 _ _ rfl 94 infoA w.heap.size (List.replicate 94 0) Z zlen hl0.out rfl rfl (ha1.kept0 hg2) ?_; intro w3 ha3 hg3))
  refine bodyPost_ret (v := .tuple #[arrV .i32 Z, .bool true]) (results_cell_row_tmp Try.results52 _ w3 w.heap.size 83 _ (0, 0) _ rfl ha3 Try.underlying83 rfl (by rw [infoA]; simp [hl0.out]) _ rfl) rfl ⟨rfl, ?_⟩
  exact grownBy_new (grownBy_trans hg1 hg2) hg3 (fun k hk => by have h5 := Option.some.inj hk; omega)
set_option maxRecDepth 100000 in
set_option maxHeartbeats 1000000 in
theorem of3 (w : World) : Calls Try.prog 52 #[.int .i64 3] w fun e w' => e = .returned (.tuple #[arrV .i32 (tabI 3), .bool true]) ∧ w.grownBy w' none := by
  obtain ⟨Z, hZ⟩ : ∃ Z, tabI 3 = Z := ⟨_, rfl⟩
  have hl := tabI_len 3
  have a1 := Hid.mk' (fun w => arr3 w)
  rw [hZ] at hl a1
  rw [hZ]
  have hl0 := Hid.mk' hl
  clear hZ hl
  go_enter Try.func52, Try.ntmps52
  go_upto_region 1 with (refine wpList_allocA _ rfl 83 rfl (List.replicate 94 0) (zeroA _) ?_; intro w1 ha1 hg1)
  go_wp2_with (first
    | (go_at_call 72; refine (a1.out _).mono ?_; rintro e w2 ⟨rfl, hg2⟩)
    | (refine wpList_storeA _ rfl 83 _ _ rfl 94 infoA w.heap.size (List.replicate 94 0) Z zlen hl0.out rfl rfl (ha1.kept0 hg2) ?_; intro w3 ha3 hg3))
  refine bodyPost_ret (v := .tuple #[arrV .i32 Z, .bool true]) (results_cell_row_tmp Try.results52 _ w3 w.heap.size 83 _ (0, 0) _ rfl ha3 Try.underlying83 rfl (by rw [infoA]; simp [hl0.out]) _ rfl) rfl ⟨rfl, ?_⟩
  exact grownBy_new (grownBy_trans hg1 hg2) hg3 (fun k hk => by have h5 := Option.some.inj hk; omega)
set_option maxRecDepth 100000 in
set_option maxHeartbeats 1000000 in
theorem of4 (w : World) : Calls Try.prog 52 #[.int .i64 4] w fun e w' => e = .returned (.tuple #[arrV .i32 (tabI 4), .bool true]) ∧ w.grownBy w' none := by
  obtain ⟨Z, hZ⟩ : ∃ Z, tabI 4 = Z := ⟨_, rfl⟩
  have hl := tabI_len 4
  have a1 := Hid.mk' (fun w => arr4 w)
  rw [hZ] at hl a1
  rw [hZ]
  have hl0 := Hid.mk' hl
  clear hZ hl
  go_enter Try.func52, Try.ntmps52
  go_upto_region 1 with (refine wpList_allocA _ rfl 83 rfl (List.replicate 94 0) (zeroA _) ?_; intro w1 ha1 hg1)
  go_wp2_with (first
    | (go_at_call 73; refine (a1.out _).mono ?_; rintro e w2 ⟨rfl, hg2⟩)
    | (refine wpList_storeA _ rfl 83 _ _ rfl 94 infoA w.heap.size (List.replicate 94 0) Z zlen hl0.out rfl rfl (ha1.kept0 hg2) ?_; intro w3 ha3 hg3))
  refine bodyPost_ret (v := .tuple #[arrV .i32 Z, .bool true]) (results_cell_row_tmp Try.results52 _ w3 w.heap.size 83 _ (0, 0) _ rfl ha3 Try.underlying83 rfl (by rw [infoA]; simp [hl0.out]) _ rfl) rfl ⟨rfl, ?_⟩
  exact grownBy_new (grownBy_trans hg1 hg2) hg3 (fun k hk => by have h5 := Option.some.inj hk; omega)
set_option maxRecDepth 100000 in
set_option maxHeartbeats 1000000 in
theorem of5 (w : World) : Calls Try.prog 52 #[.int .i64 5] w fun e w' => e = .returned (.tuple #[arrV .i32 (tabI 5), .bool true]) ∧ w.grownBy w' none := by
  obtain ⟨Z, hZ⟩ : ∃ Z, tabI 5 = Z := ⟨_, rfl⟩
  have hl := tabI_len 5
  have a1 := Hid.mk' (fun w => arr5 w)
  rw [hZ] at hl a1
  rw [hZ]
  have hl0 := Hid.mk' hl
  clear hZ hl
  go_enter Try.func52, Try.ntmps52
  go_upto_region 1 with (refine wpList_allocA _ rfl 83 rfl (List.replicate 94 0) (zeroA _) ?_; intro w1 ha1 hg1)
  go_wp2_with (first
    | (go_at_call 74; refine (a1.out _).mono ?_; rintro e w2 ⟨rfl, hg2⟩)
    | (refine wpList_storeA _ rfl 83 _ _ rfl 94 infoA w.heap.size (List.replicate 94 0) Z zlen hl0.out rfl rfl (ha1.kept0 hg2) ?_; intro w3 ha3 hg3))
  refine bodyPost_ret (v := .tuple #[arrV .i32 Z, .bool true]) (results_cell_row_tmp Try.results52 _ w3 w.heap.size 83 _ (0, 0) _ rfl ha3 Try.underlying83 rfl (by rw [infoA]; simp [hl0.out]) _ rfl) rfl ⟨rfl, ?_⟩
  exact grownBy_new (grownBy_trans hg1 hg2) hg3 (fun k hk => by have h5 := Option.some.inj hk; omega)
set_option maxRecDepth 100000 in
set_option maxHeartbeats 1000000 in
theorem of6 (w : World) : Calls Try.prog 52 #[.int .i64 6] w fun e w' => e = .returned (.tuple #[arrV .i32 (tabI 6), .bool true]) ∧ w.grownBy w' none := by
  obtain ⟨Z, hZ⟩ : ∃ Z, tabI 6 = Z := ⟨_, rfl⟩
  have hl := tabI_len 6
  have a1 := Hid.mk' (fun w => arr6 w)
  rw [hZ] at hl a1
  rw [hZ]
  have hl0 := Hid.mk' hl
  clear hZ hl
  go_enter Try.func52, Try.ntmps52
  go_upto_region 1 with (refine wpList_allocA _ rfl 83 rfl (List.replicate 94 0) (zeroA _) ?_; intro w1 ha1 hg1)
  go_wp2_with (first
    | (go_at_call 75; refine (a1.out _).mono ?_; rintro e w2 ⟨rfl, hg2⟩)
    | (refine wpList_storeA _ rfl 83 _ _ rfl 94 infoA w.heap.size (List.replicate 94 0) Z zlen hl0.out rfl rfl (ha1.kept0 hg2) ?_; intro w3 ha3 hg3))
  refine bodyPost_ret (v := .tuple #[arrV .i32 Z, .bool true]) (results_cell_row_tmp Try.results52 _ w3 w.heap.size 83 _ (0, 0) _ rfl ha3 Try.underlying83 rfl (by rw [infoA]; simp [hl0.out]) _ rfl) rfl ⟨rfl, ?_⟩
  exact grownBy_new (grownBy_trans hg1 hg2) hg3 (fun k hk => by have h5 := Option.some.inj hk; omega)
set_option maxRecDepth 100000 in
set_option maxHeartbeats 1000000 in
theorem of7 (w : World) : Calls Try.prog 52 #[.int .i64 7] w fun e w' => e = .returned (.tuple #[arrV .i32 (tabI 7), .bool true]) ∧ w.grownBy w' none := by
  obtain ⟨Z, hZ⟩ : ∃ Z, tabI 7 = Z := ⟨_, rfl⟩
  have hl := tabI_len 7
  have a1 := Hid.mk' (fun w => arr7 w)
  rw [hZ] at hl a1
  rw [hZ]
  have hl0 := Hid.mk' hl
  clear hZ hl
  go_enter Try.func52, Try.ntmps52
  go_upto_region 1 with (refine wpList_allocA _ rfl 83 rfl (List.replicate 94 0) (zeroA _) ?_; intro w1 ha1 hg1)
  go_wp2_with (first
    | (go_at_call 76; refine (a1.out _).mono ?_; rintro e w2 ⟨rfl, hg2⟩)
    | (refine wpList_storeA _ rfl 83 _ _ rfl 94 infoA w.heap.size (List.replicate 94 0) Z zlen hl0.out rfl rfl (ha1.kept0 hg2) ?_; intro w3 ha3 hg3))
  refine bodyPost_ret (v := .tuple #[arrV .i32 Z, .bool true]) (results_cell_row_tmp Try.results52 _ w3 w.heap.size 83 _ (0, 0) _ rfl ha3 Try.underlying83 rfl (by rw [infoA]; simp [hl0.out]) _ rfl) rfl ⟨rfl, ?_⟩
  exact grownBy_new (grownBy_trans hg1 hg2) hg3 (fun k hk => by have h5 := Option.some.inj hk; omega)
set_option maxRecDepth 100000 in
set_option maxHeartbeats 1000000 in
theorem of8 (w : World) : Calls Try.prog 52 #[.int .i64 8] w fun e w' => e = .returned (.tuple #[arrV .i32 (tabI 8), .bool true]) ∧ w.grownBy w' none := by
  obtain ⟨Z, hZ⟩ : ∃ Z, tabI 8 = Z := ⟨_, rfl⟩
  have hl := tabI_len 8
  have a1 := Hid.mk' (fun w => arr8 w)
  rw [hZ] at hl a1
  rw [hZ]
  have hl0 := Hid.mk' hl
  clear hZ hl
  go_enter Try.func52, Try.ntmps52
  go_upto_region 1 with (refine wpList_allocA _ rfl 83 rfl (List.replicate 94 0) (zeroA _) ?_; intro w1 ha1 hg1)
  go_wp2_with (first
    | (go_at_call 77; refine (a1.out _).mono ?_; rintro e w2 ⟨rfl, hg2⟩)
    | (refine wpList_storeA _ rfl 83 _ _ rfl 94 infoA w.heap.size (List.replicate 94 0) Z zlen hl0.out rfl rfl (ha1.kept0 hg2) ?_; intro w3 ha3 hg3))
  refine bodyPost_ret (v := .tuple #[arrV .i32 Z, .bool true]) (results_cell_row_tmp Try.results52 _ w3 w.heap.size 83 _ (0, 0) _ rfl ha3 Try.underlying83 rfl (by rw [infoA]; simp [hl0.out]) _ rfl) rfl ⟨rfl, ?_⟩
  exact grownBy_new (grownBy_trans hg1 hg2) hg3 (fun k hk => by have h5 := Option.some.inj hk; omega)
set_option maxRecDepth 100000 in
set_option maxHeartbeats 1000000 in
theorem of9 (w : World) : Calls Try.prog 52 #[.int .i64 9] w fun e w' => e = .returned (.tuple #[arrV .i32 (tabI 9), .bool true]) ∧ w.grownBy w' none := by
  obtain ⟨Z, hZ⟩ : ∃ Z, tabI 9 = Z := ⟨_, rfl⟩
  have hl := tabI_len 9
  have a1 := Hid.mk' (fun w => arr9 w)
  rw [hZ] at hl a1
  rw [hZ]
  have hl0 := Hid.mk' hl
  clear hZ hl
  go_enter Try.func52, Try.ntmps52
  go_upto_region 1 with (refine wpList_allocA _ rfl 83 rfl (List.replicate 94 0) (zeroA _) ?_; intro w1 ha1 hg1)
  go_wp2_with (first
    | (go_at_call 78; refine (a1.out _).mono ?_; rintro e w2 ⟨rfl, hg2⟩)
    | (refine wpList_storeA _ rfl 83 _ _ rfl 94 infoA w.heap.size (List.replicate 94 0) Z zlen hl0.out rfl rfl (ha1.kept0 hg2) ?_; intro w3 ha3 hg3))
  refine bodyPost_ret (v := .tuple #[arrV .i32 Z, .bool true]) (results_cell_row_tmp Try.results52 _ w3 w.heap.size 83 _ (0, 0) _ rfl ha3 Try.underlying83 rfl (by rw [infoA]; simp [hl0.out]) _ rfl) rfl ⟨rfl, ?_⟩
  exact grownBy_new (grownBy_trans hg1 hg2) hg3 (fun k hk => by have h5 := Option.some.inj hk; omega)
set_option maxRecDepth 100000 in
set_option maxHeartbeats 1000000 in
theorem of10 (w : World) : Calls Try.prog 52 #[.int .i64 10] w fun e w' => e = .returned (.tuple #[arrV .i32 (tabI 10), .bool true]) ∧ w.grownBy w' none := by
  obtain ⟨Z, hZ⟩ : ∃ Z, tabI 10 = Z := ⟨_, rfl⟩
  have hl := tabI_len 10
  have a1 := Hid.mk' (fun w => arr10 w)
  rw [hZ] at hl a1
  rw [hZ]
  have hl0 := Hid.mk' hl
  clear hZ hl
  go_enter Try.func52, Try.ntmps52
  go_upto_region 1 with (refine wpList_allocA _ rfl 83 rfl (List.replicate 94 0) (zeroA _) ?_; intro w1 ha1 hg1)
  go_wp2_with (first
    | (go_at_call 79; refine (a1.out _).mono ?_; rintro e w2 ⟨rfl, hg2⟩)
    | (refine wpList_storeA _ rfl 83 _ _ rfl 94 infoA w.heap.size (List.replicate 94 0) Z zlen hl0.out rfl rfl (ha1.kept0 hg2) ?_; intro w3 ha3 hg3))
  refine bodyPost_ret (v := .tuple #[arrV .i32 Z, .bool true]) (results_cell_row_tmp Try.results52 _ w3 w.heap.size 83 _ (0, 0) _ rfl ha3 Try.underlying83 rfl (by rw [infoA]; simp [hl0.out]) _ rfl) rfl ⟨rfl, ?_⟩
  exact grownBy_new (grownBy_trans hg1 hg2) hg3 (fun k hk => by have h5 := Option.some.inj hk; omega)
set_option maxRecDepth 100000 in
set_option maxHeartbeats 1000000 in
theorem of11 (w : World) : Calls Try.prog 52 #[.int .i64 11] w fun e w' => e = .returned (.tuple #[arrV .i32 (tabI 11), .bool true]) ∧ w.grownBy w' none := by
  obtain ⟨Z, hZ⟩ : ∃ Z, tabI 11 = Z := ⟨_, rfl⟩
  have hl := tabI_len 11
  have a1 := Hid.mk' (fun w => arr11 w)
  rw [hZ] at hl a1
  rw [hZ]
  have hl0 := Hid.mk' hl
  clear hZ hl
  go_enter Try.func52, Try.ntmps52
  go_upto_region 1 with (refine wpList_allocA _ rfl 83 rfl (List.replicate 94 0) (zeroA _) ?_; intro w1 ha1 hg1)
  go_wp2_with (first
    | (go_at_call 80; refine (a1.out _).mono ?_; rintro e w2 ⟨rfl, hg2⟩)
    | (refine wpList_storeA _ rfl 83 _ _ rfl 94 infoA w.heap.size (List.replicate 94 0) Z zlen hl0.out rfl rfl (ha1.kept0 hg2) ?_; intro w3 ha3 hg3))
  refine bodyPost_ret (v := .tuple #[arrV .i32 Z, .bool true]) (results_cell_row_tmp Try.results52 _ w3 w.heap.size 83 _ (0, 0) _ rfl ha3 Try.underlying83 rfl (by rw [infoA]; simp [hl0.out]) _ rfl) rfl ⟨rfl, ?_⟩
  exact grownBy_new (grownBy_trans hg1 hg2) hg3 (fun k hk => by have h5 := Option.some.inj hk; omega)
set_option maxRecDepth 100000 in
set_option maxHeartbeats 1000000 in
theorem of12 (w : World) : Calls Try.prog 52 #[.int .i64 12] w fun e w' => e = .returned (.tuple #[arrV .i32 (tabI 12), .bool true]) ∧ w.grownBy w' none := by
  obtain ⟨Z, hZ⟩ : ∃ Z, tabI 12 = Z := ⟨_, rfl⟩
  have hl := tabI_len 12
  have a1 := Hid.mk' (fun w => arr12 w)
  rw [hZ] at hl a1
  rw [hZ]
  have hl0 := Hid.mk' hl
  clear hZ hl
  go_enter Try.func52, Try.ntmps52
  go_upto_region 1 with (refine wpList_allocA _ rfl 83 rfl (List.replicate 94 0) (zeroA _) ?_; intro w1 ha1 hg1)
  go_wp2_with (first
    | (go_at_call 81; refine (a1.out _).mono ?_; rintro e w2 ⟨rfl, hg2⟩)
    | (refine wpList_storeA _ rfl 83 _ _ rfl 94 infoA w.heap.size (List.replicate 94 0) Z zlen hl0.out rfl rfl (ha1.kept0 hg2) ?_; intro w3 ha3 hg3))
  refine bodyPost_ret (v := .tuple #[arrV .i32 Z, .bool true]) (results_cell_row_tmp Try.results52 _ w3 w.heap.size 83 _ (0, 0) _ rfl ha3 Try.underlying83 rfl (by rw [infoA]; simp [hl0.out]) _ rfl) rfl ⟨rfl, ?_⟩
  exact grownBy_new (grownBy_trans hg1 hg2) hg3 (fun k hk => by have h5 := Option.some.inj hk; omega)
set_option maxRecDepth 100000 in
set_option maxHeartbeats 1000000 in
theorem of16 (w : World) : Calls Try.prog 52 #[.int .i64 16] w fun e w' => e = .returned (.tuple #[arrV .i32 (tabI 16), .bool true]) ∧ w.grownBy w' none := by
  obtain ⟨Z, hZ⟩ : ∃ Z, tabI 16 = Z := ⟨_, rfl⟩
  have hl := tabI_len 16
  have a1 := Hid.mk' (fun w => arr16 w)
  rw [hZ] at hl a1
  rw [hZ]
  have hl0 := Hid.mk' hl
  clear hZ hl
  go_enter Try.func52, Try.ntmps52
  go_upto_region 1 with (refine wpList_allocA _ rfl 83 rfl (List.replicate 94 0) (zeroA _) ?_; intro w1 ha1 hg1)
  go_wp2_with (first
    | (go_at_call 82; refine (a1.out _).mono ?_; rintro e w2 ⟨rfl, hg2⟩)
    | (refine wpList_storeA _ rfl 83 _ _ rfl 94 infoA w.heap.size (List.replicate 94 0) Z zlen hl0.out rfl rfl (ha1.kept0 hg2) ?_; intro w3 ha3 hg3))
  refine bodyPost_ret (v := .tuple #[arrV .i32 Z, .bool true]) (results_cell_row_tmp Try.results52 _ w3 w.heap.size 83 _ (0, 0) _ rfl ha3 Try.underlying83 rfl (by rw [infoA]; simp [hl0.out]) _ rfl) rfl ⟨rfl, ?_⟩
  exact grownBy_new (grownBy_trans hg1 hg2) hg3 (fun k hk => by have h5 := Option.some.inj hk; omega)
set_option maxRecDepth 100000 in
set_option maxHeartbeats 1000000 in
theorem of42 (w : World) : Calls Try.prog 52 #[.int .i64 42] w fun e w' => e = .returned (.tuple #[arrV .i32 (tabI 42), .bool true]) ∧ w.grownBy w' none := by
  obtain ⟨Z, hZ⟩ : ∃ Z, tabI 42 = Z := ⟨_, rfl⟩
  have hl := tabI_len 42
  have a1 := Hid.mk' (fun w => arr42 w)
  rw [hZ] at hl a1
  rw [hZ]
  have hl0 := Hid.mk' hl
  clear hZ hl
  go_enter Try.func52, Try.ntmps52
  go_upto_region 1 with (refine wpList_allocA _ rfl 83 rfl (List.replicate 94 0) (zeroA _) ?_; intro w1 ha1 hg1)
  go_wp2_with (first
    | (go_at_call 83; refine (a1.out _).mono ?_; rintro e w2 ⟨rfl, hg2⟩)
    | (refine wpList_storeA _ rfl 83 _ _ rfl 94 infoA w.heap.size (List.replicate 94 0) Z zlen hl0.out rfl rfl (ha1.kept0 hg2) ?_; intro w3 ha3 hg3))
  refine bodyPost_ret (v := .tuple #[arrV .i32 Z, .bool true]) (results_cell_row_tmp Try.results52 _ w3 w.heap.size 83 _ (0, 0) _ rfl ha3 Try.underlying83 rfl (by rw [infoA]; simp [hl0.out]) _ rfl) rfl ⟨rfl, ?_⟩
  exact grownBy_new (grownBy_trans hg1 hg2) hg3 (fun k hk => by have h5 := Option.some.inj hk; omega)
set_option maxRecDepth 100000 in
set_option maxHeartbeats 1000000 in
theorem of_none (k : Int) (w : World) (h1 : ¬ k = 1) (h2 : ¬ k = 2) (h3 : ¬ k = 3) (h4 : ¬ k = 4) (h5 : ¬ k = 5) (h6 : ¬ k = 6) (h7 : ¬ k = 7) (h8 : ¬ k = 8) (h9 : ¬ k = 9) (h10 : ¬ k = 10) (h11 : ¬ k = 11) (h12 : ¬ k = 12) (h16 : ¬ k = 16) (h42 : ¬ k = 42) : Calls Try.prog 52 #[.int .i64 k] w fun e w' => e = .returned (.tuple #[arrV .i32 (List.replicate 94 0), .bool false]) ∧ w.grownBy w' none := by
  have b1 : (k == 1) = false := by simpa using h1
  have b2 : (k == 2) = false := by simpa using h2
  have b3 : (k == 3) = false := by simpa using h3
  have b4 : (k == 4) = false := by simpa using h4
  have b5 : (k == 5) = false := by simpa using h5
  have b6 : (k == 6) = false := by simpa using h6
  have b7 : (k == 7) = false := by simpa using h7
  have b8 : (k == 8) = false := by simpa using h8
  have b9 : (k == 9) = false := by simpa using h9
  have b10 : (k == 10) = false := by simpa using h10
  have b11 : (k == 11) = false := by simpa using h11
  have b12 : (k == 12) = false := by simpa using h12
  have b16 : (k == 16) = false := by simpa using h16
  have b42 : (k == 42) = false := by simpa using h42
  obtain ⟨Z, hZ⟩ : ∃ Z : List Int, List.replicate 94 (0 : Int) = Z := ⟨_, rfl⟩
  have hl := zlen
  have hz := Hid.mk' (fun w => zeroA w)
  have hb := Hid.mk' zeroB
  rw [hZ] at hl hz hb
  rw [hZ]
  have hl0 := Hid.mk' hl
  clear hZ hl
  go_enter Try.func52, Try.ntmps52
  go_upto_region 1 with (refine wpList_allocA _ rfl 83 rfl Z (hz.out _) ?_; intro w1 ha1 hg1)
  go_wp2_with (first
    | (refine wpList_buildZ _ rfl 83 rfl 94 21 Try.underlying83 Z hb.out infoR ?_)
    | (refine wpList_storeA _ rfl 83 _ _ rfl 94 infoA w.heap.size Z Z hl0.out hl0.out rfl rfl ha1 ?_; intro w3 ha3 hg3))
  refine bodyPost_ret (v := .tuple #[arrV .i32 Z, .bool false]) (results_cell_row_tmp Try.results52 _ w3 w.heap.size 83 _ (0, 0) _ rfl ha3 Try.underlying83 rfl (by rw [infoA]; simp [hl0.out]) _ rfl) rfl ⟨rfl, ?_⟩
  exact grownBy_new hg1 hg3 (fun k hk => by have h5 := Option.some.inj hk; omega)
theorem of_any (k : Int) (H : Bool) (hH : Hid (decide (k ∈ kinds) = H)) (w : World) : Calls Try.prog 52 #[.int .i64 k] w fun e w' => e = .returned (.tuple #[arrV .i32 (tabI k), .bool H]) ∧ w.grownBy w' none := by
  by_cases h : k ∈ kinds
  · obtain rfl : H = true := by rw [← hH.out]; exact decide_eq_true h
    clear hH
    have gen : ∀ k ∈ kinds, Calls Try.prog 52 #[.int .i64 k] w fun e w' => e = .returned (.tuple #[arrV .i32 (tabI k), .bool true]) ∧ w.grownBy w' none := by
      intro k hk
      simp only [kinds, List.mem_cons, List.not_mem_nil, or_false] at hk
      rcases hk with rfl | rfl | rfl | rfl | rfl | rfl | rfl | rfl | rfl | rfl | rfl | rfl | rfl | rfl
      · exact of1 w
      · exact of2 w
      · exact of3 w
      · exact of4 w
      · exact of5 w
      · exact of6 w
      · exact of7 w
      · exact of8 w
      · exact of9 w
      · exact of10 w
      · exact of11 w
      · exact of12 w
      · exact of16 w
      · exact of42 w
    exact gen k h
  · obtain rfl : H = false := by rw [← hH.out]; exact decide_eq_false h
    rw [tabI, if_neg h]
    simp only [kinds, List.mem_cons, List.not_mem_nil, or_false, not_or] at h
    obtain ⟨a1, a2, a3, a4, a5, a6, a7, a8, a9, a10, a11, a12, a13, a14⟩ := h
    exact of_none k w a1 a2 a3 a4 a5 a6 a7 a8 a9 a10 a11 a12 a13 a14
end Go.Proofs.Ytdobjijebalkkaa.C16

/- The program's Scalar and Row of layer 16: walks. -/
namespace Go.Proofs.Ytdobjijebalkkaa.C16
open Go.ChangeShapes Go.WideShapes Go.ChangeAt Go.RowKit Go.Proofs.Ytdobjijebalkkaa.Mem Go.Proofs.Ytdobjijebalkkaa.Ar
set_option linter.unusedVariables false
set_option linter.unusedSimpArgs false

theorem tabI_at {k : Int} (hk : k ∈ kinds) {j : Nat} (hj : j < 94) : (tabI k)[j]'(by rw [tabI_len]; exact hj) = (cellR k j : Int) := by
  have hjl : j < (tab k).length := by rw [tab_len hk]; exact hj
  have e : (tabI k)[j]? = some (cellR k j : Int) := by
    unfold tabI
    rw [if_pos hk, List.getElem?_map, List.getElem?_eq_getElem hjl]
    unfold cellR
    rw [List.getD_eq_getElem?_getD, List.getElem?_eq_getElem hjl]
    rfl
  exact (List.getElem?_eq_some_iff.1 e).2
set_option maxRecDepth 100000 in
set_option maxHeartbeats 1000000 in
theorem pScalar (k : Int) (c : Int) (hc : I64 c) (w : World) (R : Option Nat) (hR : Hid (scP k c = R)) : Calls Try.prog 38 #[.int .i64 k, .int .i64 c] w fun e w' => e = .returned (.tuple #[.int .i32 ((R.getD 0 : Nat) : Int), .bool R.isSome]) ∧ w.grownBy w' none := by
  obtain ⟨Z, hZ⟩ : ∃ Z, Hid (tabI k = Z) := ⟨_, Hid.mk' rfl⟩
  have hl : Hid (Z.length = 94) := Hid.mk' (by rw [← hZ.out]; exact tabI_len k)
  unfold I64 at hc
  obtain ⟨hc1, hc2⟩ := hc
  by_cases hk : k ∈ kinds
  · have a1 := Hid.mk' (fun w => of_any k true (Hid.mk' (decide_eq_true hk)) w)
    rw [hZ.out] at a1
    by_cases h1 : c < 1
    · have : R = none := by rw [← hR.out, scP, if_neg (by omega)]
      subst this
      clear hR hk hZ
      go_enter Try.func38, Try.ntmps38
      go_upto_region 2 with (first
        | (go_at_call 52; refine (a1.out _).mono ?_; rintro e w1 ⟨rfl, hg1⟩)
        | (refine wpList_allocA _ rfl 83 rfl (List.replicate 94 0) (zeroA _) ?_; intro w2 ha2 hg2)
        | (refine wpList_storeA _ rfl 83 _ _ rfl 94 infoA w1.heap.size (List.replicate 94 0) Z zlen hl.out rfl rfl ha2 ?_; intro w3 ha3 hg3))
      have hG : Hid (w.grownBy w3 none) := Hid.mk' (grownBy_new (grownBy_trans hg1 hg2) hg3 (fun k hk => by have h5 := Option.some.inj hk; have h6 := hg1.size; omega))
      clear ha2 ha3 hg1 hg2 hg3
      go_wp2
      go_ret2
      exact ⟨rfl, hG.out⟩
    · have h1' : decide (c < 1) = false := decide_eq_false h1
      by_cases h2 : 94 < c
      · have : R = none := by rw [← hR.out, scP, if_neg (by omega)]
        subst this
        clear hR hk hZ
        go_enter Try.func38, Try.ntmps38
        go_upto_region 2 with (first
          | (go_at_call 52; refine (a1.out _).mono ?_; rintro e w1 ⟨rfl, hg1⟩)
          | (refine wpList_allocA _ rfl 83 rfl (List.replicate 94 0) (zeroA _) ?_; intro w2 ha2 hg2)
          | (refine wpList_storeA _ rfl 83 _ _ rfl 94 infoA w1.heap.size (List.replicate 94 0) Z zlen hl.out rfl rfl ha2 ?_; intro w3 ha3 hg3))
        have hG : Hid (w.grownBy w3 none) := Hid.mk' (grownBy_new (grownBy_trans hg1 hg2) hg3 (fun k hk => by have h5 := Option.some.inj hk; have h6 := hg1.size; omega))
        clear ha2 ha3 hg1 hg2 hg3
        go_wp2
        go_ret2
        exact ⟨rfl, hG.out⟩
      · have h2' : decide (94 < c) = false := decide_eq_false h2
        obtain ⟨j, hj⟩ : ∃ j : Nat, c = (j : Int) + 1 := ⟨(c - 1).toNat, by omega⟩
        have hjN : j < 94 := by omega
        have e1 : c - 1 = (j : Int) := by omega
        obtain ⟨n, hn⟩ : ∃ n, cellR k j = n := ⟨_, rfl⟩
        have hcell : Hid (∀ wx B, ArrAt wx B 83 .i32 Z → wx.cell? ⟨B, j, none⟩ = some (.int .i32 (n : Int))) := Hid.mk' (fun wx B ha => by
          have h1 := tabI_at hk hjN
          rw [hn] at h1
          have h2 := ha.cell j (by rw [hl.out]; exact hjN)
          rw [h2, ← h1]
          simp only [hZ.out])
        have hR2 : Hid ((if n = 65533 then none else some n) = R) := Hid.mk' (by
          have hcond : k ∈ kinds ∧ 1 ≤ c ∧ c ≤ 94 := ⟨hk, by omega, by omega⟩
          rw [← hR.out, scP, if_pos hcond, e1, Int.toNat_natCast, hn])
        have hj0 : (0 : Int) ≤ (j : Int) := by omega
        have hjI : (j : Int) < 94 := by omega
        have hwr : IntKind.i64.wrap (j : Int) = (j : Int) := by rw [IntKind.wrap_i64]; omega
        clear hR hk hZ hj hn
        by_cases h9 : n = 65533
        · have : R = none := by rw [← hR2.out, if_pos h9]
          subst this
          subst h9
          go_enter Try.func38, Try.ntmps38
          go_upto_region 2 with (first
            | (go_at_call 52; refine (a1.out _).mono ?_; rintro e w1 ⟨rfl, hg1⟩)
            | (refine wpList_allocA _ rfl 83 rfl (List.replicate 94 0) (zeroA _) ?_; intro w2 ha2 hg2)
            | (refine wpList_storeA _ rfl 83 _ _ rfl 94 infoA w1.heap.size (List.replicate 94 0) Z zlen hl.out rfl rfl ha2 ?_; intro w3 ha3 hg3))
          have hG : Hid (w.grownBy w3 none) := Hid.mk' (grownBy_new (grownBy_trans hg1 hg2) hg3 (fun k hk => by have h5 := Option.some.inj hk; have h6 := hg1.size; omega))
          have hc := hcell.out _ _ ha3
          clear ha2 ha3 hg1 hg2 hg3 hcell
          go_wp2
          go_ret2
          exact ⟨rfl, hG.out⟩
        · have : R = some n := by rw [← hR2.out, if_neg h9]
          subst this
          have h9' : ((n : Int) == 65533) = false := by simp; omega
          have h9'' : ¬ (n : Int) = 65533 := by omega
          go_enter Try.func38, Try.ntmps38
          go_upto_region 2 with (first
            | (go_at_call 52; refine (a1.out _).mono ?_; rintro e w1 ⟨rfl, hg1⟩)
            | (refine wpList_allocA _ rfl 83 rfl (List.replicate 94 0) (zeroA _) ?_; intro w2 ha2 hg2)
            | (refine wpList_storeA _ rfl 83 _ _ rfl 94 infoA w1.heap.size (List.replicate 94 0) Z zlen hl.out rfl rfl ha2 ?_; intro w3 ha3 hg3))
          have hG : Hid (w.grownBy w3 none) := Hid.mk' (grownBy_new (grownBy_trans hg1 hg2) hg3 (fun k hk => by have h5 := Option.some.inj hk; have h6 := hg1.size; omega))
          have hc := hcell.out _ _ ha3
          clear ha2 ha3 hg1 hg2 hg3 hcell
          go_wp2
          go_ret2
          exact ⟨rfl, hG.out⟩
  · have a1 := Hid.mk' (fun w => of_any k false (Hid.mk' (decide_eq_false hk)) w)
    rw [hZ.out] at a1
    have : R = none := by rw [← hR.out, scP, if_neg (fun h => hk h.1)]
    subst this
    clear hR hk hZ
    go_enter Try.func38, Try.ntmps38
    go_upto_region 2 with (first
      | (go_at_call 52; refine (a1.out _).mono ?_; rintro e w1 ⟨rfl, hg1⟩)
      | (refine wpList_allocA _ rfl 83 rfl (List.replicate 94 0) (zeroA _) ?_; intro w2 ha2 hg2)
      | (refine wpList_storeA _ rfl 83 _ _ rfl 94 infoA w1.heap.size (List.replicate 94 0) Z zlen hl.out rfl rfl ha2 ?_; intro w3 ha3 hg3))
    have hG : Hid (w.grownBy w3 none) := Hid.mk' (grownBy_new (grownBy_trans hg1 hg2) hg3 (fun k hk => by have h5 := Option.some.inj hk; have h6 := hg1.size; omega))
    clear ha2 ha3 hg1 hg2 hg3
    go_wp2
    go_ret2
    exact ⟨rfl, hG.out⟩
end Go.Proofs.Ytdobjijebalkkaa.C16

/- The program's Place of layer 16: a walk. -/
namespace Go.Proofs.Ytdobjijebalkkaa.C16
open Go.ChangeShapes Go.WideShapes Go.ChangeAt Go.RowKit Go.Proofs.Ytdobjijebalkkaa.Mem Go.Proofs.Ytdobjijebalkkaa.Ar
set_option linter.unusedVariables false
set_option linter.unusedSimpArgs false

theorem hit_far (u : Int) (p : Nat) (h : 94 * 42 ≤ p) (hp : p < 8836) : hit u p = false := by
  cases e : hit u p
  · rfl
  · obtain ⟨n, h3, _⟩ := hit_iff.1 e
    have h4 := (scP_small h3).2.2.1
    have h5 : ∀ x ∈ kinds, x ≤ 42 := by decide +kernel
    have h6 := h5 _ h4
    have h7 : 42 ≤ p / 94 := by omega
    omega
theorem hit_no {u : Int} {r : Nat} (hk : ¬ (r : Int) + 1 ∈ kinds) (p : Nat) (h1 : 94 * r ≤ p) (h2 : p < 94 * (r + 1)) : hit u p = false := by
  cases e : hit u p
  · rfl
  · obtain ⟨n, h3, _⟩ := hit_iff.1 e
    rw [show p / 94 = r by omega] at h3
    exact absurd (scP_small h3).2.2.1 hk
theorem hit_cell {u : Int} {r c n : Nat} (hk : (r : Int) + 1 ∈ kinds) (hc : c < 94) (hn : cellR ((r : Int) + 1) c = n) (h9 : ¬ u = 65533) : hit u (94 * r + c) = decide ((n : Int) = u) := by
  rw [hit_at hc]
  have hcond : (r : Int) + 1 ∈ kinds ∧ 1 ≤ (c : Int) + 1 ∧ (c : Int) + 1 ≤ 94 := ⟨hk, by omega, by omega⟩
  rw [scP, if_pos hcond, show ((c : Int) + 1 - 1).toNat = c by omega, hn]
  by_cases h : n = 65533
  · rw [if_pos h, h]
    have h8 : ¬ (65533 : Int) = u := fun e => h9 e.symm
    simp [h8]
  · rw [if_neg h]
    simp
set_option maxRecDepth 100000 in
set_option maxHeartbeats 1000000 in
theorem pPlace (u : Int) (w : World) (A B : Nat) (ok : Bool) (hP : Hid (plT u = (A, B, ok))) : Calls Try.prog 58 #[.int .i32 u] w fun e w' => e = .returned (.tuple #[.int .i64 (A : Int), .int .i64 (B : Int), .bool ok]) ∧ w.grownBy w' none := by
  by_cases h9 : u = 65533
  · have e := hP.out
    rw [plT_none (fun p _ => hit_odd (.inl h9) p)] at e
    simp only [Prod.mk.injEq] at e
    obtain ⟨rfl, rfl, rfl⟩ := e
    subst h9
    clear hP
    go_enter Try.func58, Try.ntmps58
    go_wp2
    go_ret3
    exact ⟨rfl, ⟨rfl, rfl, rfl, Nat.le_refl _, fun _ _ _ => rfl⟩⟩
  · have h9' : (u == 65533) = false := by simpa using h9
    have h90 := Hid.mk' h9
    clear h9
    go_enter Try.func58, Try.ntmps58
    go_wp2
    go_loopw [11] (fun t11 wx => ∃ (r : Nat), r ≤ 42 ∧ t11 = .int .i64 (r : Int) ∧ Hid (∀ p, p < 94 * r → hit u p = false) ∧ Hid (w.grownBy wx none)) (fun t11 _ => 42 - (intOf t11).toNat)
    case atStart => exact ⟨0, by omega, rfl, Hid.mk' (by omega), Hid.mk' (grownBy_refl _ _)⟩
    case round =>
      obtain ⟨r, hr, rfl, hb, hG0⟩ := hrel
      by_cases hlt : r < 42
      · have hlt' : (r : Int) < 42 := by omega
        obtain ⟨Z, hZ⟩ : ∃ Z, Hid (tabI ((r : Int) + 1) = Z) := ⟨_, Hid.mk' rfl⟩
        have hl : Hid (Z.length = 94) := Hid.mk' (by rw [← hZ.out]; exact tabI_len _)
        by_cases hk : (r : Int) + 1 ∈ kinds
        · have a1 := Hid.mk' (fun w => of_any ((r : Int) + 1) true (Hid.mk' (decide_eq_true hk)) w)
          rw [hZ.out] at a1
          have hcell : Hid (∀ wx B, ArrAt wx B 83 .i32 Z → ∀ j, j < 94 → wx.cell? ⟨B, j, none⟩ = some (.int .i32 (cellR ((r : Int) + 1) j : Int))) := Hid.mk' (fun wx B ha j hj => by
            have h1 := tabI_at hk hj
            have h2 := ha.cell j (by rw [hl.out]; exact hj)
            rw [h2, ← h1]
            simp only [hZ.out])
          have hk0 := Hid.mk' hk
          clear hk hZ
          go_upto_region 7 with (first
            | (go_at_call 52; refine (a1.out _).mono ?_; rintro e w1 ⟨rfl, hg1⟩)
            | (refine wpList_allocA _ rfl 83 rfl (List.replicate 94 0) (zeroA _) ?_; intro w2 ha2 hg2)
            | (refine wpList_storeA _ rfl 83 _ _ rfl 94 infoA w1.heap.size (List.replicate 94 0) Z zlen hl.out rfl rfl ha2 ?_; intro w3 ha3 hg3))
          have hG : Hid (wr.grownBy w3 none) := Hid.mk' (grownBy_new (grownBy_trans hg1 hg2) hg3 (fun k hk => by have h5 := Option.some.inj hk; have h6 := hg1.size; omega))
          have hcc := Hid.mk' (hcell.out _ _ ha3)
          have hG1 := Hid.mk' (gt hG0.out hG.out)
          clear ha2 ha3 hg1 hg2 hg3 hG hcell
          generalize w1.heap.size = Bk at *
          go_wp2
          go_loopw [22] (fun t22 wx => ∃ (c : Nat), c ≤ 94 ∧ t22 = .int .i64 (c : Int) ∧ Hid (∀ p, p < 94 * r + c → hit u p = false) ∧ wx = w3) (fun t22 _ => 94 - (intOf t22).toNat)
          case atStart => exact ⟨0, by omega, rfl, hb, rfl⟩
          case round =>
            obtain ⟨c, hc, rfl, hb2, rfl⟩ := hrel
            by_cases hlc : c < 94
            · have hlc' : (c : Int) < 94 := by omega
              have hc0 : (0 : Int) ≤ (c : Int) := by omega
              have hcl := hcc.out c hlc
              obtain ⟨n, hn1⟩ : ∃ n, cellR ((r : Int) + 1) c = n := ⟨_, rfl⟩
              have hA2 := Hid.mk' (hit_cell (u := u) hk0.out hlc hn1 h90.out)
              rw [hn1] at hcl
              clear hn1
              by_cases hnu : (n : Int) = u
              · have hn : Hid (hit u (94 * r + c) = true) := Hid.mk' (by rw [hA2.out]; simpa using hnu)
                have e := hP.out
                rw [plT_at (by omega) hlc hn.out hb2.out] at e
                simp only [Prod.mk.injEq] at e
                obtain ⟨rfl, rfl, rfl⟩ := e
                clear hA2 hP hn
                subst hnu
                go_wp2
                go_ret3
                refine ⟨?_, hG1.out⟩
                simp
              · have hn : Hid (hit u (94 * r + c) = false) := Hid.mk' (by rw [hA2.out]; simpa using hnu)
                have hnu' : ((n : Int) == u) = false := by simpa using hnu
                clear hA2
                go_wp2
                go_roundw
                case rel => exact ⟨c + 1, by omega, by go_num, Hid.mk' (fun p hp => by
                  by_cases e : p = 94 * r + c
                  · rw [e]; exact hn.out
                  · exact hb2.out p (by omega)), by first | exact rfl | trivial⟩
                all_goals (simp [intOf]; omega)
            · obtain rfl : c = 94 := by omega
              go_wp2
              go_roundw
              case rel => exact ⟨r + 1, by omega, by go_num, Hid.mk' (fun p hp => hb2.out p (by omega)), hG1⟩
              all_goals (simp [intOf]; omega)
        · have a1 := Hid.mk' (fun w => of_any ((r : Int) + 1) false (Hid.mk' (decide_eq_false hk)) w)
          rw [hZ.out] at a1
          have hno : Hid (∀ p, 94 * r ≤ p → p < 94 * (r + 1) → hit u p = false) := Hid.mk' (hit_no hk)
          clear hk hZ
          go_upto_region 7 with (first
            | (go_at_call 52; refine (a1.out _).mono ?_; rintro e w1 ⟨rfl, hg1⟩)
            | (refine wpList_allocA _ rfl 83 rfl (List.replicate 94 0) (zeroA _) ?_; intro w2 ha2 hg2)
            | (refine wpList_storeA _ rfl 83 _ _ rfl 94 infoA w1.heap.size (List.replicate 94 0) Z zlen hl.out rfl rfl ha2 ?_; intro w3 ha3 hg3))
          have hG : Hid (wr.grownBy w3 none) := Hid.mk' (grownBy_new (grownBy_trans hg1 hg2) hg3 (fun k hk => by have h5 := Option.some.inj hk; have h6 := hg1.size; omega))
          have hG1 := Hid.mk' (gt hG0.out hG.out)
          clear ha2 ha3 hg1 hg2 hg3 hG
          go_wp2
          go_roundw
          case rel => exact ⟨r + 1, by omega, by go_num, Hid.mk' (fun p hp => by
            by_cases e : p < 94 * r
            · exact hb.out p e
            · exact hno.out p (by omega) hp), hG1⟩
          all_goals (simp [intOf]; omega)
      · obtain rfl : r = 42 := by omega
        have e := hP.out
        rw [plT_none (fun p hp => by
          by_cases e : p < 94 * 42
          · exact hb.out p e
          · exact hit_far u p (by omega) hp)] at e
        simp only [Prod.mk.injEq] at e
        obtain ⟨rfl, rfl, rfl⟩ := e
        clear hP
        go_wp2_with fail
        go_ret3
        exact ⟨rfl, hG0.out⟩
end Go.Proofs.Ytdobjijebalkkaa.C16

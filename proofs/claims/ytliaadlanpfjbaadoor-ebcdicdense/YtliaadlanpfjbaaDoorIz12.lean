/- The program's lists of layer 12, and the one of a kind: walks. -/
import Derived.Test.YtliaadlanpfjbaaDoorRf12
import Derived.Test.YtliaadlanpfjbaaDoorAr
namespace Go.Proofs.YtliaadlanpfjbaaDoor.C12
open Go.ChangeShapes Go.WideShapes Go.ChangeAt Go.RowKit Go.Proofs.YtliaadlanpfjbaaDoor.Mem Go.Proofs.YtliaadlanpfjbaaDoor.Ar
set_option linter.unusedVariables false
set_option linter.unusedSimpArgs false

theorem infoA : (Tryd.prog.info? 55).map (·.size) = some 256 := by kernel_rfl
theorem zeroA (w : World) : (zeroValue 55).run Tryd.prog w = .ok (arrV .i32 (List.replicate 256 0)) w := by kernel_rfl
theorem zeroB : (Tryd.prog.info? 55).bind (·.zero) = some (arrV .i32 (List.replicate 256 0)) := by kernel_rfl
theorem infoR : (Tryd.prog.info? 21).map (·.size) = some 1 := by kernel_rfl
/-- A kind's list as the program has it: zeros where it is none. -/
def tabI (k : Int) : List Int := if k ∈ kinds then (tab k).map (fun n : Nat => (n : Int)) else List.replicate 256 0
theorem tabI_len (k : Int) : (tabI k).length = 256 := by
  unfold tabI
  split
  · rename_i h; rw [List.length_map, tab_len h]
  · rw [List.length_replicate]
theorem zlen : (List.replicate 256 (0 : Int)).length = 256 := List.length_replicate
set_option maxRecDepth 100000 in
set_option maxHeartbeats 1000000 in
theorem arr70 (w : World) : Calls Tryd.prog 21 #[] w fun e w' => e = .returned (arrV .i32 (tabI 70)) ∧ w.grownBy w' none := by
  go_enter Tryd.func21, Tryd.ntmps21
  go_upto_region 1 with (refine wpList_allocA _ rfl 55 rfl (List.replicate 256 0) (zeroA _) ?_; intro w1 ha1 hg1)
  refine wp_region_lit ?_
  refine wpList_buildA (q := .i32) _ rfl 55 _ rfl 256 21 Tryd.underlying55 _ zeroB (arrV_size _ _ zlen) infoR (tabI 70) (tabI_len 70) (by kernel_rfl) ?_
  refine wpList_storeA _ rfl 55 _ _ rfl 256 infoA w.heap.size (List.replicate 256 0) (tabI 70) zlen (tabI_len 70) rfl rfl ha1 ?_; intro w2 ha2 hg2
  refine wpList_nil ?_
  go_wp2
  refine bodyPost_ret (v := arrV .i32 (tabI 70)) (results_cell_row Tryd.results21 _ w2 w.heap.size 55 _ (0, 0) _ rfl ha2 Tryd.underlying55 rfl (by rw [infoA]; simp [tabI_len])) rfl ⟨rfl, ?_⟩
  exact grownBy_new hg1 hg2 (fun k hk => by have h5 := Option.some.inj hk; omega)
set_option maxRecDepth 100000 in
set_option maxHeartbeats 1000000 in
theorem arr71 (w : World) : Calls Tryd.prog 22 #[] w fun e w' => e = .returned (arrV .i32 (tabI 71)) ∧ w.grownBy w' none := by
  go_enter Tryd.func22, Tryd.ntmps22
  go_upto_region 1 with (refine wpList_allocA _ rfl 55 rfl (List.replicate 256 0) (zeroA _) ?_; intro w1 ha1 hg1)
  refine wp_region_lit ?_
  refine wpList_buildA (q := .i32) _ rfl 55 _ rfl 256 21 Tryd.underlying55 _ zeroB (arrV_size _ _ zlen) infoR (tabI 71) (tabI_len 71) (by kernel_rfl) ?_
  refine wpList_storeA _ rfl 55 _ _ rfl 256 infoA w.heap.size (List.replicate 256 0) (tabI 71) zlen (tabI_len 71) rfl rfl ha1 ?_; intro w2 ha2 hg2
  refine wpList_nil ?_
  go_wp2
  refine bodyPost_ret (v := arrV .i32 (tabI 71)) (results_cell_row Tryd.results22 _ w2 w.heap.size 55 _ (0, 0) _ rfl ha2 Tryd.underlying55 rfl (by rw [infoA]; simp [tabI_len])) rfl ⟨rfl, ?_⟩
  exact grownBy_new hg1 hg2 (fun k hk => by have h5 := Option.some.inj hk; omega)
set_option maxRecDepth 100000 in
set_option maxHeartbeats 1000000 in
theorem arr72 (w : World) : Calls Tryd.prog 23 #[] w fun e w' => e = .returned (arrV .i32 (tabI 72)) ∧ w.grownBy w' none := by
  go_enter Tryd.func23, Tryd.ntmps23
  go_upto_region 1 with (refine wpList_allocA _ rfl 55 rfl (List.replicate 256 0) (zeroA _) ?_; intro w1 ha1 hg1)
  refine wp_region_lit ?_
  refine wpList_buildA (q := .i32) _ rfl 55 _ rfl 256 21 Tryd.underlying55 _ zeroB (arrV_size _ _ zlen) infoR (tabI 72) (tabI_len 72) (by kernel_rfl) ?_
  refine wpList_storeA _ rfl 55 _ _ rfl 256 infoA w.heap.size (List.replicate 256 0) (tabI 72) zlen (tabI_len 72) rfl rfl ha1 ?_; intro w2 ha2 hg2
  refine wpList_nil ?_
  go_wp2
  refine bodyPost_ret (v := arrV .i32 (tabI 72)) (results_cell_row Tryd.results23 _ w2 w.heap.size 55 _ (0, 0) _ rfl ha2 Tryd.underlying55 rfl (by rw [infoA]; simp [tabI_len])) rfl ⟨rfl, ?_⟩
  exact grownBy_new hg1 hg2 (fun k hk => by have h5 := Option.some.inj hk; omega)
set_option maxRecDepth 100000 in
set_option maxHeartbeats 1000000 in
theorem of70 (w : World) : Calls Tryd.prog 17 #[.int .i64 70] w fun e w' => e = .returned (.tuple #[arrV .i32 (tabI 70), .bool true]) ∧ w.grownBy w' none := by
  obtain ⟨Z, hZ⟩ : ∃ Z, tabI 70 = Z := ⟨_, rfl⟩
  have hl := tabI_len 70
  have a1 := Hid.mk' (fun w => arr70 w)
  rw [hZ] at hl a1
  rw [hZ]
  have hl0 := Hid.mk' hl
  clear hZ hl
  go_enter Tryd.func17, Tryd.ntmps17
  go_upto_region 1 with (refine wpList_allocA _ rfl 55 rfl (List.replicate 256 0) (zeroA _) ?_; intro w1 ha1 hg1)
  go_wp2_with (first
    | (go_at_call 21; refine (a1.out _).mono ?_; rintro e w2 ⟨rfl, hg2⟩)
    | (refine wpList_storeA _ rfl 55 _ _ rfl 256 infoA w.heap.size (List.replicate 256 0) Z zlen hl0.out rfl rfl (ha1.kept0 hg2) ?_; intro w3 ha3 hg3))
  refine bodyPost_ret (v := .tuple #[arrV .i32 Z, .bool true]) (results_cell_row_tmp Tryd.results17 _ w3 w.heap.size 55 _ (0, 0) _ rfl ha3 Tryd.underlying55 rfl (by rw [infoA]; simp [hl0.out]) _ rfl) rfl ⟨rfl, ?_⟩
  exact grownBy_new (grownBy_trans hg1 hg2) hg3 (fun k hk => by have h5 := Option.some.inj hk; omega)
set_option maxRecDepth 100000 in
set_option maxHeartbeats 1000000 in
theorem of71 (w : World) : Calls Tryd.prog 17 #[.int .i64 71] w fun e w' => e = .returned (.tuple #[arrV .i32 (tabI 71), .bool true]) ∧ w.grownBy w' none := by
  obtain ⟨Z, hZ⟩ : ∃ Z, tabI 71 = Z := ⟨_, rfl⟩
  have hl := tabI_len 71
  have a1 := Hid.mk' (fun w => arr71 w)
  rw [hZ] at hl a1
  rw [hZ]
  have hl0 := Hid.mk' hl
  clear hZ hl
  go_enter Tryd.func17, Tryd.ntmps17
  go_upto_region 1 with (refine wpList_allocA _ rfl 55 rfl (List.replicate 256 0) (zeroA _) ?_; intro w1 ha1 hg1)
  go_wp2_with (first
    | (go_at_call 22; refine (a1.out _).mono ?_; rintro e w2 ⟨rfl, hg2⟩)
    | (refine wpList_storeA _ rfl 55 _ _ rfl 256 infoA w.heap.size (List.replicate 256 0) Z zlen hl0.out rfl rfl (ha1.kept0 hg2) ?_; intro w3 ha3 hg3))
  refine bodyPost_ret (v := .tuple #[arrV .i32 Z, .bool true]) (results_cell_row_tmp Tryd.results17 _ w3 w.heap.size 55 _ (0, 0) _ rfl ha3 Tryd.underlying55 rfl (by rw [infoA]; simp [hl0.out]) _ rfl) rfl ⟨rfl, ?_⟩
  exact grownBy_new (grownBy_trans hg1 hg2) hg3 (fun k hk => by have h5 := Option.some.inj hk; omega)
set_option maxRecDepth 100000 in
set_option maxHeartbeats 1000000 in
theorem of72 (w : World) : Calls Tryd.prog 17 #[.int .i64 72] w fun e w' => e = .returned (.tuple #[arrV .i32 (tabI 72), .bool true]) ∧ w.grownBy w' none := by
  obtain ⟨Z, hZ⟩ : ∃ Z, tabI 72 = Z := ⟨_, rfl⟩
  have hl := tabI_len 72
  have a1 := Hid.mk' (fun w => arr72 w)
  rw [hZ] at hl a1
  rw [hZ]
  have hl0 := Hid.mk' hl
  clear hZ hl
  go_enter Tryd.func17, Tryd.ntmps17
  go_upto_region 1 with (refine wpList_allocA _ rfl 55 rfl (List.replicate 256 0) (zeroA _) ?_; intro w1 ha1 hg1)
  go_wp2_with (first
    | (go_at_call 23; refine (a1.out _).mono ?_; rintro e w2 ⟨rfl, hg2⟩)
    | (refine wpList_storeA _ rfl 55 _ _ rfl 256 infoA w.heap.size (List.replicate 256 0) Z zlen hl0.out rfl rfl (ha1.kept0 hg2) ?_; intro w3 ha3 hg3))
  refine bodyPost_ret (v := .tuple #[arrV .i32 Z, .bool true]) (results_cell_row_tmp Tryd.results17 _ w3 w.heap.size 55 _ (0, 0) _ rfl ha3 Tryd.underlying55 rfl (by rw [infoA]; simp [hl0.out]) _ rfl) rfl ⟨rfl, ?_⟩
  exact grownBy_new (grownBy_trans hg1 hg2) hg3 (fun k hk => by have h5 := Option.some.inj hk; omega)
set_option maxRecDepth 100000 in
set_option maxHeartbeats 1000000 in
theorem of_none (k : Int) (w : World) (h70 : ¬ k = 70) (h71 : ¬ k = 71) (h72 : ¬ k = 72) : Calls Tryd.prog 17 #[.int .i64 k] w fun e w' => e = .returned (.tuple #[arrV .i32 (List.replicate 256 0), .bool false]) ∧ w.grownBy w' none := by
  have b70 : (k == 70) = false := by simpa using h70
  have b71 : (k == 71) = false := by simpa using h71
  have b72 : (k == 72) = false := by simpa using h72
  obtain ⟨Z, hZ⟩ : ∃ Z : List Int, List.replicate 256 (0 : Int) = Z := ⟨_, rfl⟩
  have hl := zlen
  have hz := Hid.mk' (fun w => zeroA w)
  have hb := Hid.mk' zeroB
  rw [hZ] at hl hz hb
  rw [hZ]
  have hl0 := Hid.mk' hl
  clear hZ hl
  go_enter Tryd.func17, Tryd.ntmps17
  go_upto_region 1 with (refine wpList_allocA _ rfl 55 rfl Z (hz.out _) ?_; intro w1 ha1 hg1)
  go_wp2_with (first
    | (refine wpList_buildZ _ rfl 55 rfl 256 21 Tryd.underlying55 Z hb.out infoR ?_)
    | (refine wpList_storeA _ rfl 55 _ _ rfl 256 infoA w.heap.size Z Z hl0.out hl0.out rfl rfl ha1 ?_; intro w3 ha3 hg3))
  refine bodyPost_ret (v := .tuple #[arrV .i32 Z, .bool false]) (results_cell_row_tmp Tryd.results17 _ w3 w.heap.size 55 _ (0, 0) _ rfl ha3 Tryd.underlying55 rfl (by rw [infoA]; simp [hl0.out]) _ rfl) rfl ⟨rfl, ?_⟩
  exact grownBy_new hg1 hg3 (fun k hk => by have h5 := Option.some.inj hk; omega)
theorem of_any (k : Int) (H : Bool) (hH : Hid (decide (k ∈ kinds) = H)) (w : World) : Calls Tryd.prog 17 #[.int .i64 k] w fun e w' => e = .returned (.tuple #[arrV .i32 (tabI k), .bool H]) ∧ w.grownBy w' none := by
  by_cases h : k ∈ kinds
  · obtain rfl : H = true := by rw [← hH.out]; exact decide_eq_true h
    clear hH
    have gen : ∀ k ∈ kinds, Calls Tryd.prog 17 #[.int .i64 k] w fun e w' => e = .returned (.tuple #[arrV .i32 (tabI k), .bool true]) ∧ w.grownBy w' none := by
      intro k hk
      simp only [kinds, List.mem_cons, List.not_mem_nil, or_false] at hk
      rcases hk with rfl | rfl | rfl
      · exact of70 w
      · exact of71 w
      · exact of72 w
    exact gen k h
  · obtain rfl : H = false := by rw [← hH.out]; exact decide_eq_false h
    rw [tabI, if_neg h]
    simp only [kinds, List.mem_cons, List.not_mem_nil, or_false, not_or] at h
    obtain ⟨a1, a2, a3⟩ := h
    exact of_none k w a1 a2 a3
end Go.Proofs.YtliaadlanpfjbaaDoor.C12

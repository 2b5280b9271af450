/- The program's rows of a kind, and whether a byte is one of a pair: walks. -/
import Derived.Test.YtcbjkamjkaiofaaEW17
import Derived.Test.YtcbjkamjkaiofaaRQ14
import Derived.Test.YtcbjkamjkaiofaaRQ15
import Derived.Test.YtcbjkamjkaiofaaRQ16
import Derived.Test.YtcbjkamjkaiofaaAr
namespace Go.Proofs.Ytcbjkamjkaiofaa.C17
open Go.ChangeShapes Go.WideShapes Go.ChangeAt Go.RowKit Go.Proofs.Ytcbjkamjkaiofaa.Mem Go.Proofs.Ytcbjkamjkaiofaa.Cb Go.Proofs.Ytcbjkamjkaiofaa.Sp Go.Proofs.Ytcbjkamjkaiofaa.Ar
set_option linter.unusedVariables false
set_option linter.unusedSimpArgs false

/-- A kind's rows as the program has them: the cells of a set. -/
abbrev sK (sc pl : Nat) (h : Bool) : Array Value := #[.func (.func sc) #[] #[], .func (.func pl) #[] #[], .bool h]
abbrev sZ : Array Value := #[.nilFunc, .nilFunc, .bool false]
theorem infoK : (Try.prog.info? 46).map (·.size) = some 3 := by kernel_rfl
theorem zeroK (w : World) : (zeroValue 46).run Try.prog w = .ok (.agg sZ) w := by kernel_rfl
theorem sK_one (sc pl : Nat) (h : Bool) : (sK sc pl h).all (·.oneCell') = true := by kernel_rfl
theorem sZ_one : sZ.all (·.oneCell') = true := by kernel_rfl
set_option maxRecDepth 100000 in
set_option maxHeartbeats 1000000 in
theorem set_81 (w : World) : Calls Try.prog 16 #[.int .i64 81] w fun e w' => e = .returned (.tuple #[.agg (sK 28 29 true), .bool true]) ∧ w.grownBy w' none := by
  go_enter Try.func16, Try.ntmps16
  go_wp2_with (first
    | (refine wpList_allocC _ rfl 46 rfl sZ (zeroK _) ?_; intro w1 va hg1)
    | (refine wpList_storeC _ rfl 46 _ _ rfl w.heap.size sZ (sK 28 29 true) infoK rfl (sK_one _ _ _) rfl rfl va ?_; intro w2 vb hg2))
  refine bodyPost_ret (v := .tuple #[.agg (sK 28 29 true), .bool true]) (results_cell_row_tmp Try.results16 _ w2 w.heap.size 46 _ (0, 0) _ rfl vb Try.underlying46 rfl infoK _ rfl) rfl ⟨rfl, ?_⟩
  exact grownBy_new hg1 hg2 (fun k hk => by have h5 := Option.some.inj hk; omega)
set_option maxRecDepth 100000 in
set_option maxHeartbeats 1000000 in
theorem set_84 (w : World) : Calls Try.prog 16 #[.int .i64 84] w fun e w' => e = .returned (.tuple #[.agg (sK 30 31 false), .bool true]) ∧ w.grownBy w' none := by
  go_enter Try.func16, Try.ntmps16
  go_wp2_with (first
    | (refine wpList_allocC _ rfl 46 rfl sZ (zeroK _) ?_; intro w1 va hg1)
    | (refine wpList_storeC _ rfl 46 _ _ rfl w.heap.size sZ (sK 30 31 false) infoK rfl (sK_one _ _ _) rfl rfl va ?_; intro w2 vb hg2))
  refine bodyPost_ret (v := .tuple #[.agg (sK 30 31 false), .bool true]) (results_cell_row_tmp Try.results16 _ w2 w.heap.size 46 _ (0, 0) _ rfl vb Try.underlying46 rfl infoK _ rfl) rfl ⟨rfl, ?_⟩
  exact grownBy_new hg1 hg2 (fun k hk => by have h5 := Option.some.inj hk; omega)
set_option maxRecDepth 100000 in
set_option maxHeartbeats 1000000 in
theorem set_86 (w : World) : Calls Try.prog 16 #[.int .i64 86] w fun e w' => e = .returned (.tuple #[.agg (sK 32 33 false), .bool true]) ∧ w.grownBy w' none := by
  go_enter Try.func16, Try.ntmps16
  go_wp2_with (first
    | (refine wpList_allocC _ rfl 46 rfl sZ (zeroK _) ?_; intro w1 va hg1)
    | (refine wpList_storeC _ rfl 46 _ _ rfl w.heap.size sZ (sK 32 33 false) infoK rfl (sK_one _ _ _) rfl rfl va ?_; intro w2 vb hg2))
  refine bodyPost_ret (v := .tuple #[.agg (sK 32 33 false), .bool true]) (results_cell_row_tmp Try.results16 _ w2 w.heap.size 46 _ (0, 0) _ rfl vb Try.underlying46 rfl infoK _ rfl) rfl ⟨rfl, ?_⟩
  exact grownBy_new hg1 hg2 (fun k hk => by have h5 := Option.some.inj hk; omega)
set_option maxRecDepth 100000 in
set_option maxHeartbeats 1000000 in
theorem set_no (k : Int) (hk : Hid (has k = false)) (w : World) : Calls Try.prog 16 #[.int .i64 k] w fun e w' => e = .returned (.tuple #[.agg sZ, .bool false]) ∧ w.grownBy w' none := by
  have hk2 := hk.out
  unfold has at hk2
  have h0 := of_decide_eq_false hk2
  have b1 : (k == 81) = false := by simp; omega
  have b2 : (k == 84) = false := by simp; omega
  have b3 : (k == 86) = false := by simp; omega
  clear hk2 h0 hk
  go_enter Try.func16, Try.ntmps16
  go_wp2_with (first
    | (refine wpList_allocC _ rfl 46 rfl sZ (zeroK _) ?_; intro w1 va hg1)
    | (refine wpList_storeC _ rfl 46 _ _ rfl w.heap.size sZ sZ infoK rfl sZ_one rfl rfl va ?_; intro w2 vb hg2))
  refine bodyPost_ret (v := .tuple #[.agg sZ, .bool false]) (results_cell_row_tmp Try.results16 _ w2 w.heap.size 46 _ (0, 0) _ rfl vb Try.underlying46 rfl infoK _ rfl) rfl ⟨rfl, ?_⟩
  exact grownBy_new hg1 hg2 (fun k hk => by have h5 := Option.some.inj hk; omega)
set_option maxRecDepth 100000 in
set_option maxHeartbeats 1000000 in
theorem high_yes (c : Nat) (h1 : 161 ≤ c) (h2 : c ≤ 254) (w : World) : Calls Try.prog 18 #[.int .u8 (c : Int)] w fun e w' => e = .returned (.bool true) ∧ w.grownBy w' none := by
  have p1 : decide (161 ≤ (c : Int)) = true := by simp; omega
  have p2 : decide ((c : Int) ≤ 254) = true := by simp; omega
  go_enter Try.func18, Try.ntmps18
  go_wp2
  go_ret
  exact ⟨rfl, grownBy_refl _ _⟩
set_option maxRecDepth 100000 in
set_option maxHeartbeats 1000000 in
theorem high_noa (c : Nat) (h1 : c < 161) (w : World) : Calls Try.prog 18 #[.int .u8 (c : Int)] w fun e w' => e = .returned (.bool false) ∧ w.grownBy w' none := by
  have p1 : decide (161 ≤ (c : Int)) = false := by simp; omega
  go_enter Try.func18, Try.ntmps18
  go_wp2
  go_ret
  exact ⟨rfl, grownBy_refl _ _⟩
set_option maxRecDepth 100000 in
set_option maxHeartbeats 1000000 in
theorem high_nob (c : Nat) (h1 : 254 < c) (w : World) : Calls Try.prog 18 #[.int .u8 (c : Int)] w fun e w' => e = .returned (.bool false) ∧ w.grownBy w' none := by
  have p1 : decide (161 ≤ (c : Int)) = true := by simp; omega
  have p2 : decide ((c : Int) ≤ 254) = false := by simp; omega
  go_enter Try.func18, Try.ntmps18
  go_wp2
  go_ret
  exact ⟨rfl, grownBy_refl _ _⟩
theorem high_no (c : Nat) (h : c < 161 ∨ 254 < c) (w : World) : Calls Try.prog 18 #[.int .u8 (c : Int)] w fun e w' => e = .returned (.bool false) ∧ w.grownBy w' none := by
  by_cases h1 : c < 161
  · exact high_noa c h1 w
  · exact high_nob c (by omega) w
set_option maxRecDepth 100000 in
set_option maxHeartbeats 1000000 in
theorem has_81 (w : World) : Calls Try.prog 10 #[.int .i64 81] w fun e w' => e = .returned (.bool true) ∧ w.grownBy w' none := by
  go_enter Try.func10, Try.ntmps10
  go_wp2_with (first
    | (go_at_call 16; refine (set_81 _).mono ?_; rintro e w1 ⟨rfl, hg1⟩)
    | (refine wpList_allocC _ rfl 46 rfl sZ (zeroK _) ?_; intro w2 va hg2)
    | (refine wpList_storeC _ rfl 46 _ _ rfl w1.heap.size sZ (sK 28 29 true) infoK rfl (sK_one _ _ _) rfl rfl va ?_; intro w3 vb hg3))
  go_ret
  exact ⟨rfl, grownBy_new (gt hg1 hg2) hg3 (fun k hk => by have h5 := Option.some.inj hk; have h6 := hg1.size; omega)⟩
set_option maxRecDepth 100000 in
set_option maxHeartbeats 1000000 in
theorem has_84 (w : World) : Calls Try.prog 10 #[.int .i64 84] w fun e w' => e = .returned (.bool true) ∧ w.grownBy w' none := by
  go_enter Try.func10, Try.ntmps10
  go_wp2_with (first
    | (go_at_call 16; refine (set_84 _).mono ?_; rintro e w1 ⟨rfl, hg1⟩)
    | (refine wpList_allocC _ rfl 46 rfl sZ (zeroK _) ?_; intro w2 va hg2)
    | (refine wpList_storeC _ rfl 46 _ _ rfl w1.heap.size sZ (sK 30 31 false) infoK rfl (sK_one _ _ _) rfl rfl va ?_; intro w3 vb hg3))
  go_ret
  exact ⟨rfl, grownBy_new (gt hg1 hg2) hg3 (fun k hk => by have h5 := Option.some.inj hk; have h6 := hg1.size; omega)⟩
set_option maxRecDepth 100000 in
set_option maxHeartbeats 1000000 in
theorem has_86 (w : World) : Calls Try.prog 10 #[.int .i64 86] w fun e w' => e = .returned (.bool true) ∧ w.grownBy w' none := by
  go_enter Try.func10, Try.ntmps10
  go_wp2_with (first
    | (go_at_call 16; refine (set_86 _).mono ?_; rintro e w1 ⟨rfl, hg1⟩)
    | (refine wpList_allocC _ rfl 46 rfl sZ (zeroK _) ?_; intro w2 va hg2)
    | (refine wpList_storeC _ rfl 46 _ _ rfl w1.heap.size sZ (sK 32 33 false) infoK rfl (sK_one _ _ _) rfl rfl va ?_; intro w3 vb hg3))
  go_ret
  exact ⟨rfl, grownBy_new (gt hg1 hg2) hg3 (fun k hk => by have h5 := Option.some.inj hk; have h6 := hg1.size; omega)⟩
set_option maxRecDepth 100000 in
set_option maxHeartbeats 1000000 in
theorem has_no (k : Int) (hk : Hid (has k = false)) (w : World) : Calls Try.prog 10 #[.int .i64 k] w fun e w' => e = .returned (.bool false) ∧ w.grownBy w' none := by
  go_enter Try.func10, Try.ntmps10
  go_wp2_with (first
    | (go_at_call 16; refine (set_no k hk _).mono ?_; rintro e w1 ⟨rfl, hg1⟩)
    | (refine wpList_allocC _ rfl 46 rfl sZ (zeroK _) ?_; intro w2 va hg2)
    | (refine wpList_storeC _ rfl 46 _ _ rfl w1.heap.size sZ sZ infoK rfl sZ_one rfl rfl va ?_; intro w3 vb hg3))
  go_ret
  exact ⟨rfl, grownBy_new (gt hg1 hg2) hg3 (fun k hk => by have h5 := Option.some.inj hk; have h6 := hg1.size; omega)⟩
theorem has_any (k : Int) (H : Bool) (hH : Hid (has k = H)) (w : World) : Calls Try.prog 10 #[.int .i64 k] w fun e w' => e = .returned (.bool H) ∧ w.grownBy w' none := by
  cases H with
  | false => exact has_no k hH w
  | true =>
    rcases has_yes hH.out with rfl | rfl | rfl
    · exact has_81 w
    · exact has_84 w
    · exact has_86 w
end Go.Proofs.Ytcbjkamjkaiofaa.C17

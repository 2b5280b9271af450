/- The form of a kind, in a state: walks. -/
import Derived.Test.YtkfcciacoplgmaaNumber
namespace Go.Proofs.Ytkfcciacoplgmaa.Wd
open Go.ChangeShapes Go.WideShapes Go.ChangeAt Go.RowKit Go.Proofs.Ytkfcciacoplgmaa.Mem Go.Proofs.Ytkfcciacoplgmaa.Ucs
set_option linter.unusedVariables false

set_option maxRecDepth 100000 in
set_option maxHeartbeats 1000000 in
theorem formOf_3 (w : World) : Calls Try.prog 28 #[.int .i64 3] w fun e w' => e = .returned (.tuple #[.agg #[.int .i64 2, .bool true, .bool false, hiF], .bool true]) ∧ w.grownBy w' none := by
  go_enter Try.func28, Try.ntmps28
  go_wp2
  refine bodyPost_ret (v := .tuple #[.agg #[.int .i64 2, .bool true, .bool false, hiF], .bool true]) (by simp [results, Try.results28, go_sem]) rfl ⟨rfl, ?_⟩
  exact World.grownBy_alloc _ _ _

set_option maxRecDepth 100000 in
set_option maxHeartbeats 1000000 in
theorem formOf_4 (w : World) : Calls Try.prog 28 #[.int .i64 4] w fun e w' => e = .returned (.tuple #[.agg #[.int .i64 2, .bool true, .bool false, loF], .bool true]) ∧ w.grownBy w' none := by
  go_enter Try.func28, Try.ntmps28
  go_wp2
  refine bodyPost_ret (v := .tuple #[.agg #[.int .i64 2, .bool true, .bool false, loF], .bool true]) (by simp [results, Try.results28, go_sem]) rfl ⟨rfl, ?_⟩
  exact World.grownBy_alloc _ _ _

set_option maxRecDepth 100000 in
set_option maxHeartbeats 1000000 in
theorem formOf_5 (w : World) : Calls Try.prog 28 #[.int .i64 5] w fun e w' => e = .returned (.tuple #[.agg #[.int .i64 2, .bool true, .bool true, hiF], .bool true]) ∧ w.grownBy w' none := by
  go_enter Try.func28, Try.ntmps28
  go_wp2
  refine bodyPost_ret (v := .tuple #[.agg #[.int .i64 2, .bool true, .bool true, hiF], .bool true]) (by simp [results, Try.results28, go_sem]) rfl ⟨rfl, ?_⟩
  exact World.grownBy_alloc _ _ _

set_option maxRecDepth 100000 in
set_option maxHeartbeats 1000000 in
theorem formOf_6 (w : World) : Calls Try.prog 28 #[.int .i64 6] w fun e w' => e = .returned (.tuple #[.agg #[.int .i64 4, .bool false, .bool false, hiF], .bool true]) ∧ w.grownBy w' none := by
  go_enter Try.func28, Try.ntmps28
  go_wp2
  refine bodyPost_ret (v := .tuple #[.agg #[.int .i64 4, .bool false, .bool false, hiF], .bool true]) (by simp [results, Try.results28, go_sem]) rfl ⟨rfl, ?_⟩
  exact World.grownBy_alloc _ _ _

set_option maxRecDepth 100000 in
set_option maxHeartbeats 1000000 in
theorem formOf_7 (w : World) : Calls Try.prog 28 #[.int .i64 7] w fun e w' => e = .returned (.tuple #[.agg #[.int .i64 4, .bool false, .bool false, loF], .bool true]) ∧ w.grownBy w' none := by
  go_enter Try.func28, Try.ntmps28
  go_wp2
  refine bodyPost_ret (v := .tuple #[.agg #[.int .i64 4, .bool false, .bool false, loF], .bool true]) (by simp [results, Try.results28, go_sem]) rfl ⟨rfl, ?_⟩
  exact World.grownBy_alloc _ _ _

set_option maxRecDepth 100000 in
set_option maxHeartbeats 1000000 in
theorem formOf_8 (w : World) : Calls Try.prog 28 #[.int .i64 8] w fun e w' => e = .returned (.tuple #[.agg #[.int .i64 4, .bool false, .bool true, hiF], .bool true]) ∧ w.grownBy w' none := by
  go_enter Try.func28, Try.ntmps28
  go_wp2
  refine bodyPost_ret (v := .tuple #[.agg #[.int .i64 4, .bool false, .bool true, hiF], .bool true]) (by simp [results, Try.results28, go_sem]) rfl ⟨rfl, ?_⟩
  exact World.grownBy_alloc _ _ _

set_option maxRecDepth 100000 in
set_option maxHeartbeats 1000000 in
theorem formOf_9 (w : World) : Calls Try.prog 28 #[.int .i64 9] w fun e w' => e = .returned (.tuple #[.agg #[.int .i64 2, .bool false, .bool false, hiF], .bool true]) ∧ w.grownBy w' none := by
  go_enter Try.func28, Try.ntmps28
  go_wp2
  refine bodyPost_ret (v := .tuple #[.agg #[.int .i64 2, .bool false, .bool false, hiF], .bool true]) (by simp [results, Try.results28, go_sem]) rfl ⟨rfl, ?_⟩
  exact World.grownBy_alloc _ _ _

set_option maxRecDepth 100000 in
set_option maxHeartbeats 1000000 in
theorem formOf_10 (w : World) : Calls Try.prog 28 #[.int .i64 10] w fun e w' => e = .returned (.tuple #[.agg #[.int .i64 2, .bool false, .bool false, loF], .bool true]) ∧ w.grownBy w' none := by
  go_enter Try.func28, Try.ntmps28
  go_wp2
  refine bodyPost_ret (v := .tuple #[.agg #[.int .i64 2, .bool false, .bool false, loF], .bool true]) (by simp [results, Try.results28, go_sem]) rfl ⟨rfl, ?_⟩
  exact World.grownBy_alloc _ _ _

set_option maxRecDepth 100000 in
set_option maxHeartbeats 1000000 in
theorem formOf_none (k : Int) (h : k < 3 ∨ 10 < k) (w : World) : Calls Try.prog 28 #[.int .i64 k] w fun e w' => e = .returned (.tuple #[.agg #[.int .i64 0, .bool false, .bool false, .nilFunc], .bool false]) ∧ w.grownBy w' none := by
  have e3 : ¬ k = 3 := by omega
  have e4 : ¬ k = 4 := by omega
  have e5 : ¬ k = 5 := by omega
  have e6 : ¬ k = 6 := by omega
  have e7 : ¬ k = 7 := by omega
  have e8 : ¬ k = 8 := by omega
  have e9 : ¬ k = 9 := by omega
  have e10 : ¬ k = 10 := by omega
  go_enter Try.func28, Try.ntmps28
  go_wp2
  refine bodyPost_ret (v := .tuple #[.agg #[.int .i64 0, .bool false, .bool false, .nilFunc], .bool false]) (by simp [results, Try.results28, go_sem]) rfl ⟨rfl, ?_⟩
  exact World.grownBy_alloc _ _ _

theorem formOf_some (k : Int) (n : Nat) (p m low : Bool) (h : fm k = some (n, p, m, low)) (w : World) : Calls Try.prog 28 #[.int .i64 k] w fun e w' => e = .returned (.tuple #[.agg #[.int .i64 (n : Int), .bool p, .bool m, .func (.func (fnOf low)) #[] #[]], .bool true]) ∧ w.grownBy w' none := by
  rcases fm_some h with ⟨rfl, e⟩ | ⟨rfl, e⟩ | ⟨rfl, e⟩ | ⟨rfl, e⟩ | ⟨rfl, e⟩ | ⟨rfl, e⟩ | ⟨rfl, e⟩ | ⟨rfl, e⟩ <;> (simp only [Prod.mk.injEq] at e; obtain ⟨rfl, rfl, rfl, rfl⟩ := e)
  · exact formOf_3 w
  · exact formOf_4 w
  · exact formOf_5 w
  · exact formOf_6 w
  · exact formOf_7 w
  · exact formOf_8 w
  · exact formOf_9 w
  · exact formOf_10 w
theorem formOf_fn (k : Int) (n : Nat) (p m low : Bool) (h : fm k = some (n, p, m, low)) (q : Nat) (hq : fnOf low = q) (w : World) : Calls Try.prog 28 #[.int .i64 k] w fun e w' => e = .returned (.tuple #[.agg #[.int .i64 (n : Int), .bool p, .bool m, .func (.func q) #[] #[]], .bool true]) ∧ w.grownBy w' none := by
  subst hq; exact formOf_some k n p m low h w
end Go.Proofs.Ytkfcciacoplgmaa.Wd

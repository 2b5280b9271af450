/- A form's states: walks. -/
import Derived.Test.YtkfcciacoplgmaaNumber
namespace Go.Proofs.Ytkfcciacoplgmaa.Wd
open Go.ChangeShapes Go.WideShapes Go.ChangeAt Go.RowKit Go.Proofs.Ytkfcciacoplgmaa.Mem Go.Proofs.Ytkfcciacoplgmaa.Ucs
set_option linter.unusedVariables false
abbrev stV (md bi ac he : Int) : Value := .agg #[.int .i64 md, .int .i64 bi, .int .u32 ac, .int .i32 he]

set_option maxRecDepth 100000 in
set_option maxHeartbeats 1000000 in
theorem fits_no (n : Int) (p : Bool) (F : Value) (md bi ac he : Int) (w : World) : Calls Try.prog 33 #[.agg #[.int .i64 n, .bool p, .bool false, F], stV md bi ac he] w fun e w' => e = .returned (.bool (fitB false md bi ac he)) ∧ w.grownBy w' none := by
  go_enter Try.func33, Try.ntmps33
  go_wp2
  all_goals go_ret
  all_goals refine ⟨ret_bool ?_, grownBy_trans (World.grownBy_alloc _ _ _) (World.grownBy_alloc _ _ _)⟩
  all_goals simp_all [fitB]
set_option maxRecDepth 100000 in
set_option maxHeartbeats 1000000 in
theorem fits_yes (n : Int) (p : Bool) (F : Value) (md bi ac he : Int) (w : World) : Calls Try.prog 33 #[.agg #[.int .i64 n, .bool p, .bool true, F], stV md bi ac he] w fun e w' => e = .returned (.bool (fitB true md bi ac he)) ∧ w.grownBy w' none := by
  go_enter Try.func33, Try.ntmps33
  go_wp2
  all_goals go_ret
  all_goals refine ⟨ret_bool ?_, grownBy_trans (World.grownBy_alloc _ _ _) (World.grownBy_alloc _ _ _)⟩
  all_goals simp_all [fitB]
  all_goals omega
theorem fits_any (n : Int) (p m : Bool) (F : Value) (md bi ac he : Int) (w : World) (t : Bool) (ht : fitB m md bi ac he = t) : Calls Try.prog 33 #[.agg #[.int .i64 n, .bool p, .bool m, F], stV md bi ac he] w fun e w' => e = .returned (.bool t) ∧ w.grownBy w' none := by
  subst ht
  cases m
  · exact fits_no n p F md bi ac he w
  · exact fits_yes n p F md bi ac he w
set_option maxRecDepth 100000 in
set_option maxHeartbeats 1000000 in
theorem expects_any (n : Int) (p m : Bool) (F : Value) (md bi ac he : Int) (w : World) (t : Bool) (ht : (m && decide (md = 0)) = t) : Calls Try.prog 18 #[.agg #[.int .i64 n, .bool p, .bool m, F], stV md bi ac he] w fun e w' => e = .returned (.bool t) ∧ w.grownBy w' none := by
  subst ht
  go_enter Try.func18, Try.ntmps18
  go_wp2
  all_goals go_ret
  all_goals refine ⟨ret_bool ?_, grownBy_trans (World.grownBy_alloc _ _ _) (World.grownBy_alloc _ _ _)⟩
  all_goals (first | rfl | simp_all)
  all_goals exact Bool.beq_eq_decide_eq _ _
set_option maxRecDepth 100000 in
set_option maxHeartbeats 1000000 in
theorem behind_true (n : Int) (p m : Bool) (k : Nat) (md : Int) (w : World) (ht : (m && decide (md = 0)) = true) : Calls Try.prog 21 #[.agg #[.int .i64 n, .bool p, .bool m, .func (.func k) #[] #[]], stV md 0 0 0] w fun e w' => e = .returned (stV 1 0 0 0) ∧ w.grownBy w' none := by
  have Ht : Hid ((m && decide (md = 0)) = true) := ht
  clear ht
  go_enter Try.func21, Try.ntmps21
  go_wp2_with (go_at_call 18; refine (expects_any _ _ _ _ _ _ _ _ _ true Ht.out).mono ?_; rintro e w1 ⟨rfl, hg1⟩; obtain ⟨hc, hf⟩ := gcell hg1; have hz : w.heap.size + 1 + 1 < w1.heap.size := by have := hg1.size; simp at this; omega)
  refine bodyPost_ret (v := stV 1 0 0 0) (by simp [results, Try.results21, go_sem, hc]) rfl ⟨rfl, ?_⟩
  (repeat (first | with_reducible exact grownBy_refl _ _ | (with_reducible refine gs ?_ ?_; first | omega | (simp; omega)) | with_reducible refine ga ?_ | with_reducible refine gd ?_ | with_reducible refine gdn ?_ | with_reducible refine gt ?_ (by assumption)))
set_option maxRecDepth 100000 in
set_option maxHeartbeats 1000000 in
theorem behind_false (n : Int) (p m : Bool) (k : Nat) (md : Int) (w : World) (ht : (m && decide (md = 0)) = false) : Calls Try.prog 21 #[.agg #[.int .i64 n, .bool p, .bool m, .func (.func k) #[] #[]], stV md 0 0 0] w fun e w' => e = .returned (stV md 0 0 0) ∧ w.grownBy w' none := by
  have Ht : Hid ((m && decide (md = 0)) = false) := ht
  clear ht
  go_enter Try.func21, Try.ntmps21
  go_wp2_with (go_at_call 18; refine (expects_any _ _ _ _ _ _ _ _ _ false Ht.out).mono ?_; rintro e w1 ⟨rfl, hg1⟩; obtain ⟨hc, hf⟩ := gcell hg1; have hz : w.heap.size + 1 + 1 < w1.heap.size := by have := hg1.size; simp at this; omega)
  refine bodyPost_ret (v := stV md 0 0 0) (by simp [results, Try.results21, go_sem, hc]) rfl ⟨rfl, ?_⟩
  (repeat (first | with_reducible exact grownBy_refl _ _ | (with_reducible refine gs ?_ ?_; first | omega | (simp; omega)) | with_reducible refine ga ?_ | with_reducible refine gd ?_ | with_reducible refine gdn ?_ | with_reducible refine gt ?_ (by assumption)))
end Go.Proofs.Ytkfcciacoplgmaa.Wd

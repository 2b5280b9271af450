/- Utf8Sets: the walk. -/
import Derived.Test.YtbbegadpkpdiaaaDoorRefSet
namespace Go.Proofs.YtbbegadpkpdiaaaDoor.U8
open Go.ChangeShapes Go.WideShapes Go.ChangeAt Go.RowKit Go.Proofs.YtbbegadpkpdiaaaDoor.Mem Go.Proofs.YtbbegadpkpdiaaaDoor.Ucs
set_option linter.unusedVariables false

theorem setV_is (u : Int) : ∃ e s, setV u = putV e s := by unfold setV; split <;> exact ⟨_, _, rfl⟩
set_option maxRecDepth 100000 in
set_option maxHeartbeats 1000000 in
theorem sets_walk (u : Int) (w : World) (hF : Forms w) : Calls Tryd.prog 4 #[.int .i32 u] w fun e w' => e = .returned (.bool true) ∧ Below w.heap.size w w' := by
  obtain ⟨x, s, hs⟩ := setV_is u
  have h1 := set_any u w hF
  have h2 : Hid (∀ w, Calls Tryd.prog 12 #[.int .i32 u] w fun e w' => e = .returned (setV u) ∧ w.grownBy w' none) := fun w => refset_any u w
  rw [hs] at h1 h2
  clear hs hF
  go_enter Tryd.func4, Tryd.ntmps4
  go_wp2_with (first | (go_at_call 11; refine h1.mono ?_; rintro e w1 ⟨rfl, hg1⟩; clear h1) | (go_at_call 12; refine (h2.out _).mono ?_; rintro e w2 ⟨rfl, hg2⟩))
  go_ret
  exact ⟨rfl, (Below.refl _ w).grown (grownBy_trans hg1 hg2) (Nat.le_refl _) (by simp)⟩
end Go.Proofs.YtbbegadpkpdiaaaDoor.U8

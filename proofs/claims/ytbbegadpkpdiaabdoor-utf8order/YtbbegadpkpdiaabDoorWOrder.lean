/- Utf8Order: the walk. -/
import Derived.Test.YtbbegadpkpdiaabDoorWorks
import Derived.Test.YtbbegadpkpdiaabDoorOrder
namespace Go.Proofs.YtbbegadpkpdiaabDoor.U8
open Go.ChangeShapes Go.WideShapes Go.ChangeAt Go.RowKit Go.Proofs.YtbbegadpkpdiaabDoor.Mem Go.Proofs.YtbbegadpkpdiaabDoor.Ucs
set_option linter.unusedVariables false

set_option maxRecDepth 100000 in
set_option maxHeartbeats 1000000 in
theorem order_walk (u v : Int) (w : World) (hF : Forms w) : Calls Tryd.prog 3 #[.int .i32 u, .int .i32 v] w fun e w' => e = .returned (.bool true) ∧ Below w.heap.size w w' := by
  have hw := works_any w hF
  by_cases hu : scB u = true
  · by_cases hv : scB v = true
    · have hle := less_unit hu hv
      have hsz : u ≤ v → _ := size_unit hu hv
      obtain ⟨s, hs⟩ : ∃ s, Hid (str (unit u.toNat) = s) := ⟨_, rfl⟩
      obtain ⟨t, ht⟩ : ∃ t, Hid (str (unit v.toNat) = t) := ⟨_, rfl⟩
      rw [hs.out, ht.out] at hle hsz
      have hu' := Hid.mk' hu
      have hv' := Hid.mk' hv
      by_cases c : u ≤ v
      all_goals
        first | (have hsz' : (s.size : Int) ≤ (t.size : Int) := Int.ofNat_le.2 (hsz c)) | skip
        clear hsz
        go_enter Tryd.func3, Tryd.ntmps3
        go_wp2_with (first | (go_at_call 5; refine hw.mono ?_; rintro e w1 ⟨rfl, hg1⟩; have F1 := hF.kept0 hg1; clear hw hF) | (go_at_call 6; refine (scalar_ref _ _).mono ?_; rintro e w' ⟨rfl, hw⟩; obtain rfl := hw) | (go_at_call_of 7 (Value.int IntKind.i32 u); refine (set_at u _ (by assumption) hu'.out s hs.out).mono ?_; rintro e w2 ⟨rfl, hg2⟩; have F2 := F1.kept0 hg2; clear F1) | (go_at_call_of 7 (Value.int IntKind.i32 v); refine (set_at v _ (by assumption) hv'.out t ht.out).mono ?_; rintro e w3 ⟨rfl, hg3⟩; clear F2))
        all_goals go_ret
        all_goals refine ⟨?_, (Below.refl _ w).grown (grownBy_trans (grownBy_trans hg1 hg2) (grownBy_trans hg3 (grownBy_trans (World.grownBy_alloc _ _ _) (World.grownBy_alloc _ _ _)))) (Nat.le_refl _) (by simp)⟩
        all_goals first | rfl | (refine ret_bool ?_; simp; omega)
    · have hv : scB v = false := by simpa using hv
      go_enter Tryd.func3, Tryd.ntmps3
      go_wp2_with (first | (go_at_call 5; refine hw.mono ?_; rintro e w1 ⟨rfl, hg1⟩; clear hw hF) | (go_at_call 6; refine (scalar_ref _ _).mono ?_; rintro e w' ⟨rfl, hw⟩; obtain rfl := hw))
      go_ret
      exact ⟨rfl, (Below.refl _ w).grown hg1 (Nat.le_refl _) (by simp)⟩
  · have hu : scB u = false := by simpa using hu
    go_enter Tryd.func3, Tryd.ntmps3
    go_wp2_with (first | (go_at_call 5; refine hw.mono ?_; rintro e w1 ⟨rfl, hg1⟩; clear hw hF) | (go_at_call 6; refine (scalar_ref _ _).mono ?_; rintro e w' ⟨rfl, hw⟩; obtain rfl := hw))
    go_ret
    exact ⟨rfl, (Below.refl _ w).grown hg1 (Nat.le_refl _) (by simp)⟩
end Go.Proofs.YtbbegadpkpdiaabDoor.U8

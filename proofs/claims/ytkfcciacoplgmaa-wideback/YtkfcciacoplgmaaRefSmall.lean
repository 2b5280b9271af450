/- The document's small functions: walks. -/
import Derived.Test.YtkfcciacoplgmaaFits
import Derived.Deep.RegionHeld3
import Derived.BigQuiet
namespace Go.Proofs.Ytkfcciacoplgmaa.Wd
open Go.ChangeShapes Go.WideShapes Go.ChangeAt Go.RowKit Go.Proofs.Ytkfcciacoplgmaa.Mem Go.Proofs.Ytkfcciacoplgmaa.Ucs
set_option linter.unusedVariables false
set_option linter.unusedSimpArgs false

theorem marked_3 (w : World) : Calls Try.prog 23 #[.int .i64 3] w fun e w' => e = .returned (.bool false) ∧ w' = w := by
  go_enter Try.func23, Try.ntmps23
  go_wp2
  go_ret
  exact ⟨rfl, rfl⟩

theorem marked_4 (w : World) : Calls Try.prog 23 #[.int .i64 4] w fun e w' => e = .returned (.bool false) ∧ w' = w := by
  go_enter Try.func23, Try.ntmps23
  go_wp2
  go_ret
  exact ⟨rfl, rfl⟩

theorem marked_5 (w : World) : Calls Try.prog 23 #[.int .i64 5] w fun e w' => e = .returned (.bool true) ∧ w' = w := by
  go_enter Try.func23, Try.ntmps23
  go_wp2
  go_ret
  exact ⟨rfl, rfl⟩

theorem marked_6 (w : World) : Calls Try.prog 23 #[.int .i64 6] w fun e w' => e = .returned (.bool false) ∧ w' = w := by
  go_enter Try.func23, Try.ntmps23
  go_wp2
  go_ret
  exact ⟨rfl, rfl⟩

theorem marked_7 (w : World) : Calls Try.prog 23 #[.int .i64 7] w fun e w' => e = .returned (.bool false) ∧ w' = w := by
  go_enter Try.func23, Try.ntmps23
  go_wp2
  go_ret
  exact ⟨rfl, rfl⟩

theorem marked_8 (w : World) : Calls Try.prog 23 #[.int .i64 8] w fun e w' => e = .returned (.bool true) ∧ w' = w := by
  go_enter Try.func23, Try.ntmps23
  go_wp2
  go_ret
  exact ⟨rfl, rfl⟩

theorem marked_9 (w : World) : Calls Try.prog 23 #[.int .i64 9] w fun e w' => e = .returned (.bool false) ∧ w' = w := by
  go_enter Try.func23, Try.ntmps23
  go_wp2
  go_ret
  exact ⟨rfl, rfl⟩

theorem marked_10 (w : World) : Calls Try.prog 23 #[.int .i64 10] w fun e w' => e = .returned (.bool false) ∧ w' = w := by
  go_enter Try.func23, Try.ntmps23
  go_wp2
  go_ret
  exact ⟨rfl, rfl⟩

theorem size_3 (w : World) : Calls Try.prog 24 #[.int .i64 3] w fun e w' => e = .returned (.int .i64 2) ∧ w' = w := by
  go_enter Try.func24, Try.ntmps24
  go_wp2
  go_ret
  exact ⟨rfl, rfl⟩

theorem size_4 (w : World) : Calls Try.prog 24 #[.int .i64 4] w fun e w' => e = .returned (.int .i64 2) ∧ w' = w := by
  go_enter Try.func24, Try.ntmps24
  go_wp2
  go_ret
  exact ⟨rfl, rfl⟩

theorem size_5 (w : World) : Calls Try.prog 24 #[.int .i64 5] w fun e w' => e = .returned (.int .i64 2) ∧ w' = w := by
  go_enter Try.func24, Try.ntmps24
  go_wp2
  go_ret
  exact ⟨rfl, rfl⟩

theorem size_6 (w : World) : Calls Try.prog 24 #[.int .i64 6] w fun e w' => e = .returned (.int .i64 4) ∧ w' = w := by
  go_enter Try.func24, Try.ntmps24
  go_wp2
  go_ret
  exact ⟨rfl, rfl⟩

theorem size_7 (w : World) : Calls Try.prog 24 #[.int .i64 7] w fun e w' => e = .returned (.int .i64 4) ∧ w' = w := by
  go_enter Try.func24, Try.ntmps24
  go_wp2
  go_ret
  exact ⟨rfl, rfl⟩

theorem size_8 (w : World) : Calls Try.prog 24 #[.int .i64 8] w fun e w' => e = .returned (.int .i64 4) ∧ w' = w := by
  go_enter Try.func24, Try.ntmps24
  go_wp2
  go_ret
  exact ⟨rfl, rfl⟩

theorem size_9 (w : World) : Calls Try.prog 24 #[.int .i64 9] w fun e w' => e = .returned (.int .i64 2) ∧ w' = w := by
  go_enter Try.func24, Try.ntmps24
  go_wp2
  go_ret
  exact ⟨rfl, rfl⟩

theorem size_10 (w : World) : Calls Try.prog 24 #[.int .i64 10] w fun e w' => e = .returned (.int .i64 2) ∧ w' = w := by
  go_enter Try.func24, Try.ntmps24
  go_wp2
  go_ret
  exact ⟨rfl, rfl⟩

theorem hasR_3 (w : World) : Calls Try.prog 12 #[.int .i64 3] w fun e w' => e = .returned (.bool true) ∧ w' = w := by
  go_enter Try.func12, Try.ntmps12
  go_wp2
  go_ret
  exact ⟨rfl, rfl⟩

theorem hasR_4 (w : World) : Calls Try.prog 12 #[.int .i64 4] w fun e w' => e = .returned (.bool true) ∧ w' = w := by
  go_enter Try.func12, Try.ntmps12
  go_wp2
  go_ret
  exact ⟨rfl, rfl⟩

theorem hasR_5 (w : World) : Calls Try.prog 12 #[.int .i64 5] w fun e w' => e = .returned (.bool true) ∧ w' = w := by
  go_enter Try.func12, Try.ntmps12
  go_wp2
  go_ret
  exact ⟨rfl, rfl⟩

theorem hasR_6 (w : World) : Calls Try.prog 12 #[.int .i64 6] w fun e w' => e = .returned (.bool true) ∧ w' = w := by
  go_enter Try.func12, Try.ntmps12
  go_wp2
  go_ret
  exact ⟨rfl, rfl⟩

theorem hasR_7 (w : World) : Calls Try.prog 12 #[.int .i64 7] w fun e w' => e = .returned (.bool true) ∧ w' = w := by
  go_enter Try.func12, Try.ntmps12
  go_wp2
  go_ret
  exact ⟨rfl, rfl⟩

theorem hasR_8 (w : World) : Calls Try.prog 12 #[.int .i64 8] w fun e w' => e = .returned (.bool true) ∧ w' = w := by
  go_enter Try.func12, Try.ntmps12
  go_wp2
  go_ret
  exact ⟨rfl, rfl⟩

theorem hasR_9 (w : World) : Calls Try.prog 12 #[.int .i64 9] w fun e w' => e = .returned (.bool true) ∧ w' = w := by
  go_enter Try.func12, Try.ntmps12
  go_wp2
  go_ret
  exact ⟨rfl, rfl⟩

theorem hasR_10 (w : World) : Calls Try.prog 12 #[.int .i64 10] w fun e w' => e = .returned (.bool true) ∧ w' = w := by
  go_enter Try.func12, Try.ntmps12
  go_wp2
  go_ret
  exact ⟨rfl, rfl⟩

theorem little_3_0 (w : World) : Calls Try.prog 27 #[.int .i64 3, .int .i64 0] w fun e w' => e = .returned (.bool false) ∧ w' = w := by
  go_enter Try.func27, Try.ntmps27
  go_wp2
  go_ret
  exact ⟨rfl, rfl⟩

theorem little_4_0 (w : World) : Calls Try.prog 27 #[.int .i64 4, .int .i64 0] w fun e w' => e = .returned (.bool true) ∧ w' = w := by
  go_enter Try.func27, Try.ntmps27
  go_wp2
  go_ret
  exact ⟨rfl, rfl⟩

theorem little_5_0 (w : World) : Calls Try.prog 27 #[.int .i64 5, .int .i64 0] w fun e w' => e = .returned (.bool false) ∧ w' = w := by
  go_enter Try.func27, Try.ntmps27
  go_wp2
  go_ret
  exact ⟨rfl, rfl⟩

theorem little_5_1 (w : World) : Calls Try.prog 27 #[.int .i64 5, .int .i64 1] w fun e w' => e = .returned (.bool false) ∧ w' = w := by
  go_enter Try.func27, Try.ntmps27
  go_wp2
  go_ret
  exact ⟨rfl, rfl⟩

theorem little_5_2 (w : World) : Calls Try.prog 27 #[.int .i64 5, .int .i64 2] w fun e w' => e = .returned (.bool true) ∧ w' = w := by
  go_enter Try.func27, Try.ntmps27
  go_wp2
  go_ret
  exact ⟨rfl, rfl⟩

theorem little_6_0 (w : World) : Calls Try.prog 27 #[.int .i64 6, .int .i64 0] w fun e w' => e = .returned (.bool false) ∧ w' = w := by
  go_enter Try.func27, Try.ntmps27
  go_wp2
  go_ret
  exact ⟨rfl, rfl⟩

theorem little_7_0 (w : World) : Calls Try.prog 27 #[.int .i64 7, .int .i64 0] w fun e w' => e = .returned (.bool true) ∧ w' = w := by
  go_enter Try.func27, Try.ntmps27
  go_wp2
  go_ret
  exact ⟨rfl, rfl⟩

theorem little_8_0 (w : World) : Calls Try.prog 27 #[.int .i64 8, .int .i64 0] w fun e w' => e = .returned (.bool false) ∧ w' = w := by
  go_enter Try.func27, Try.ntmps27
  go_wp2
  go_ret
  exact ⟨rfl, rfl⟩

theorem little_8_1 (w : World) : Calls Try.prog 27 #[.int .i64 8, .int .i64 1] w fun e w' => e = .returned (.bool false) ∧ w' = w := by
  go_enter Try.func27, Try.ntmps27
  go_wp2
  go_ret
  exact ⟨rfl, rfl⟩

theorem little_8_2 (w : World) : Calls Try.prog 27 #[.int .i64 8, .int .i64 2] w fun e w' => e = .returned (.bool true) ∧ w' = w := by
  go_enter Try.func27, Try.ntmps27
  go_wp2
  go_ret
  exact ⟨rfl, rfl⟩

theorem little_9_0 (w : World) : Calls Try.prog 27 #[.int .i64 9, .int .i64 0] w fun e w' => e = .returned (.bool false) ∧ w' = w := by
  go_enter Try.func27, Try.ntmps27
  go_wp2
  go_ret
  exact ⟨rfl, rfl⟩

theorem little_10_0 (w : World) : Calls Try.prog 27 #[.int .i64 10, .int .i64 0] w fun e w' => e = .returned (.bool true) ∧ w' = w := by
  go_enter Try.func27, Try.ntmps27
  go_wp2
  go_ret
  exact ⟨rfl, rfl⟩

theorem marked_any {k : Int} {n : Nat} {p m low : Bool} (h : fm k = some (n, p, m, low)) (w : World) : Calls Try.prog 23 #[.int .i64 k] w fun e w' => e = .returned (.bool m) ∧ w' = w := by
  rcases fm_some h with ⟨rfl, e⟩ | ⟨rfl, e⟩ | ⟨rfl, e⟩ | ⟨rfl, e⟩ | ⟨rfl, e⟩ | ⟨rfl, e⟩ | ⟨rfl, e⟩ | ⟨rfl, e⟩ <;> (simp only [Prod.mk.injEq] at e; obtain ⟨rfl, rfl, rfl, rfl⟩ := e)
  · exact marked_3 w
  · exact marked_4 w
  · exact marked_5 w
  · exact marked_6 w
  · exact marked_7 w
  · exact marked_8 w
  · exact marked_9 w
  · exact marked_10 w

theorem size_any {k : Int} {n : Nat} {p m low : Bool} (h : fm k = some (n, p, m, low)) (w : World) : Calls Try.prog 24 #[.int .i64 k] w fun e w' => e = .returned (.int .i64 (n : Int)) ∧ w' = w := by
  rcases fm_some h with ⟨rfl, e⟩ | ⟨rfl, e⟩ | ⟨rfl, e⟩ | ⟨rfl, e⟩ | ⟨rfl, e⟩ | ⟨rfl, e⟩ | ⟨rfl, e⟩ | ⟨rfl, e⟩ <;> (simp only [Prod.mk.injEq] at e; obtain ⟨rfl, rfl, rfl, rfl⟩ := e)
  · exact size_3 w
  · exact size_4 w
  · exact size_5 w
  · exact size_6 w
  · exact size_7 w
  · exact size_8 w
  · exact size_9 w
  · exact size_10 w

theorem hasR_any {k : Int} {f : Nat × Bool × Bool × Bool} (h : fm k = some f) (w : World) : Calls Try.prog 12 #[.int .i64 k] w fun e w' => e = .returned (.bool true) ∧ w' = w := by
  rcases fm_some h with ⟨rfl, _⟩ | ⟨rfl, _⟩ | ⟨rfl, _⟩ | ⟨rfl, _⟩ | ⟨rfl, _⟩ | ⟨rfl, _⟩ | ⟨rfl, _⟩ | ⟨rfl, _⟩
  · exact hasR_3 w
  · exact hasR_4 w
  · exact hasR_5 w
  · exact hasR_6 w
  · exact hasR_7 w
  · exact hasR_8 w
  · exact hasR_9 w
  · exact hasR_10 w

theorem hasR_none (k : Int) (h : k < 3 ∨ 10 < k) (w : World) : Calls Try.prog 12 #[.int .i64 k] w fun e w' => e = .returned (.bool false) ∧ w' = w := by
  rcases h with h | h
  · go_enter Try.func12, Try.ntmps12
    go_wp2
    go_ret
    exact ⟨rfl, rfl⟩
  · have h3 : 3 ≤ k := by omega
    have h10 : ¬ k ≤ 10 := by omega
    go_enter Try.func12, Try.ntmps12
    go_wp2
    go_ret
    exact ⟨rfl, rfl⟩
theorem little_any {k : Int} {n : Nat} {p m low : Bool} (h : fm k = some (n, p, m, low)) (md : Int) (hf : fitB m md 0 0 0 = true) (w : World) (t : Bool) (ht : (low || decide (md = 2)) = t) : Calls Try.prog 27 #[.int .i64 k, .int .i64 md] w fun e w' => e = .returned (.bool t) ∧ w' = w := by
  subst ht
  rcases fm_some h with ⟨rfl, e⟩ | ⟨rfl, e⟩ | ⟨rfl, e⟩ | ⟨rfl, e⟩ | ⟨rfl, e⟩ | ⟨rfl, e⟩ | ⟨rfl, e⟩ | ⟨rfl, e⟩ <;> (simp only [Prod.mk.injEq] at e; obtain ⟨rfl, rfl, rfl, rfl⟩ := e)
  · obtain rfl : md = 0 := by simpa [fitB] using hf
    exact little_3_0 w
  · obtain rfl : md = 0 := by simpa [fitB] using hf
    exact little_4_0 w
  · have hmd : md = 0 ∨ md = 1 ∨ md = 2 := by simp [fitB] at hf; omega
    rcases hmd with rfl | rfl | rfl
    · exact little_5_0 w
    · exact little_5_1 w
    · exact little_5_2 w
  · obtain rfl : md = 0 := by simpa [fitB] using hf
    exact little_6_0 w
  · obtain rfl : md = 0 := by simpa [fitB] using hf
    exact little_7_0 w
  · have hmd : md = 0 ∨ md = 1 ∨ md = 2 := by simp [fitB] at hf; omega
    rcases hmd with rfl | rfl | rfl
    · exact little_8_0 w
    · exact little_8_1 w
    · exact little_8_2 w
  · obtain rfl : md = 0 := by simpa [fitB] using hf
    exact little_9_0 w
  · obtain rfl : md = 0 := by simpa [fitB] using hf
    exact little_10_0 w

set_option maxRecDepth 100000 in
set_option maxHeartbeats 4000000 in
theorem fitsR_any {k : Int} {n : Nat} {p m low : Bool} (h : fm k = some (n, p, m, low)) (md bi ac he : Int) (w : World) (t : Bool) (ht : fitB m md bi ac he = t) : Calls Try.prog 22 #[.int .i64 k, stV md bi ac he] w fun e w' => e = .returned (.bool t) ∧ w.grownBy w' none := by
  subst ht
  have H : Hid (fm k = some (n, p, m, low)) := h
  clear h
  cases m
  · go_enter Try.func22, Try.ntmps22
    go_wp2_with (go_at_call 23; refine (marked_any H.out _).mono ?_; rintro e w' ⟨rfl, hw⟩; obtain rfl := hw)
    all_goals go_ret
    all_goals refine ⟨ret_bool ?_, ga (grownBy_refl _ _)⟩
    all_goals (clear H; simp_all [fitB])
    all_goals omega
  · go_enter Try.func22, Try.ntmps22
    go_wp2_with (go_at_call 23; refine (marked_any H.out _).mono ?_; rintro e w' ⟨rfl, hw⟩; obtain rfl := hw)
    all_goals go_ret
    all_goals refine ⟨ret_bool ?_, ga (grownBy_refl _ _)⟩
    all_goals (clear H; simp_all [fitB])
    all_goals omega
end Go.Proofs.Ytkfcciacoplgmaa.Wd

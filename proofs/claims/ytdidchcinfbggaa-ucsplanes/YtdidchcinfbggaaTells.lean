/- What ucs.High, Low, Scalar and Plane and their twins answer: walks. -/
import Derived.Test.YtdidchcinfbggaaRows
import Derived.WalkKit
import Derived.ProofKit
import Derived.OpenShut
import Derived.WalkSpells
import Derived.WalkLawsBesides
import Derived.Test.YtdidchcinfbggaaPlain
namespace Go.Proofs.Ytdidchcinfbggaa.Ucs
open Go.ChangeShapes Go.WideShapes Go.ChangeAt Go.RowKit

theorem ret_bool {a b : Bool} (h : a = b) : Ending.returned (.bool a) = .returned (.bool b) := by rw [h]
theorem ret_int {k : IntKind} {a b : Int} (h : a = b) : Ending.returned (.int k a) = .returned (.int k b) := by rw [h]

theorem high_any (u : Int) (w : World) : Calls Try.prog 12 #[.int .i32 u] w fun e w' => e = .returned (.bool (hiB u)) ∧ w' = w := by
  by_cases h : 55296 ≤ u
  · by_cases k : u ≤ 56319
    · go_enter Try.func12, Try.ntmps12
      go_wp2
      go_ret
      exact ⟨ret_bool (by rw [hiB_pos h k]), rfl⟩
    · go_enter Try.func12, Try.ntmps12
      go_wp2
      go_ret
      exact ⟨ret_bool (by rw [hiB_neg (by omega)]), rfl⟩
  · go_enter Try.func12, Try.ntmps12
    go_wp2
    go_ret
    exact ⟨ret_bool (by rw [hiB_neg (by omega)]), rfl⟩

theorem high_ref (u : Int) (w : World) : Calls Try.prog 13 #[.int .i32 u] w fun e w' => e = .returned (.bool (hiB u)) ∧ w' = w := by
  by_cases h : 55296 ≤ u
  · by_cases k : u ≤ 56319
    · go_enter Try.func13, Try.ntmps13
      go_wp2
      go_ret
      exact ⟨ret_bool (by rw [hiB_pos h k]), rfl⟩
    · go_enter Try.func13, Try.ntmps13
      go_wp2
      go_ret
      exact ⟨ret_bool (by rw [hiB_neg (by omega)]), rfl⟩
  · go_enter Try.func13, Try.ntmps13
    go_wp2
    go_ret
    exact ⟨ret_bool (by rw [hiB_neg (by omega)]), rfl⟩

theorem low_any (u : Int) (w : World) : Calls Try.prog 14 #[.int .i32 u] w fun e w' => e = .returned (.bool (loB u)) ∧ w' = w := by
  by_cases h : 56320 ≤ u
  · by_cases k : u ≤ 57343
    · go_enter Try.func14, Try.ntmps14
      go_wp2
      go_ret
      exact ⟨ret_bool (by rw [loB_pos h k]), rfl⟩
    · go_enter Try.func14, Try.ntmps14
      go_wp2
      go_ret
      exact ⟨ret_bool (by rw [loB_neg (by omega)]), rfl⟩
  · go_enter Try.func14, Try.ntmps14
    go_wp2
    go_ret
    exact ⟨ret_bool (by rw [loB_neg (by omega)]), rfl⟩

theorem low_ref (u : Int) (w : World) : Calls Try.prog 15 #[.int .i32 u] w fun e w' => e = .returned (.bool (loB u)) ∧ w' = w := by
  by_cases h : 56320 ≤ u
  · by_cases k : u ≤ 57343
    · go_enter Try.func15, Try.ntmps15
      go_wp2
      go_ret
      exact ⟨ret_bool (by rw [loB_pos h k]), rfl⟩
    · go_enter Try.func15, Try.ntmps15
      go_wp2
      go_ret
      exact ⟨ret_bool (by rw [loB_neg (by omega)]), rfl⟩
  · go_enter Try.func15, Try.ntmps15
    go_wp2
    go_ret
    exact ⟨ret_bool (by rw [loB_neg (by omega)]), rfl⟩

theorem scalar_any (u : Int) (w : World) : Calls Try.prog 8 #[.int .i32 u] w fun e w' => e = .returned (.bool (scB u)) ∧ w' = w := by
  by_cases c0 : u < 0
  · go_enter Try.func8, Try.ntmps8
    go_wp2
    go_ret
    exact ⟨ret_bool (by rw [scB_neg (by omega)]), rfl⟩
  by_cases c1 : 1114111 < u
  · go_enter Try.func8, Try.ntmps8
    go_wp2
    go_ret
    exact ⟨ret_bool (by rw [scB_neg (by omega)]), rfl⟩
  by_cases c2 : u < 55296
  · go_enter Try.func8, Try.ntmps8
    go_wp2
    go_ret
    exact ⟨ret_bool (by rw [scB_pos (by omega) (by omega) (by omega)]), rfl⟩
  by_cases c3 : u ≤ 56319
  · go_enter Try.func8, Try.ntmps8
    go_wp2
    go_ret
    exact ⟨ret_bool (by rw [scB_neg (by omega)]), rfl⟩
  by_cases c4 : u ≤ 57343
  · go_enter Try.func8, Try.ntmps8
    go_wp2
    go_ret
    exact ⟨ret_bool (by rw [scB_neg (by omega)]), rfl⟩
  · go_enter Try.func8, Try.ntmps8
    go_wp2
    go_ret
    exact ⟨ret_bool (by rw [scB_pos (by omega) (by omega) (by omega)]), rfl⟩

theorem scalar_ref (u : Int) (w : World) : Calls Try.prog 9 #[.int .i32 u] w fun e w' => e = .returned (.bool (scB u)) ∧ w' = w := by
  by_cases c0 : u < 0
  · go_enter Try.func9, Try.ntmps9
    go_wp2
    go_ret
    exact ⟨ret_bool (by rw [scB_neg (by omega)]; try (simp; omega)), rfl⟩
  by_cases c1 : 1114111 < u
  · go_enter Try.func9, Try.ntmps9
    go_wp2
    go_ret
    exact ⟨ret_bool (by rw [scB_neg (by omega)]; try (simp; omega)), rfl⟩
  by_cases c2 : u < 55296
  · go_enter Try.func9, Try.ntmps9
    go_wp2
    go_ret
    exact ⟨ret_bool (by rw [scB_pos (by omega) (by omega) (by omega)]), rfl⟩
  by_cases c3 : u ≤ 56319
  · go_enter Try.func9, Try.ntmps9
    go_wp2
    go_ret
    exact ⟨ret_bool (by rw [scB_neg (by omega)]; try (simp; omega)), rfl⟩
  by_cases c4 : u ≤ 57343
  · go_enter Try.func9, Try.ntmps9
    go_wp2
    go_ret
    exact ⟨ret_bool (by rw [scB_neg (by omega)]; try (simp; omega)), rfl⟩
  · go_enter Try.func9, Try.ntmps9
    go_wp2
    go_ret
    exact ⟨ret_bool (by rw [scB_pos (by omega) (by omega) (by omega)]), rfl⟩

theorem plane_any (u : Int) (w : World) : Calls Try.prog 10 #[.int .i32 u] w fun e w' => e = .returned (.int .i64 (plane u)) ∧ w' = w := by
  cases h : scB u
  · have hp : plane u = -1 := by simp [plane, h]
    rw [hp]; clear hp
    go_enter Try.func10, Try.ntmps10
    go_wp2_with (go_at_call 8; refine (scalar_any _ _).mono ?_; rintro e w' ⟨rfl, rfl⟩)
    go_ret
    exact ⟨rfl, rfl⟩
  · have hp : plane u = u / 65536 := by simp [plane, h]
    have hb := scB_iff.1 h
    obtain ⟨h0, h1, _⟩ := hb
    rw [hp]; clear hp
    go_enter Try.func10, Try.ntmps10
    go_wp2_with (go_at_call 8; refine (scalar_any _ _).mono ?_; rintro e w' ⟨rfl, rfl⟩)
    go_ret
    exact ⟨rfl, rfl⟩

theorem plane_ref (u : Int) (w : World) : Calls Try.prog 11 #[.int .i32 u] w fun e w' => e = .returned (.int .i64 (plane u)) ∧ w' = w := by
  cases h : scB u
  · have hp : plane u = -1 := by simp [plane, h]
    rw [hp]; clear hp
    go_enter Try.func11, Try.ntmps11
    go_wp2_with (go_at_call 9; refine (scalar_ref _ _).mono ?_; rintro e w' ⟨rfl, rfl⟩)
    go_ret
    exact ⟨rfl, rfl⟩
  · have hp : plane u = u / 65536 := by simp [plane, h]
    have hb := scB_iff.1 h
    obtain ⟨h0, h1, _⟩ := hb
    rw [hp]; clear hp
    go_enter Try.func11, Try.ntmps11
    go_wp2_with (go_at_call 9; refine (scalar_ref _ _).mono ?_; rintro e w' ⟨rfl, rfl⟩)
    go_ret
    exact ⟨rfl, rfl⟩
end Go.Proofs.Ytdidchcinfbggaa.Ucs

/- What ucs.High, Low, Scalar and Plane and their twins answer: walks. -/
import Derived.Test.YtliaadlanpfjbaaDoorRows
import Derived.WalkKit
import Derived.ProofKit
import Derived.OpenShut
import Derived.WalkSpells
import Derived.WalkLawsBesides
import Derived.Test.YtliaadlanpfjbaaDoorPlain
namespace Go.Proofs.YtliaadlanpfjbaaDoor.Ucs
open Go.ChangeShapes Go.WideShapes Go.ChangeAt Go.RowKit

theorem ret_bool {a b : Bool} (h : a = b) : Ending.returned (.bool a) = .returned (.bool b) := by rw [h]
theorem ret_int {k : IntKind} {a b : Int} (h : a = b) : Ending.returned (.int k a) = .returned (.int k b) := by rw [h]

theorem high_any (u : Int) (w : World) : Calls Tryd.prog 28 #[.int .i32 u] w fun e w' => e = .returned (.bool (hiB u)) ∧ w' = w := by
  by_cases h : 55296 ≤ u
  · by_cases k : u ≤ 56319
    · go_enter Tryd.func28, Tryd.ntmps28
      go_wp2
      go_ret
      exact ⟨ret_bool (by rw [hiB_pos h k]), rfl⟩
    · go_enter Tryd.func28, Tryd.ntmps28
      go_wp2
      go_ret
      exact ⟨ret_bool (by rw [hiB_neg (by omega)]), rfl⟩
  · go_enter Tryd.func28, Tryd.ntmps28
    go_wp2
    go_ret
    exact ⟨ret_bool (by rw [hiB_neg (by omega)]), rfl⟩

theorem low_any (u : Int) (w : World) : Calls Tryd.prog 29 #[.int .i32 u] w fun e w' => e = .returned (.bool (loB u)) ∧ w' = w := by
  by_cases h : 56320 ≤ u
  · by_cases k : u ≤ 57343
    · go_enter Tryd.func29, Tryd.ntmps29
      go_wp2
      go_ret
      exact ⟨ret_bool (by rw [loB_pos h k]), rfl⟩
    · go_enter Tryd.func29, Tryd.ntmps29
      go_wp2
      go_ret
      exact ⟨ret_bool (by rw [loB_neg (by omega)]), rfl⟩
  · go_enter Tryd.func29, Tryd.ntmps29
    go_wp2
    go_ret
    exact ⟨ret_bool (by rw [loB_neg (by omega)]), rfl⟩

theorem scalar_any (u : Int) (w : World) : Calls Tryd.prog 27 #[.int .i32 u] w fun e w' => e = .returned (.bool (scB u)) ∧ w' = w := by
  by_cases c0 : u < 0
  · go_enter Tryd.func27, Tryd.ntmps27
    go_wp2
    go_ret
    exact ⟨ret_bool (by rw [scB_neg (by omega)]), rfl⟩
  by_cases c1 : 1114111 < u
  · go_enter Tryd.func27, Tryd.ntmps27
    go_wp2
    go_ret
    exact ⟨ret_bool (by rw [scB_neg (by omega)]), rfl⟩
  by_cases c2 : u < 55296
  · go_enter Tryd.func27, Tryd.ntmps27
    go_wp2
    go_ret
    exact ⟨ret_bool (by rw [scB_pos (by omega) (by omega) (by omega)]), rfl⟩
  by_cases c3 : u ≤ 56319
  · go_enter Tryd.func27, Tryd.ntmps27
    go_wp2
    go_ret
    exact ⟨ret_bool (by rw [scB_neg (by omega)]), rfl⟩
  by_cases c4 : u ≤ 57343
  · go_enter Tryd.func27, Tryd.ntmps27
    go_wp2
    go_ret
    exact ⟨ret_bool (by rw [scB_neg (by omega)]), rfl⟩
  · go_enter Tryd.func27, Tryd.ntmps27
    go_wp2
    go_ret
    exact ⟨ret_bool (by rw [scB_pos (by omega) (by omega) (by omega)]), rfl⟩

theorem scalar_ref (u : Int) (w : World) : Calls Tryd.prog 19 #[.int .i32 u] w fun e w' => e = .returned (.bool (scB u)) ∧ w' = w := by
  by_cases c0 : u < 0
  · go_enter Tryd.func19, Tryd.ntmps19
    go_wp2
    go_ret
    exact ⟨ret_bool (by rw [scB_neg (by omega)]; try (simp; omega)), rfl⟩
  by_cases c1 : 1114111 < u
  · go_enter Tryd.func19, Tryd.ntmps19
    go_wp2
    go_ret
    exact ⟨ret_bool (by rw [scB_neg (by omega)]; try (simp; omega)), rfl⟩
  by_cases c2 : u < 55296
  · go_enter Tryd.func19, Tryd.ntmps19
    go_wp2
    go_ret
    exact ⟨ret_bool (by rw [scB_pos (by omega) (by omega) (by omega)]), rfl⟩
  by_cases c3 : u ≤ 56319
  · go_enter Tryd.func19, Tryd.ntmps19
    go_wp2
    go_ret
    exact ⟨ret_bool (by rw [scB_neg (by omega)]; try (simp; omega)), rfl⟩
  by_cases c4 : u ≤ 57343
  · go_enter Tryd.func19, Tryd.ntmps19
    go_wp2
    go_ret
    exact ⟨ret_bool (by rw [scB_neg (by omega)]; try (simp; omega)), rfl⟩
  · go_enter Tryd.func19, Tryd.ntmps19
    go_wp2
    go_ret
    exact ⟨ret_bool (by rw [scB_pos (by omega) (by omega) (by omega)]), rfl⟩
end Go.Proofs.YtliaadlanpfjbaaDoor.Ucs

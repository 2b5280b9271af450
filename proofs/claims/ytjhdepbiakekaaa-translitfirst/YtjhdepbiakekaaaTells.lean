/- What ucs.High, Low, Scalar and Plane and their twins answer: walks. -/
import Derived.Test.YtjhdepbiakekaaaRows
import Derived.WalkKit
import Derived.ProofKit
import Derived.OpenShut
import Derived.WalkSpells
import Derived.WalkLawsBesides
import Derived.Test.YtjhdepbiakekaaaPlain
namespace Go.Proofs.Ytjhdepbiakekaaa.Ucs
open Go.ChangeShapes Go.WideShapes Go.ChangeAt Go.RowKit

theorem ret_bool {a b : Bool} (h : a = b) : Ending.returned (.bool a) = .returned (.bool b) := by rw [h]
theorem ret_int {k : IntKind} {a b : Int} (h : a = b) : Ending.returned (.int k a) = .returned (.int k b) := by rw [h]

theorem scalar_ref (u : Int) (w : World) : Calls Try.prog 25 #[.int .i32 u] w fun e w' => e = .returned (.bool (scB u)) ∧ w' = w := by
  by_cases c0 : u < 0
  · go_enter Try.func25, Try.ntmps25
    go_wp2
    go_ret
    exact ⟨ret_bool (by rw [scB_neg (by omega)]; try (simp; omega)), rfl⟩
  by_cases c1 : 1114111 < u
  · go_enter Try.func25, Try.ntmps25
    go_wp2
    go_ret
    exact ⟨ret_bool (by rw [scB_neg (by omega)]; try (simp; omega)), rfl⟩
  by_cases c2 : u < 55296
  · go_enter Try.func25, Try.ntmps25
    go_wp2
    go_ret
    exact ⟨ret_bool (by rw [scB_pos (by omega) (by omega) (by omega)]), rfl⟩
  by_cases c3 : u ≤ 56319
  · go_enter Try.func25, Try.ntmps25
    go_wp2
    go_ret
    exact ⟨ret_bool (by rw [scB_neg (by omega)]; try (simp; omega)), rfl⟩
  by_cases c4 : u ≤ 57343
  · go_enter Try.func25, Try.ntmps25
    go_wp2
    go_ret
    exact ⟨ret_bool (by rw [scB_neg (by omega)]; try (simp; omega)), rfl⟩
  · go_enter Try.func25, Try.ntmps25
    go_wp2
    go_ret
    exact ⟨ret_bool (by rw [scB_pos (by omega) (by omega) (by omega)]), rfl⟩
end Go.Proofs.Ytjhdepbiakekaaa.Ucs

/- The document's list of a kind: a walk. -/
import Derived.Test.YtliaadlanpfjbaaRows
import Derived.WalkKit
import Derived.ProofKit
import Derived.Test.YtliaadlanpfjbaaIl12
namespace Go.Proofs.Ytliaadlanpfjbaa.C12
open Go.ChangeShapes Go.WideShapes Go.ChangeAt Go.RowKit
set_option linter.unusedVariables false
set_option linter.unusedSimpArgs false

set_option maxRecDepth 100000 in
set_option maxHeartbeats 1000000 in
theorem list70 (w : World) : Calls Try.prog 21 #[.int .i64 70] w fun e w' => (∃ s : ByteArray, e = .returned (.string s) ∧ s.data.toList = dig4 (tab 70)) ∧ w' = w := by
  go_enter Try.func21, Try.ntmps21
  go_wp2
  go_ret
  exact ⟨⟨_, rfl, by decide +kernel⟩, rfl⟩
set_option maxRecDepth 100000 in
set_option maxHeartbeats 1000000 in
theorem list71 (w : World) : Calls Try.prog 21 #[.int .i64 71] w fun e w' => (∃ s : ByteArray, e = .returned (.string s) ∧ s.data.toList = dig4 (tab 71)) ∧ w' = w := by
  go_enter Try.func21, Try.ntmps21
  go_wp2
  go_ret
  exact ⟨⟨_, rfl, by decide +kernel⟩, rfl⟩
set_option maxRecDepth 100000 in
set_option maxHeartbeats 1000000 in
theorem list72 (w : World) : Calls Try.prog 21 #[.int .i64 72] w fun e w' => (∃ s : ByteArray, e = .returned (.string s) ∧ s.data.toList = dig4 (tab 72)) ∧ w' = w := by
  go_enter Try.func21, Try.ntmps21
  go_wp2
  go_ret
  exact ⟨⟨_, rfl, by decide +kernel⟩, rfl⟩
set_option maxRecDepth 100000 in
set_option maxHeartbeats 1000000 in
theorem list_none (k : Int) (w : World) (h70 : ¬ k = 70) (h71 : ¬ k = 71) (h72 : ¬ k = 72) : Calls Try.prog 21 #[.int .i64 k] w fun e w' => e = .returned (.string ⟨#[]⟩) ∧ w' = w := by
  have b70 : (k == 70) = false := by simpa using h70
  have b71 : (k == 71) = false := by simpa using h71
  have b72 : (k == 72) = false := by simpa using h72
  go_enter Try.func21, Try.ntmps21
  go_wp2
  go_ret
  exact ⟨rfl, rfl⟩
end Go.Proofs.Ytliaadlanpfjbaa.C12

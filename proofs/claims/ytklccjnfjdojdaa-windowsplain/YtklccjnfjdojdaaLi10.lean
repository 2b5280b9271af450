/- The document's list of a kind: a walk. -/
import Derived.Test.YtklccjnfjdojdaaRows
import Derived.WalkKit
import Derived.ProofKit
import Derived.Test.YtklccjnfjdojdaaIl10
namespace Go.Proofs.Ytklccjnfjdojdaa.C10
open Go.ChangeShapes Go.WideShapes Go.ChangeAt Go.RowKit
set_option linter.unusedVariables false
set_option linter.unusedSimpArgs false

set_option maxRecDepth 100000 in
set_option maxHeartbeats 1000000 in
theorem list40 (w : World) : Calls Try.prog 20 #[.int .i64 40] w fun e w' => (∃ s : ByteArray, e = .returned (.string s) ∧ s.data.toList = dig4 (tab 40)) ∧ w' = w := by
  go_enter Try.func20, Try.ntmps20
  go_wp2
  go_ret
  exact ⟨⟨_, rfl, by decide +kernel⟩, rfl⟩
set_option maxRecDepth 100000 in
set_option maxHeartbeats 1000000 in
theorem list41 (w : World) : Calls Try.prog 20 #[.int .i64 41] w fun e w' => (∃ s : ByteArray, e = .returned (.string s) ∧ s.data.toList = dig4 (tab 41)) ∧ w' = w := by
  go_enter Try.func20, Try.ntmps20
  go_wp2
  go_ret
  exact ⟨⟨_, rfl, by decide +kernel⟩, rfl⟩
set_option maxRecDepth 100000 in
set_option maxHeartbeats 1000000 in
theorem list50 (w : World) : Calls Try.prog 20 #[.int .i64 50] w fun e w' => (∃ s : ByteArray, e = .returned (.string s) ∧ s.data.toList = dig4 (tab 50)) ∧ w' = w := by
  go_enter Try.func20, Try.ntmps20
  go_wp2
  go_ret
  exact ⟨⟨_, rfl, by decide +kernel⟩, rfl⟩
set_option maxRecDepth 100000 in
set_option maxHeartbeats 1000000 in
theorem list51 (w : World) : Calls Try.prog 20 #[.int .i64 51] w fun e w' => (∃ s : ByteArray, e = .returned (.string s) ∧ s.data.toList = dig4 (tab 51)) ∧ w' = w := by
  go_enter Try.func20, Try.ntmps20
  go_wp2
  go_ret
  exact ⟨⟨_, rfl, by decide +kernel⟩, rfl⟩
set_option maxRecDepth 100000 in
set_option maxHeartbeats 1000000 in
theorem list52 (w : World) : Calls Try.prog 20 #[.int .i64 52] w fun e w' => (∃ s : ByteArray, e = .returned (.string s) ∧ s.data.toList = dig4 (tab 52)) ∧ w' = w := by
  go_enter Try.func20, Try.ntmps20
  go_wp2
  go_ret
  exact ⟨⟨_, rfl, by decide +kernel⟩, rfl⟩
set_option maxRecDepth 100000 in
set_option maxHeartbeats 1000000 in
theorem list53 (w : World) : Calls Try.prog 20 #[.int .i64 53] w fun e w' => (∃ s : ByteArray, e = .returned (.string s) ∧ s.data.toList = dig4 (tab 53)) ∧ w' = w := by
  go_enter Try.func20, Try.ntmps20
  go_wp2
  go_ret
  exact ⟨⟨_, rfl, by decide +kernel⟩, rfl⟩
set_option maxRecDepth 100000 in
set_option maxHeartbeats 1000000 in
theorem list54 (w : World) : Calls Try.prog 20 #[.int .i64 54] w fun e w' => (∃ s : ByteArray, e = .returned (.string s) ∧ s.data.toList = dig4 (tab 54)) ∧ w' = w := by
  go_enter Try.func20, Try.ntmps20
  go_wp2
  go_ret
  exact ⟨⟨_, rfl, by decide +kernel⟩, rfl⟩
set_option maxRecDepth 100000 in
set_option maxHeartbeats 1000000 in
theorem list55 (w : World) : Calls Try.prog 20 #[.int .i64 55] w fun e w' => (∃ s : ByteArray, e = .returned (.string s) ∧ s.data.toList = dig4 (tab 55)) ∧ w' = w := by
  go_enter Try.func20, Try.ntmps20
  go_wp2
  go_ret
  exact ⟨⟨_, rfl, by decide +kernel⟩, rfl⟩
set_option maxRecDepth 100000 in
set_option maxHeartbeats 1000000 in
theorem list56 (w : World) : Calls Try.prog 20 #[.int .i64 56] w fun e w' => (∃ s : ByteArray, e = .returned (.string s) ∧ s.data.toList = dig4 (tab 56)) ∧ w' = w := by
  go_enter Try.func20, Try.ntmps20
  go_wp2
  go_ret
  exact ⟨⟨_, rfl, by decide +kernel⟩, rfl⟩
set_option maxRecDepth 100000 in
set_option maxHeartbeats 1000000 in
theorem list57 (w : World) : Calls Try.prog 20 #[.int .i64 57] w fun e w' => (∃ s : ByteArray, e = .returned (.string s) ∧ s.data.toList = dig4 (tab 57)) ∧ w' = w := by
  go_enter Try.func20, Try.ntmps20
  go_wp2
  go_ret
  exact ⟨⟨_, rfl, by decide +kernel⟩, rfl⟩
set_option maxRecDepth 100000 in
set_option maxHeartbeats 1000000 in
theorem list_none (k : Int) (w : World) (h40 : ¬ k = 40) (h41 : ¬ k = 41) (h50 : ¬ k = 50) (h51 : ¬ k = 51) (h52 : ¬ k = 52) (h53 : ¬ k = 53) (h54 : ¬ k = 54) (h55 : ¬ k = 55) (h56 : ¬ k = 56) (h57 : ¬ k = 57) : Calls Try.prog 20 #[.int .i64 k] w fun e w' => e = .returned (.string ⟨#[]⟩) ∧ w' = w := by
  have b40 : (k == 40) = false := by simpa using h40
  have b41 : (k == 41) = false := by simpa using h41
  have b50 : (k == 50) = false := by simpa using h50
  have b51 : (k == 51) = false := by simpa using h51
  have b52 : (k == 52) = false := by simpa using h52
  have b53 : (k == 53) = false := by simpa using h53
  have b54 : (k == 54) = false := by simpa using h54
  have b55 : (k == 55) = false := by simpa using h55
  have b56 : (k == 56) = false := by simpa using h56
  have b57 : (k == 57) = false := by simpa using h57
  go_enter Try.func20, Try.ntmps20
  go_wp2
  go_ret
  exact ⟨rfl, rfl⟩
end Go.Proofs.Ytklccjnfjdojdaa.C10

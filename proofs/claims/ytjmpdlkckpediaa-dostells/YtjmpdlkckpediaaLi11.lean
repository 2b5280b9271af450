/- The document's list of a kind: a walk. -/
import Derived.Test.YtjmpdlkckpediaaRows
import Derived.WalkKit
import Derived.ProofKit
import Derived.Test.YtjmpdlkckpediaaIl11
namespace Go.Proofs.Ytjmpdlkckpediaa.C11
open Go.ChangeShapes Go.WideShapes Go.ChangeAt Go.RowKit
set_option linter.unusedVariables false
set_option linter.unusedSimpArgs false

set_option maxRecDepth 100000 in
set_option maxHeartbeats 1000000 in
theorem list60 (w : World) : Calls Try.prog 20 #[.int .i64 60] w fun e w' => (∃ s : ByteArray, e = .returned (.string s) ∧ s.data.toList = dig4 (tab 60)) ∧ w' = w := by
  go_enter Try.func20, Try.ntmps20
  go_wp2
  go_ret
  exact ⟨⟨_, rfl, by decide +kernel⟩, rfl⟩
set_option maxRecDepth 100000 in
set_option maxHeartbeats 1000000 in
theorem list61 (w : World) : Calls Try.prog 20 #[.int .i64 61] w fun e w' => (∃ s : ByteArray, e = .returned (.string s) ∧ s.data.toList = dig4 (tab 61)) ∧ w' = w := by
  go_enter Try.func20, Try.ntmps20
  go_wp2
  go_ret
  exact ⟨⟨_, rfl, by decide +kernel⟩, rfl⟩
set_option maxRecDepth 100000 in
set_option maxHeartbeats 1000000 in
theorem list62 (w : World) : Calls Try.prog 20 #[.int .i64 62] w fun e w' => (∃ s : ByteArray, e = .returned (.string s) ∧ s.data.toList = dig4 (tab 62)) ∧ w' = w := by
  go_enter Try.func20, Try.ntmps20
  go_wp2
  go_ret
  exact ⟨⟨_, rfl, by decide +kernel⟩, rfl⟩
set_option maxRecDepth 100000 in
set_option maxHeartbeats 1000000 in
theorem list63 (w : World) : Calls Try.prog 20 #[.int .i64 63] w fun e w' => (∃ s : ByteArray, e = .returned (.string s) ∧ s.data.toList = dig4 (tab 63)) ∧ w' = w := by
  go_enter Try.func20, Try.ntmps20
  go_wp2
  go_ret
  exact ⟨⟨_, rfl, by decide +kernel⟩, rfl⟩
set_option maxRecDepth 100000 in
set_option maxHeartbeats 1000000 in
theorem list64 (w : World) : Calls Try.prog 20 #[.int .i64 64] w fun e w' => (∃ s : ByteArray, e = .returned (.string s) ∧ s.data.toList = dig4 (tab 64)) ∧ w' = w := by
  go_enter Try.func20, Try.ntmps20
  go_wp2
  go_ret
  exact ⟨⟨_, rfl, by decide +kernel⟩, rfl⟩
set_option maxRecDepth 100000 in
set_option maxHeartbeats 1000000 in
theorem list65 (w : World) : Calls Try.prog 20 #[.int .i64 65] w fun e w' => (∃ s : ByteArray, e = .returned (.string s) ∧ s.data.toList = dig4 (tab 65)) ∧ w' = w := by
  go_enter Try.func20, Try.ntmps20
  go_wp2
  go_ret
  exact ⟨⟨_, rfl, by decide +kernel⟩, rfl⟩
set_option maxRecDepth 100000 in
set_option maxHeartbeats 1000000 in
theorem list66 (w : World) : Calls Try.prog 20 #[.int .i64 66] w fun e w' => (∃ s : ByteArray, e = .returned (.string s) ∧ s.data.toList = dig4 (tab 66)) ∧ w' = w := by
  go_enter Try.func20, Try.ntmps20
  go_wp2
  go_ret
  exact ⟨⟨_, rfl, by decide +kernel⟩, rfl⟩
set_option maxRecDepth 100000 in
set_option maxHeartbeats 1000000 in
theorem list_none (k : Int) (w : World) (h60 : ¬ k = 60) (h61 : ¬ k = 61) (h62 : ¬ k = 62) (h63 : ¬ k = 63) (h64 : ¬ k = 64) (h65 : ¬ k = 65) (h66 : ¬ k = 66) : Calls Try.prog 20 #[.int .i64 k] w fun e w' => e = .returned (.string ⟨#[]⟩) ∧ w' = w := by
  have b60 : (k == 60) = false := by simpa using h60
  have b61 : (k == 61) = false := by simpa using h61
  have b62 : (k == 62) = false := by simpa using h62
  have b63 : (k == 63) = false := by simpa using h63
  have b64 : (k == 64) = false := by simpa using h64
  have b65 : (k == 65) = false := by simpa using h65
  have b66 : (k == 66) = false := by simpa using h66
  go_enter Try.func20, Try.ntmps20
  go_wp2
  go_ret
  exact ⟨rfl, rfl⟩
end Go.Proofs.Ytjmpdlkckpediaa.C11

/- The document's list of a kind: a walk. -/
import Derived.Test.YtdobjijebalkkaaRows
import Derived.WalkKit
import Derived.ProofKit
import Derived.Test.YtdobjijebalkkaaRI16
namespace Go.Proofs.Ytdobjijebalkkaa.C16
open Go.ChangeShapes Go.WideShapes Go.ChangeAt Go.RowKit
set_option linter.unusedVariables false
set_option linter.unusedSimpArgs false

set_option maxRecDepth 100000 in
set_option maxHeartbeats 1000000 in
theorem list1 (w : World) : Calls Try.prog 59 #[.int .i64 1] w fun e w' => (∃ s : ByteArray, e = .returned (.string s) ∧ s.data.toList = dig4 (tab 1)) ∧ w' = w := by
  go_enter Try.func59, Try.ntmps59
  go_wp2
  go_ret
  exact ⟨⟨_, rfl, by decide +kernel⟩, rfl⟩
set_option maxRecDepth 100000 in
set_option maxHeartbeats 1000000 in
theorem list2 (w : World) : Calls Try.prog 59 #[.int .i64 2] w fun e w' => (∃ s : ByteArray, e = .returned (.string s) ∧ s.data.toList = dig4 (tab 2)) ∧ w' = w := by
  go_enter Try.func59, Try.ntmps59
  go_wp2
  go_ret
  exact ⟨⟨_, rfl, by decide +kernel⟩, rfl⟩
set_option maxRecDepth 100000 in
set_option maxHeartbeats 1000000 in
theorem list3 (w : World) : Calls Try.prog 59 #[.int .i64 3] w fun e w' => (∃ s : ByteArray, e = .returned (.string s) ∧ s.data.toList = dig4 (tab 3)) ∧ w' = w := by
  go_enter Try.func59, Try.ntmps59
  go_wp2
  go_ret
  exact ⟨⟨_, rfl, by decide +kernel⟩, rfl⟩
set_option maxRecDepth 100000 in
set_option maxHeartbeats 1000000 in
theorem list4 (w : World) : Calls Try.prog 59 #[.int .i64 4] w fun e w' => (∃ s : ByteArray, e = .returned (.string s) ∧ s.data.toList = dig4 (tab 4)) ∧ w' = w := by
  go_enter Try.func59, Try.ntmps59
  go_wp2
  go_ret
  exact ⟨⟨_, rfl, by decide +kernel⟩, rfl⟩
set_option maxRecDepth 100000 in
set_option maxHeartbeats 1000000 in
theorem list5 (w : World) : Calls Try.prog 59 #[.int .i64 5] w fun e w' => (∃ s : ByteArray, e = .returned (.string s) ∧ s.data.toList = dig4 (tab 5)) ∧ w' = w := by
  go_enter Try.func59, Try.ntmps59
  go_wp2
  go_ret
  exact ⟨⟨_, rfl, by decide +kernel⟩, rfl⟩
set_option maxRecDepth 100000 in
set_option maxHeartbeats 1000000 in
theorem list6 (w : World) : Calls Try.prog 59 #[.int .i64 6] w fun e w' => (∃ s : ByteArray, e = .returned (.string s) ∧ s.data.toList = dig4 (tab 6)) ∧ w' = w := by
  go_enter Try.func59, Try.ntmps59
  go_wp2
  go_ret
  exact ⟨⟨_, rfl, by decide +kernel⟩, rfl⟩
set_option maxRecDepth 100000 in
set_option maxHeartbeats 1000000 in
theorem list7 (w : World) : Calls Try.prog 59 #[.int .i64 7] w fun e w' => (∃ s : ByteArray, e = .returned (.string s) ∧ s.data.toList = dig4 (tab 7)) ∧ w' = w := by
  go_enter Try.func59, Try.ntmps59
  go_wp2
  go_ret
  exact ⟨⟨_, rfl, by decide +kernel⟩, rfl⟩
set_option maxRecDepth 100000 in
set_option maxHeartbeats 1000000 in
theorem list8 (w : World) : Calls Try.prog 59 #[.int .i64 8] w fun e w' => (∃ s : ByteArray, e = .returned (.string s) ∧ s.data.toList = dig4 (tab 8)) ∧ w' = w := by
  go_enter Try.func59, Try.ntmps59
  go_wp2
  go_ret
  exact ⟨⟨_, rfl, by decide +kernel⟩, rfl⟩
set_option maxRecDepth 100000 in
set_option maxHeartbeats 1000000 in
theorem list9 (w : World) : Calls Try.prog 59 #[.int .i64 9] w fun e w' => (∃ s : ByteArray, e = .returned (.string s) ∧ s.data.toList = dig4 (tab 9)) ∧ w' = w := by
  go_enter Try.func59, Try.ntmps59
  go_wp2
  go_ret
  exact ⟨⟨_, rfl, by decide +kernel⟩, rfl⟩
set_option maxRecDepth 100000 in
set_option maxHeartbeats 1000000 in
theorem list10 (w : World) : Calls Try.prog 59 #[.int .i64 10] w fun e w' => (∃ s : ByteArray, e = .returned (.string s) ∧ s.data.toList = dig4 (tab 10)) ∧ w' = w := by
  go_enter Try.func59, Try.ntmps59
  go_wp2
  go_ret
  exact ⟨⟨_, rfl, by decide +kernel⟩, rfl⟩
set_option maxRecDepth 100000 in
set_option maxHeartbeats 1000000 in
theorem list11 (w : World) : Calls Try.prog 59 #[.int .i64 11] w fun e w' => (∃ s : ByteArray, e = .returned (.string s) ∧ s.data.toList = dig4 (tab 11)) ∧ w' = w := by
  go_enter Try.func59, Try.ntmps59
  go_wp2
  go_ret
  exact ⟨⟨_, rfl, by decide +kernel⟩, rfl⟩
set_option maxRecDepth 100000 in
set_option maxHeartbeats 1000000 in
theorem list12 (w : World) : Calls Try.prog 59 #[.int .i64 12] w fun e w' => (∃ s : ByteArray, e = .returned (.string s) ∧ s.data.toList = dig4 (tab 12)) ∧ w' = w := by
  go_enter Try.func59, Try.ntmps59
  go_wp2
  go_ret
  exact ⟨⟨_, rfl, by decide +kernel⟩, rfl⟩
set_option maxRecDepth 100000 in
set_option maxHeartbeats 1000000 in
theorem list16 (w : World) : Calls Try.prog 59 #[.int .i64 16] w fun e w' => (∃ s : ByteArray, e = .returned (.string s) ∧ s.data.toList = dig4 (tab 16)) ∧ w' = w := by
  go_enter Try.func59, Try.ntmps59
  go_wp2
  go_ret
  exact ⟨⟨_, rfl, by decide +kernel⟩, rfl⟩
set_option maxRecDepth 100000 in
set_option maxHeartbeats 1000000 in
theorem list42 (w : World) : Calls Try.prog 59 #[.int .i64 42] w fun e w' => (∃ s : ByteArray, e = .returned (.string s) ∧ s.data.toList = dig4 (tab 42)) ∧ w' = w := by
  go_enter Try.func59, Try.ntmps59
  go_wp2
  go_ret
  exact ⟨⟨_, rfl, by decide +kernel⟩, rfl⟩
set_option maxRecDepth 100000 in
set_option maxHeartbeats 1000000 in
theorem list_none (k : Int) (w : World) (h1 : ¬ k = 1) (h2 : ¬ k = 2) (h3 : ¬ k = 3) (h4 : ¬ k = 4) (h5 : ¬ k = 5) (h6 : ¬ k = 6) (h7 : ¬ k = 7) (h8 : ¬ k = 8) (h9 : ¬ k = 9) (h10 : ¬ k = 10) (h11 : ¬ k = 11) (h12 : ¬ k = 12) (h16 : ¬ k = 16) (h42 : ¬ k = 42) : Calls Try.prog 59 #[.int .i64 k] w fun e w' => e = .returned (.string ⟨#[]⟩) ∧ w' = w := by
  have b1 : (k == 1) = false := by simpa using h1
  have b2 : (k == 2) = false := by simpa using h2
  have b3 : (k == 3) = false := by simpa using h3
  have b4 : (k == 4) = false := by simpa using h4
  have b5 : (k == 5) = false := by simpa using h5
  have b6 : (k == 6) = false := by simpa using h6
  have b7 : (k == 7) = false := by simpa using h7
  have b8 : (k == 8) = false := by simpa using h8
  have b9 : (k == 9) = false := by simpa using h9
  have b10 : (k == 10) = false := by simpa using h10
  have b11 : (k == 11) = false := by simpa using h11
  have b12 : (k == 12) = false := by simpa using h12
  have b16 : (k == 16) = false := by simpa using h16
  have b42 : (k == 42) = false := by simpa using h42
  go_enter Try.func59, Try.ntmps59
  go_wp2
  go_ret
  exact ⟨rfl, rfl⟩
end Go.Proofs.Ytdobjijebalkkaa.C16

/- The document's list of a kind: a walk. -/
import Derived.Test.YtdobjijebalkkaaRows
import Derived.WalkKit
import Derived.ProofKit
import Derived.Test.YtdobjijebalkkaaRI14
namespace Go.Proofs.Ytdobjijebalkkaa.C14
open Go.ChangeShapes Go.WideShapes Go.ChangeAt Go.RowKit
set_option linter.unusedVariables false
set_option linter.unusedSimpArgs false

set_option maxRecDepth 100000 in
set_option maxHeartbeats 1000000 in
theorem list1 (w : World) : Calls Try.prog 48 #[.int .i64 1] w fun e w' => (∃ s : ByteArray, e = .returned (.string s) ∧ s.data.toList = dig4 (tab 1)) ∧ w' = w := by
  go_enter Try.func48, Try.ntmps48
  go_wp2
  go_ret
  exact ⟨⟨_, rfl, by decide +kernel⟩, rfl⟩
set_option maxRecDepth 100000 in
set_option maxHeartbeats 1000000 in
theorem list2 (w : World) : Calls Try.prog 48 #[.int .i64 2] w fun e w' => (∃ s : ByteArray, e = .returned (.string s) ∧ s.data.toList = dig4 (tab 2)) ∧ w' = w := by
  go_enter Try.func48, Try.ntmps48
  go_wp2
  go_ret
  exact ⟨⟨_, rfl, by decide +kernel⟩, rfl⟩
set_option maxRecDepth 100000 in
set_option maxHeartbeats 1000000 in
theorem list3 (w : World) : Calls Try.prog 48 #[.int .i64 3] w fun e w' => (∃ s : ByteArray, e = .returned (.string s) ∧ s.data.toList = dig4 (tab 3)) ∧ w' = w := by
  go_enter Try.func48, Try.ntmps48
  go_wp2
  go_ret
  exact ⟨⟨_, rfl, by decide +kernel⟩, rfl⟩
set_option maxRecDepth 100000 in
set_option maxHeartbeats 1000000 in
theorem list4 (w : World) : Calls Try.prog 48 #[.int .i64 4] w fun e w' => (∃ s : ByteArray, e = .returned (.string s) ∧ s.data.toList = dig4 (tab 4)) ∧ w' = w := by
  go_enter Try.func48, Try.ntmps48
  go_wp2
  go_ret
  exact ⟨⟨_, rfl, by decide +kernel⟩, rfl⟩
set_option maxRecDepth 100000 in
set_option maxHeartbeats 1000000 in
theorem list5 (w : World) : Calls Try.prog 48 #[.int .i64 5] w fun e w' => (∃ s : ByteArray, e = .returned (.string s) ∧ s.data.toList = dig4 (tab 5)) ∧ w' = w := by
  go_enter Try.func48, Try.ntmps48
  go_wp2
  go_ret
  exact ⟨⟨_, rfl, by decide +kernel⟩, rfl⟩
set_option maxRecDepth 100000 in
set_option maxHeartbeats 1000000 in
theorem list6 (w : World) : Calls Try.prog 48 #[.int .i64 6] w fun e w' => (∃ s : ByteArray, e = .returned (.string s) ∧ s.data.toList = dig4 (tab 6)) ∧ w' = w := by
  go_enter Try.func48, Try.ntmps48
  go_wp2
  go_ret
  exact ⟨⟨_, rfl, by decide +kernel⟩, rfl⟩
set_option maxRecDepth 100000 in
set_option maxHeartbeats 1000000 in
theorem list7 (w : World) : Calls Try.prog 48 #[.int .i64 7] w fun e w' => (∃ s : ByteArray, e = .returned (.string s) ∧ s.data.toList = dig4 (tab 7)) ∧ w' = w := by
  go_enter Try.func48, Try.ntmps48
  go_wp2
  go_ret
  exact ⟨⟨_, rfl, by decide +kernel⟩, rfl⟩
set_option maxRecDepth 100000 in
set_option maxHeartbeats 1000000 in
theorem list8 (w : World) : Calls Try.prog 48 #[.int .i64 8] w fun e w' => (∃ s : ByteArray, e = .returned (.string s) ∧ s.data.toList = dig4 (tab 8)) ∧ w' = w := by
  go_enter Try.func48, Try.ntmps48
  go_wp2
  go_ret
  exact ⟨⟨_, rfl, by decide +kernel⟩, rfl⟩
set_option maxRecDepth 100000 in
set_option maxHeartbeats 1000000 in
theorem list16 (w : World) : Calls Try.prog 48 #[.int .i64 16] w fun e w' => (∃ s : ByteArray, e = .returned (.string s) ∧ s.data.toList = dig4 (tab 16)) ∧ w' = w := by
  go_enter Try.func48, Try.ntmps48
  go_wp2
  go_ret
  exact ⟨⟨_, rfl, by decide +kernel⟩, rfl⟩
set_option maxRecDepth 100000 in
set_option maxHeartbeats 1000000 in
theorem list_none (k : Int) (w : World) (h1 : ¬ k = 1) (h2 : ¬ k = 2) (h3 : ¬ k = 3) (h4 : ¬ k = 4) (h5 : ¬ k = 5) (h6 : ¬ k = 6) (h7 : ¬ k = 7) (h8 : ¬ k = 8) (h16 : ¬ k = 16) : Calls Try.prog 48 #[.int .i64 k] w fun e w' => e = .returned (.string ⟨#[]⟩) ∧ w' = w := by
  have b1 : (k == 1) = false := by simpa using h1
  have b2 : (k == 2) = false := by simpa using h2
  have b3 : (k == 3) = false := by simpa using h3
  have b4 : (k == 4) = false := by simpa using h4
  have b5 : (k == 5) = false := by simpa using h5
  have b6 : (k == 6) = false := by simpa using h6
  have b7 : (k == 7) = false := by simpa using h7
  have b8 : (k == 8) = false := by simpa using h8
  have b16 : (k == 16) = false := by simpa using h16
  go_enter Try.func48, Try.ntmps48
  go_wp2
  go_ret
  exact ⟨rfl, rfl⟩
end Go.Proofs.Ytdobjijebalkkaa.C14

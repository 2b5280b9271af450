/- What the document's digit, Hex and Bytes answer: walks. -/
import Derived.Test.YtphnkcnpbhndlaaRows
import Derived.WalkKit
import Derived.ProofKit
import Derived.Test.YtphnkcnpbhndlaaMem
import Derived.Test.YtphnkcnpbhndlaaSP26
namespace Go.Proofs.Ytphnkcnpbhndlaa.C26
open Go.ChangeShapes Go.WideShapes Go.ChangeAt Go.RowKit Go.Proofs.Ytphnkcnpbhndlaa.Mem
set_option linter.unusedVariables false
set_option linter.unusedSimpArgs false

theorem digit_any (c : Nat) (hc : c < 256) (v : Int) (hv : Hid (vl c = v)) (w : World) : Calls Try.prog 11 #[.int .u8 (c : Int)] w fun e w' => e = .returned (.int .i64 v) ∧ w' = w := by
  by_cases h1 : 48 ≤ c ∧ c ≤ 57
  · have e : v = (c : Int) - 48 := by rw [← hv.out]; unfold vl; rw [if_pos h1]
    subst e
    have f1 : (48 : Int) ≤ (c : Int) := by omega
    have f2 : (c : Int) ≤ 57 := by omega
    have f3 : IntKind.u8.wrap ((c : Int) - 48) = (c : Int) - 48 := by rw [IntKind.wrap_u8]; omega
    clear hv h1
    go_enter Try.func11, Try.ntmps11
    go_wp2
    go_ret
    exact ⟨rfl, rfl⟩
  · by_cases h2 : 65 ≤ c ∧ c ≤ 70
    · have e : v = (c : Int) - 55 := by rw [← hv.out]; unfold vl; rw [if_neg h1, if_pos h2]
      subst e
      have f0 : (48 : Int) ≤ (c : Int) := by omega
      have f1 : (65 : Int) ≤ (c : Int) := by omega
      have f2 : (c : Int) ≤ 70 := by omega
      have f4 : ¬ (c : Int) ≤ 57 := by omega
      have f3 : IntKind.u8.wrap ((c : Int) - 65) = (c : Int) - 65 := by rw [IntKind.wrap_u8]; omega
      have f5 : (c : Int) - 65 + 10 = (c : Int) - 55 := by omega
      clear hv h1 h2
      go_enter Try.func11, Try.ntmps11
      go_wp2
      go_ret
      exact ⟨rfl, rfl⟩
    · by_cases h3 : 97 ≤ c ∧ c ≤ 102
      · have e : v = (c : Int) - 87 := by rw [← hv.out]; unfold vl; rw [if_neg h1, if_neg h2, if_pos h3]
        subst e
        have f0 : (48 : Int) ≤ (c : Int) := by omega
        have f1 : (65 : Int) ≤ (c : Int) := by omega
        have f2 : ¬ (c : Int) ≤ 70 := by omega
        have f4 : ¬ (c : Int) ≤ 57 := by omega
        have f6 : (97 : Int) ≤ (c : Int) := by omega
        have f7 : (c : Int) ≤ 102 := by omega
        have f3 : IntKind.u8.wrap ((c : Int) - 97) = (c : Int) - 97 := by rw [IntKind.wrap_u8]; omega
        have f5 : (c : Int) - 97 + 10 = (c : Int) - 87 := by omega
        clear hv h1 h2 h3
        go_enter Try.func11, Try.ntmps11
        go_wp2
        go_ret
        exact ⟨rfl, rfl⟩
      · have e : v = -1 := by rw [← hv.out]; unfold vl; rw [if_neg h1, if_neg h2, if_neg h3]
        subst e
        clear hv
        rcases (by omega : c < 48 ∨ (57 < c ∧ c < 65) ∨ (70 < c ∧ c < 97) ∨ 102 < c) with h | h | h | h
        · have f1 : ¬ (48 : Int) ≤ (c : Int) := by omega
          have f2 : ¬ (65 : Int) ≤ (c : Int) := by omega
          have f3 : ¬ (97 : Int) ≤ (c : Int) := by omega
          clear h1 h2 h3
          go_enter Try.func11, Try.ntmps11
          go_wp2
          go_ret
          exact ⟨rfl, rfl⟩
        · have f1 : (48 : Int) ≤ (c : Int) := by omega
          have f4 : ¬ (c : Int) ≤ 57 := by omega
          have f2 : ¬ (65 : Int) ≤ (c : Int) := by omega
          have f3 : ¬ (97 : Int) ≤ (c : Int) := by omega
          clear h1 h2 h3
          go_enter Try.func11, Try.ntmps11
          go_wp2
          go_ret
          exact ⟨rfl, rfl⟩
        · have f1 : (48 : Int) ≤ (c : Int) := by omega
          have f4 : ¬ (c : Int) ≤ 57 := by omega
          have f2 : (65 : Int) ≤ (c : Int) := by omega
          have f5 : ¬ (c : Int) ≤ 70 := by omega
          have f3 : ¬ (97 : Int) ≤ (c : Int) := by omega
          clear h1 h2 h3
          go_enter Try.func11, Try.ntmps11
          go_wp2
          go_ret
          exact ⟨rfl, rfl⟩
        · have f1 : (48 : Int) ≤ (c : Int) := by omega
          have f4 : ¬ (c : Int) ≤ 57 := by omega
          have f2 : (65 : Int) ≤ (c : Int) := by omega
          have f5 : ¬ (c : Int) ≤ 70 := by omega
          have f3 : (97 : Int) ≤ (c : Int) := by omega
          have f6 : ¬ (c : Int) ≤ 102 := by omega
          clear h1 h2 h3
          go_enter Try.func11, Try.ntmps11
          go_wp2
          go_ret
          exact ⟨rfl, rfl⟩
end Go.Proofs.Ytphnkcnpbhndlaa.C26

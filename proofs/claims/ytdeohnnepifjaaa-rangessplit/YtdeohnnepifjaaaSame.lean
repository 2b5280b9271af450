/- The document's Same and SamePairs of the same lists: walks. -/
import Derived.Test.YtdeohnnepifjaaaFind
namespace Go.Proofs.Ytdeohnnepifjaaa.Rn
open Go.ChangeShapes Go.WideShapes Go.ChangeAt Go.RowKit Go.Proofs.Ytdeohnnepifjaaa.Mem Go.Proofs.Ytdeohnnepifjaaa.Ucs Go.Proofs.Ytdeohnnepifjaaa.El
set_option linter.unusedVariables false
set_option linter.unusedSimpArgs false

set_option maxRecDepth 100000 in
set_option maxHeartbeats 2000000 in
theorem samePairs_eq (ao bo : Option Addr) (ca cb : Nat) (L : List Pr) (w : World) (hA : PE.Rd w ao L) (hB : PE.Rd w bo L) (h1 : L.length ≤ ca) (h2 : ca ≤ 9223372036854775807) (h3 : L.length ≤ cb) (h4 : cb ≤ 9223372036854775807) :
    Calls Try.prog 11 #[.slice ao L.length ca, .slice bo L.length cb] w fun e w' => e = .returned (.bool true) ∧ w.grownBy w' none := by
  have hA0 : Hid (PE.Rd w ao L) := hA
  have hB0 : Hid (PE.Rd w bo L) := hB
  clear hA hB
  have hl : L.length ≤ 9223372036854775807 := by omega
  go_enter Try.func11, Try.ntmps11
  go_wp2
  go_loopw [5] (fun t5 wx => ∃ i : Nat, i ≤ L.length ∧ t5 = .int .i64 (i : Int) ∧ Hid (w.grownBy wx none)) (fun t5 _ => L.length - (intOf t5).toNat)
  case atStart => exact ⟨0, by omega, rfl, grownBy_refl _ _⟩
  case round =>
    obtain ⟨i, hi, rfl, hgx⟩ := hrel
    by_cases hlt : i < L.length
    · obtain ⟨c, u, he⟩ : ∃ c u, L[i] = (c, u) := ⟨_, _, rfl⟩
      obtain ⟨b, o, rfl, hb, x0, x1⟩ := pcells (hA0.out.kept0 hgx.out) hlt he
      obtain ⟨b', o', rfl, hb', y0, y1⟩ := pcells (hB0.out.kept0 hgx.out) hlt he
      have hlt' : (i : Int) < (L.length : Int) := by omega
      have hi0 : (0 : Int) ≤ (i : Int) := by omega
      clear he
      go_wp2
      go_quiet (fail)
      go_wp2
      go_roundw
      case rel => exact ⟨i + 1, by omega, by go_num, gdn hgx.out⟩
      case measure => simp [intOf]; omega
    · obtain rfl : i = L.length := by omega
      go_wp2
      go_ret
      exact ⟨rfl, hgx.out⟩
set_option maxRecDepth 100000 in
set_option maxHeartbeats 2000000 in
theorem same_eq (ao bo : Option Addr) (ca cb : Nat) (L : List Rg) (w : World) (hA : RE.Rd w ao L) (hB : RE.Rd w bo L) (h1 : L.length ≤ ca) (h2 : ca ≤ 9223372036854775807) (h3 : L.length ≤ cb) (h4 : cb ≤ 9223372036854775807) :
    Calls Try.prog 10 #[.slice ao L.length ca, .slice bo L.length cb] w fun e w' => e = .returned (.bool true) ∧ w.grownBy w' none := by
  have hA0 : Hid (RE.Rd w ao L) := hA
  have hB0 : Hid (RE.Rd w bo L) := hB
  clear hA hB
  have hl : L.length ≤ 9223372036854775807 := by omega
  go_enter Try.func10, Try.ntmps10
  go_wp2
  go_loopw [5] (fun t5 wx => ∃ i : Nat, i ≤ L.length ∧ t5 = .int .i64 (i : Int) ∧ Hid (w.grownBy wx none)) (fun t5 _ => L.length - (intOf t5).toNat)
  case atStart => exact ⟨0, by omega, rfl, grownBy_refl _ _⟩
  case round =>
    obtain ⟨i, hi, rfl, hgx⟩ := hrel
    by_cases hlt : i < L.length
    · obtain ⟨f, t, a, he⟩ : ∃ f t a, L[i] = (f, t, a) := ⟨_, _, _, rfl⟩
      obtain ⟨b, o, rfl, hb, x0, x1, x2⟩ := rcells (hA0.out.kept0 hgx.out) hlt he
      obtain ⟨b', o', rfl, hb', y0, y1, y2⟩ := rcells (hB0.out.kept0 hgx.out) hlt he
      have hlt' : (i : Int) < (L.length : Int) := by omega
      have hi0 : (0 : Int) ≤ (i : Int) := by omega
      clear he
      go_wp2
      go_quiet (fail)
      go_wp2
      go_roundw
      case rel => exact ⟨i + 1, by omega, by go_num, gdn hgx.out⟩
      case measure => simp [intOf]; omega
    · obtain rfl : i = L.length := by omega
      go_wp2
      go_ret
      exact ⟨rfl, hgx.out⟩
end Go.Proofs.Ytdeohnnepifjaaa.Rn

/- The document's Same and SamePairs of the same lists: walks. -/
import Derived.Test.YtcoiddmgcoeocaaFind
namespace Go.Proofs.Ytcoiddmgcoeocaa.Rn
open Go.ChangeShapes Go.WideShapes Go.ChangeAt Go.RowKit Go.Proofs.Ytcoiddmgcoeocaa.Mem Go.Proofs.Ytcoiddmgcoeocaa.Ucs Go.Proofs.Ytcoiddmgcoeocaa.El
set_option linter.unusedVariables false
set_option linter.unusedSimpArgs false

set_option maxRecDepth 100000 in
set_option maxHeartbeats 2000000 in
theorem samePairs_eq (ao bo : Option Addr) (ca cb : Nat) (L : List Pr) (w : World) (hA : PE.Rd w ao L) (hB : PE.Rd w bo L) (h1 : L.length ≤ ca) (h2 : ca ≤ 9223372036854775807) (h3 : L.length ≤ cb) (h4 : cb ≤ 9223372036854775807) :
    Calls Try.prog 9 #[.slice ao L.length ca, .slice bo L.length cb] w fun e w' => e = .returned (.bool true) ∧ w.grownBy w' none := by
  have hA0 : Hid (PE.Rd w ao L) := hA
  have hB0 : Hid (PE.Rd w bo L) := hB
  clear hA hB
  have hl : L.length ≤ 9223372036854775807 := by omega
  go_enter Try.func9, Try.ntmps9
  go_wp2
  go_loopw [5] (fun t5 wx => ∃ i : Nat, i ≤ L.length ∧ t5 = .int .i64 (i : Int) ∧ Hid (w.grownBy wx none)) (fun t5 _ => L.length - (intOf t5).toNat)
  case atStart => exact ⟨0, by omega, rfl, grownBy_refl _ _⟩
  case round =>
    obtain ⟨i, hi, rfl, hgx⟩ := hrel
    by_cases hlt : i < L.length
    · obtain ⟨c, u, he⟩ : ∃ c u, L[i] = (c, u) := ⟨_, _, rfl⟩
      obtain ⟨b, o, rfl, hb, x0, x1⟩ := pcells (hA0.out.kept0 hgx.out) hlt he
      obtain ⟨b', o', rfl, hb', y0, y1⟩ := pcells (hB0.out.kept0 hgx.out) hlt he
      have hlt' : (i : Int) < (L.length : Int) := by omega
      have hi0 : (0 : Int) ≤ (i : Int) := by omega
      clear he
      go_wp2
      go_quiet (fail)
      go_wp2
      go_roundw
      case rel => exact ⟨i + 1, by omega, by go_num, gdn hgx.out⟩
      case measure => simp [intOf]; omega
    · obtain rfl : i = L.length := by omega
      go_wp2
      go_ret
      exact ⟨rfl, hgx.out⟩
end Go.Proofs.Ytcoiddmgcoeocaa.Rn

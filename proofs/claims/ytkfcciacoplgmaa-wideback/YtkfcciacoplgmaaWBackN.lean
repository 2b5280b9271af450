/- WideBack: walks where a number has no place, of the kinds with a mark. -/
import Derived.Test.YtkfcciacoplgmaaWBack1
import Derived.Deep.RegionHeld3
import Derived.BigQuiet
namespace Go.Proofs.Ytkfcciacoplgmaa.Wd
open Go.ChangeShapes Go.WideShapes Go.ChangeAt Go.RowKit Go.Proofs.Ytkfcciacoplgmaa.Mem Go.Proofs.Ytkfcciacoplgmaa.Ucs
set_option linter.unusedVariables false
set_option linter.unusedSimpArgs false

set_option maxRecDepth 100000 in
set_option maxHeartbeats 4000000 in
theorem back5_nosc (a0 a1 u md : Int) (hr : Hid (wrap64 ((IntKind.u64.wrap a0).tmod 8) = 2)) (hm : Hid (wrap64 ((IntKind.u64.wrap a1).tmod 3) = md)) (ao : Option Addr) (cap : Nat) (L : List UInt8) (w : World) (hB : Hid (Bytes w ao L)) (hLc : L.length ≤ cap) (hcm : cap ≤ 140737488351232) (hS : Hid (setR 5 md 0 0 0 u = ⟨11, [], 0⟩)) (hs : Hid (scB u = false)) : Calls Try.prog 5 #[.int .i64 a0, .int .i64 a1, .int .i32 u, .slice ao L.length cap] w fun e w' => e = .returned (.bool true) ∧ Below w.heap.size w w' := by
  have r' := hr.out
  have m' := hm.out
  clear hr hm
  go_enter Try.func5, Try.ntmps5
  go_wp2_with (first | (go_at_call 15; refine (works_any _).mono ?_; rintro e w1 ⟨rfl, hg1⟩) | (go_at_call 13; refine (set_lit 5 md 0 0 0 u _ 11 [] 0 hS.out ⟨#[]⟩ rfl).mono ?_; rintro e w2 ⟨rfl, hg2⟩) | (go_at_call 16; refine (scalarB_lit _ _ false hs.out).mono ?_; rintro e wq ⟨rfl, hw⟩; obtain rfl := hw))
  go_ret
  refine ⟨rfl, below_g ?_⟩
  (repeat (first | with_reducible exact grownBy_refl _ _ | (with_reducible refine gs ?_ ?_; first | omega | (simp; omega)) | with_reducible refine ga ?_ | with_reducible refine gd ?_ | with_reducible refine gdn ?_ | with_reducible refine gt ?_ (by assumption)))

set_option maxRecDepth 100000 in
set_option maxHeartbeats 4000000 in
theorem back8_nosc (a0 a1 u md : Int) (hr : Hid (wrap64 ((IntKind.u64.wrap a0).tmod 8) = 5)) (hm : Hid (wrap64 ((IntKind.u64.wrap a1).tmod 3) = md)) (ao : Option Addr) (cap : Nat) (L : List UInt8) (w : World) (hB : Hid (Bytes w ao L)) (hLc : L.length ≤ cap) (hcm : cap ≤ 140737488351232) (hS : Hid (setR 8 md 0 0 0 u = ⟨11, [], 0⟩)) (hs : Hid (scB u = false)) : Calls Try.prog 5 #[.int .i64 a0, .int .i64 a1, .int .i32 u, .slice ao L.length cap] w fun e w' => e = .returned (.bool true) ∧ Below w.heap.size w w' := by
  have r' := hr.out
  have m' := hm.out
  clear hr hm
  go_enter Try.func5, Try.ntmps5
  go_wp2_with (first | (go_at_call 15; refine (works_any _).mono ?_; rintro e w1 ⟨rfl, hg1⟩) | (go_at_call 13; refine (set_lit 8 md 0 0 0 u _ 11 [] 0 hS.out ⟨#[]⟩ rfl).mono ?_; rintro e w2 ⟨rfl, hg2⟩) | (go_at_call 16; refine (scalarB_lit _ _ false hs.out).mono ?_; rintro e wq ⟨rfl, hw⟩; obtain rfl := hw))
  go_ret
  refine ⟨rfl, below_g ?_⟩
  (repeat (first | with_reducible exact grownBy_refl _ _ | (with_reducible refine gs ?_ ?_; first | omega | (simp; omega)) | with_reducible refine ga ?_ | with_reducible refine gd ?_ | with_reducible refine gdn ?_ | with_reducible refine gt ?_ (by assumption)))
end Go.Proofs.Ytkfcciacoplgmaa.Wd

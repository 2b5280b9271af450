/- A scalar's units: walks. -/
import Derived.Test.YtkfcciacoplgmaaUnit
import Derived.Test.YtkfcciacoplgmaaStep
import Derived.Deep.RegionHeld3
import Derived.BigQuiet
namespace Go.Proofs.Ytkfcciacoplgmaa.Wd
open Go.ChangeShapes Go.WideShapes Go.ChangeAt Go.RowKit Go.Proofs.Ytkfcciacoplgmaa.Mem Go.Proofs.Ytkfcciacoplgmaa.Ucs
set_option linter.unusedVariables false
set_option linter.unusedSimpArgs false

theorem split_lit (u : Int) (w : World) (a b : Int) (ha : splitH u = a) (hb : splitL u = b) (hc : splitB u = true) : Calls Try.prog 42 #[.int .i32 u] w fun e w' => e = .returned (.tuple #[.int .i32 a, .int .i32 b, .bool true]) ∧ w' = w := by
  subst ha hb; have := split_any u w; rwa [hc] at this

set_option maxRecDepth 100000 in
set_option maxHeartbeats 4000000 in
theorem units_none (q : Nat) (low : Bool) (hq : Hid (q = fnOf low)) (p m : Bool) (w : World) (n : Nat) (u : Int) (hs : Hid (scB u = false)) :
    Calls Try.prog 29 #[.agg #[.int .i64 (n : Int), .bool p, .bool m, .func (.func q) #[] #[]], .int .i32 u] w fun e w' => e = .returned (.tuple #[.string ⟨#[]⟩, .bool false]) ∧ w.grownBy w' none := by
  go_enter Try.func29, Try.ntmps29
  go_wp2_with (first | (go_at_call 39; refine (scalar_lit _ _ false hs.out).mono ?_; rintro e w3 ⟨rfl, hw⟩; obtain rfl := hw))
  go_ret2
  refine ⟨rfl, ?_⟩
  (repeat (first | with_reducible exact grownBy_refl _ _ | (with_reducible refine gs ?_ ?_; first | omega | (simp; omega)) | with_reducible refine ga ?_ | with_reducible refine gd ?_ | with_reducible refine gdn ?_ | with_reducible refine gt ?_ (by assumption)))

set_option maxRecDepth 100000 in
set_option maxHeartbeats 4000000 in
theorem units_four (q : Nat) (low : Bool) (hq : Hid (q = fnOf low)) (p m : Bool) (w : World) (u : Nat) (hu : u < 2147483648) (hs : Hid (scB (u : Int) = true)) (s : ByteArray) (hS : Hid (str (unitB low 4 u) = s)) :
    Calls Try.prog 29 #[.agg #[.int .i64 4, .bool p, .bool m, .func (.func q) #[] #[]], .int .i32 (u : Int)] w fun e w' => e = .returned (.tuple #[.string s, .bool true]) ∧ w.grownBy w' none := by
  go_enter Try.func29, Try.ntmps29
  go_wp2_with (first | (go_at_call 39; refine (scalar_lit _ _ true hs.out).mono ?_; rintro e w3 ⟨rfl, hw⟩; obtain rfl := hw) | (go_at_call 30; refine (unit_any q low hq.out 4 (.inr rfl) p m u hu _ rfl _ s hS.out).mono ?_; rintro e w1 ⟨rfl, hg1⟩))
  go_ret2
  refine ⟨rfl, ?_⟩
  (repeat (first | with_reducible exact grownBy_refl _ _ | (with_reducible refine gs ?_ ?_; first | omega | (simp; omega)) | with_reducible refine ga ?_ | with_reducible refine gd ?_ | with_reducible refine gdn ?_ | with_reducible refine gt ?_ (by assumption)))

set_option maxRecDepth 100000 in
set_option maxHeartbeats 4000000 in
theorem units_two (q : Nat) (low : Bool) (hq : Hid (q = fnOf low)) (p m : Bool) (w : World) (u : Nat) (hu : u ≤ 65535) (hs : Hid (scB (u : Int) = true)) (s : ByteArray) (hS : Hid (str (unitB low 2 u) = s)) :
    Calls Try.prog 29 #[.agg #[.int .i64 2, .bool p, .bool m, .func (.func q) #[] #[]], .int .i32 (u : Int)] w fun e w' => e = .returned (.tuple #[.string s, .bool true]) ∧ w.grownBy w' none := by
  go_enter Try.func29, Try.ntmps29
  go_wp2_with (first | (go_at_call 39; refine (scalar_lit _ _ true hs.out).mono ?_; rintro e w3 ⟨rfl, hw⟩; obtain rfl := hw) | (go_at_call 30; refine (unit_any q low hq.out 2 (.inl rfl) p m u (by omega) _ rfl _ s hS.out).mono ?_; rintro e w1 ⟨rfl, hg1⟩))
  go_ret2
  refine ⟨rfl, ?_⟩
  (repeat (first | with_reducible exact grownBy_refl _ _ | (with_reducible refine gs ?_ ?_; first | omega | (simp; omega)) | with_reducible refine ga ?_ | with_reducible refine gd ?_ | with_reducible refine gdn ?_ | with_reducible refine gt ?_ (by assumption)))

set_option maxRecDepth 100000 in
set_option maxHeartbeats 4000000 in
theorem units_no (q : Nat) (low : Bool) (hq : Hid (q = fnOf low)) (p m : Bool) (w : World) (u : Nat) (hu : 65535 < u) (hs : Hid (scB (u : Int) = true)) :
    Calls Try.prog 29 #[.agg #[.int .i64 2, .bool false, .bool m, .func (.func q) #[] #[]], .int .i32 (u : Int)] w fun e w' => e = .returned (.tuple #[.string ⟨#[]⟩, .bool false]) ∧ w.grownBy w' none := by
  go_enter Try.func29, Try.ntmps29
  go_wp2_with (first | (go_at_call 39; refine (scalar_lit _ _ true hs.out).mono ?_; rintro e w3 ⟨rfl, hw⟩; obtain rfl := hw))
  go_ret2
  refine ⟨rfl, ?_⟩
  (repeat (first | with_reducible exact grownBy_refl _ _ | (with_reducible refine gs ?_ ?_; first | omega | (simp; omega)) | with_reducible refine ga ?_ | with_reducible refine gd ?_ | with_reducible refine gdn ?_ | with_reducible refine gt ?_ (by assumption)))

set_option maxRecDepth 100000 in
set_option maxHeartbeats 4000000 in
theorem units_pair (q : Nat) (low : Bool) (hq : Hid (q = fnOf low)) (p m : Bool) (w : World) (u : Nat) (hu : 65535 < u) (hs : Hid (scB (u : Int) = true)) (a b : Int) (ha : Hid (splitH (u : Int) = a)) (hb : Hid (splitL (u : Int) = b)) (hc : Hid (splitB (u : Int) = true)) (aN bN : Nat) (aL : aN ≤ 65535) (bL : bN ≤ 65535) (aE : Hid (a = (aN : Int))) (bE : Hid (b = (bN : Int))) (s t : ByteArray) (sE : Hid (str (unitB low 2 aN) = s)) (tE : Hid (str (unitB low 2 bN) = t)) (sz : s.size ≤ 2) (tz : t.size ≤ 2) :
    Calls Try.prog 29 #[.agg #[.int .i64 2, .bool true, .bool m, .func (.func q) #[] #[]], .int .i32 (u : Int)] w fun e w' => e = .returned (.tuple #[.string (s ++ t), .bool true]) ∧ w.grownBy w' none := by
  go_enter Try.func29, Try.ntmps29
  go_wp2_with (first | (go_at_call 39; refine (scalar_lit _ _ true hs.out).mono ?_; rintro e w3 ⟨rfl, hw⟩; obtain rfl := hw) | (go_at_call 42; refine (split_lit _ _ a b ha.out hb.out hc.out).mono ?_; rintro e w4 ⟨rfl, hw⟩; obtain rfl := hw))
  go_region_with (first | (go_at_call_of 30 (Value.int IntKind.i32 a); refine (unit_any q low hq.out 2 (.inl rfl) true m aN (by omega) _ aE.out _ s sE.out).mono ?_; rintro e w1 ⟨rfl, hg1⟩; obtain ⟨hc1, hf1⟩ := gcell hg1; have z1a : w.heap.size < w1.heap.size := (by have hsz := hg1.size; (try simp at hsz); omega); have y1a : w.heap.size ≤ w1.heap.size := (by omega)) | (go_at_call_of 30 (Value.int IntKind.i32 b); refine (unit_any q low hq.out 2 (.inl rfl) true m bN (by omega) _ bE.out _ t tE.out).mono ?_; rintro e w2 ⟨rfl, hg2⟩; obtain ⟨hc2, hf2⟩ := gcell hg2; have z2a : w.heap.size < w2.heap.size := (by have hsz := hg2.size; (try simp at hsz); omega); have y2a : w.heap.size ≤ w2.heap.size := (by omega)))
  all_goals go_wp2
  all_goals go_ret2
  all_goals refine ⟨rfl, ?_⟩
  all_goals (repeat (first | with_reducible exact grownBy_refl _ _ | (with_reducible refine gs ?_ ?_; first | omega | (simp; omega)) | with_reducible refine ga ?_ | with_reducible refine gd ?_ | with_reducible refine gdn ?_ | with_reducible refine gt ?_ (by assumption)))
end Go.Proofs.Ytkfcciacoplgmaa.Wd

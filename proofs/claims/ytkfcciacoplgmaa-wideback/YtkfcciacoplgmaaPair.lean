/- Two surrogates: walks. -/
import Derived.Test.YtkfcciacoplgmaaFits
import Derived.Test.YtkfcciacoplgmaaGot
namespace Go.Proofs.Ytkfcciacoplgmaa.Wd
open Go.ChangeShapes Go.WideShapes Go.ChangeAt Go.RowKit Go.Proofs.Ytkfcciacoplgmaa.Mem Go.Proofs.Ytkfcciacoplgmaa.Ucs
set_option linter.unusedVariables false
set_option linter.unusedSimpArgs false

theorem join_lit (a b : Int) (w : World) (t : Bool) (ht : joinB a b = t) (v : Int) (hv : joinV a b = v) : Calls Try.prog 43 #[.int .i32 a, .int .i32 b] w fun e w' => e = .returned (.tuple #[.int .i32 v, .bool t]) ∧ w' = w := by
  subst ht hv; exact join_any a b w

set_option maxRecDepth 100000 in
set_option maxHeartbeats 4000000 in
theorem pair_more (q : Nat) (low : Bool) (hq : Hid (q = fnOf low)) (p m : Bool) (u : Int) (ao : Option Addr) (len cap : Nat) (L : List UInt8) (w : World) (hB : Hid (Bytes w ao L)) (hlen : Hid (L.length = len)) (hx : len ≤ 140737488355328) (hl : len < 2) :
    Calls Try.prog 38 #[.agg #[.int .i64 2, .bool p, .bool m, .func (.func q) #[] #[]], .int .i32 u, .slice ao len cap] w fun e w' => e = .returned (gotS 1 0 0 0 0) ∧ w.grownBy w' none := by
  go_enter Try.func38, Try.ntmps38
  go_wp2
  refine bodyPost_ret (v := gotS 1 0 0 0 0) (by simp [results, Try.results38, go_sem]) rfl ⟨rfl, ?_⟩
  (repeat (first | with_reducible exact grownBy_refl _ _ | (with_reducible refine gs ?_ ?_; first | omega | (simp; omega)) | with_reducible refine ga ?_ | with_reducible refine gd ?_ | with_reducible refine gdn ?_ | with_reducible refine gt ?_ (by assumption)))

set_option maxRecDepth 100000 in
set_option maxHeartbeats 4000000 in
theorem pair_yes (q : Nat) (low : Bool) (hq : Hid (q = fnOf low)) (p m : Bool) (u : Int) (ao : Option Addr) (len cap : Nat) (L : List UInt8) (w : World) (hB : Hid (Bytes w ao L)) (hlen : Hid (L.length = len)) (hx : len ≤ 140737488355328) (hl : 2 ≤ len) (x y : Int) (hv : Hid (wrap32 (num low 2 L : Int) = x)) (hj : Hid (joinB u x = true)) (hjv : Hid (joinV u x = y)) :
    Calls Try.prog 38 #[.agg #[.int .i64 2, .bool p, .bool m, .func (.func q) #[] #[]], .int .i32 u, .slice ao len cap] w fun e w' => e = .returned (gotS 0 4 1 y 0) ∧ w.grownBy w' none := by
  go_enter Try.func38, Try.ntmps38
  go_wp2_with (first | (go_at_call 36; refine (number_any q low hq.out 2 p m (by omega) (by omega) _ len cap L _ ?_ hlen.out hl hx _ hv.out).mono ?_; exact hB.out.kept0 (by (repeat (first | with_reducible exact grownBy_refl _ _ | (with_reducible refine gs ?_ ?_; first | omega | (simp; omega)) | with_reducible refine ga ?_ | with_reducible refine gd ?_ | with_reducible refine gdn ?_ | with_reducible refine gt ?_ (by assumption)))); rintro e w1 ⟨rfl, hg1⟩; obtain ⟨hc1, hf1⟩ := gcell hg1; have z1a : w.heap.size < w1.heap.size := (by have hsz := hg1.size; (try simp at hsz); omega); have y1a : w.heap.size ≤ w1.heap.size := (by omega); have z1b : w.heap.size + 1 < w1.heap.size := (by have hsz := hg1.size; (try simp at hsz); omega); have y1b : w.heap.size + 1 ≤ w1.heap.size := (by omega)) | (go_at_call 43; refine (join_lit _ _ _ true hj.out y hjv.out).mono ?_; rintro e w2 ⟨rfl, hw⟩; obtain rfl := hw))
  refine bodyPost_ret (v := gotS 0 4 1 y 0) (by simp [results, Try.results38, go_sem, hc1, z1a, z1b, y1a, y1b]) rfl ⟨rfl, ?_⟩
  (repeat (first | with_reducible exact grownBy_refl _ _ | (with_reducible refine gs ?_ ?_; first | omega | (simp; omega)) | with_reducible refine ga ?_ | with_reducible refine gd ?_ | with_reducible refine gdn ?_ | with_reducible refine gt ?_ (by assumption)))

set_option maxRecDepth 100000 in
set_option maxHeartbeats 4000000 in
theorem pair_no (q : Nat) (low : Bool) (hq : Hid (q = fnOf low)) (p m : Bool) (u : Int) (ao : Option Addr) (len cap : Nat) (L : List UInt8) (w : World) (hB : Hid (Bytes w ao L)) (hlen : Hid (L.length = len)) (hx : len ≤ 140737488355328) (hl : 2 ≤ len) (x : Int) (hv : Hid (wrap32 (num low 2 L : Int) = x)) (hj : Hid (joinB u x = false)) (hjv : Hid (joinV u x = 0)) :
    Calls Try.prog 38 #[.agg #[.int .i64 2, .bool p, .bool m, .func (.func q) #[] #[]], .int .i32 u, .slice ao len cap] w fun e w' => e = .returned (gotS 10 2 0 0 0) ∧ w.grownBy w' none := by
  go_enter Try.func38, Try.ntmps38
  go_wp2_with (first | (go_at_call 36; refine (number_any q low hq.out 2 p m (by omega) (by omega) _ len cap L _ ?_ hlen.out hl hx _ hv.out).mono ?_; exact hB.out.kept0 (by (repeat (first | with_reducible exact grownBy_refl _ _ | (with_reducible refine gs ?_ ?_; first | omega | (simp; omega)) | with_reducible refine ga ?_ | with_reducible refine gd ?_ | with_reducible refine gdn ?_ | with_reducible refine gt ?_ (by assumption)))); rintro e w1 ⟨rfl, hg1⟩; obtain ⟨hc1, hf1⟩ := gcell hg1; have z1a : w.heap.size < w1.heap.size := (by have hsz := hg1.size; (try simp at hsz); omega); have y1a : w.heap.size ≤ w1.heap.size := (by omega); have z1b : w.heap.size + 1 < w1.heap.size := (by have hsz := hg1.size; (try simp at hsz); omega); have y1b : w.heap.size + 1 ≤ w1.heap.size := (by omega)) | (go_at_call 43; refine (join_lit _ _ _ false hj.out 0 hjv.out).mono ?_; rintro e w2 ⟨rfl, hw⟩; obtain rfl := hw))
  refine bodyPost_ret (v := gotS 10 2 0 0 0) (by simp [results, Try.results38, go_sem, hc1, z1a, z1b, y1a, y1b]) rfl ⟨rfl, ?_⟩
  (repeat (first | with_reducible exact grownBy_refl _ _ | (with_reducible refine gs ?_ ?_; first | omega | (simp; omega)) | with_reducible refine ga ?_ | with_reducible refine gd ?_ | with_reducible refine gdn ?_ | with_reducible refine gt ?_ (by assumption)))
end Go.Proofs.Ytkfcciacoplgmaa.Wd

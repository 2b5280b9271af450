/- The mark at the front: walks. -/
import Derived.Test.YtkfcciacoplgmaaFits
import Derived.Deep.RegionHeld3
import Derived.BigQuiet
namespace Go.Proofs.Ytkfcciacoplgmaa.Wd
open Go.ChangeShapes Go.WideShapes Go.ChangeAt Go.RowKit Go.Proofs.Ytkfcciacoplgmaa.Mem Go.Proofs.Ytkfcciacoplgmaa.Ucs
set_option linter.unusedVariables false
set_option linter.unusedSimpArgs false

set_option maxRecDepth 100000 in
set_option maxHeartbeats 4000000 in
theorem markAt_1 (q n : Nat) (p m : Bool) (h1 : 1 ≤ n) (h4 : n ≤ 4) (ao : Option Addr) (len cap : Nat) (L : List UInt8) (w : World) (hB : Hid (Bytes w ao L)) (hlen : Hid (L.length = len)) (hl : n ≤ len) (hx : len ≤ 140737488355328) (v1 : Hid (wrap32 (num false n L : Int) = 65279)) :
    Calls Try.prog 19 #[.agg #[.int .i64 (n : Int), .bool p, .bool m, .func (.func q) #[] #[]], .slice ao len cap] w fun e w' => e = .returned (.tuple #[.int .i64 1, .bool true]) ∧ w.grownBy w' none := by
  go_enter Try.func19, Try.ntmps19
  go_wp2_with fail
  go_at_call 36; refine (number_any 35 false rfl n p m h1 h4 _ len cap L _ ?_ hlen.out hl hx _ v1.out).mono ?_; exact hB.out.kept0 (by (repeat (first | with_reducible exact grownBy_refl _ _ | (with_reducible refine gs ?_ ?_; first | omega | (simp; omega)) | with_reducible refine ga ?_ | with_reducible refine gd ?_ | with_reducible refine gdn ?_ | with_reducible refine gt ?_ (by assumption)))); rintro e w1 ⟨rfl, hg1⟩; obtain ⟨hc1, hf1⟩ := gcell hg1; have z1a : w.heap.size < w1.heap.size := (by have hsz := hg1.size; (try simp at hsz); omega); have y1a : w.heap.size ≤ w1.heap.size := (by omega)
  go_wp2
  go_ret2
  refine ⟨rfl, ?_⟩
  (repeat (first | with_reducible exact grownBy_refl _ _ | (with_reducible refine gs ?_ ?_; first | omega | (simp; omega)) | with_reducible refine ga ?_ | with_reducible refine gd ?_ | with_reducible refine gdn ?_ | with_reducible refine gt ?_ (by assumption)))

set_option maxRecDepth 100000 in
set_option maxHeartbeats 4000000 in
theorem markAt_2 (q n : Nat) (p m : Bool) (h1 : 1 ≤ n) (h4 : n ≤ 4) (ao : Option Addr) (len cap : Nat) (L : List UInt8) (w : World) (hB : Hid (Bytes w ao L)) (hlen : Hid (L.length = len)) (hl : n ≤ len) (hx : len ≤ 140737488355328) (v : Int) (v1 : Hid (wrap32 (num false n L : Int) = v)) (hv : (v == 65279) = false) (v2 : Hid (wrap32 (num true n L : Int) = 65279)) :
    Calls Try.prog 19 #[.agg #[.int .i64 (n : Int), .bool p, .bool m, .func (.func q) #[] #[]], .slice ao len cap] w fun e w' => e = .returned (.tuple #[.int .i64 2, .bool true]) ∧ w.grownBy w' none := by
  go_enter Try.func19, Try.ntmps19
  go_wp2_with fail
  go_at_call 36; refine (number_any 35 false rfl n p m h1 h4 _ len cap L _ ?_ hlen.out hl hx _ v1.out).mono ?_; exact hB.out.kept0 (by (repeat (first | with_reducible exact grownBy_refl _ _ | (with_reducible refine gs ?_ ?_; first | omega | (simp; omega)) | with_reducible refine ga ?_ | with_reducible refine gd ?_ | with_reducible refine gdn ?_ | with_reducible refine gt ?_ (by assumption)))); rintro e w1 ⟨rfl, hg1⟩; obtain ⟨hc1, hf1⟩ := gcell hg1; have z1a : w.heap.size < w1.heap.size := (by have hsz := hg1.size; (try simp at hsz); omega); have y1a : w.heap.size ≤ w1.heap.size := (by omega)
  go_wp2_with ((go_at_call 36; refine (number_any 34 true rfl n p m h1 h4 _ len cap L _ ?_ hlen.out hl hx _ v2.out).mono ?_; exact hB.out.kept0 (by (repeat (first | with_reducible exact grownBy_refl _ _ | (with_reducible refine gs ?_ ?_; first | omega | (simp; omega)) | with_reducible refine ga ?_ | with_reducible refine gd ?_ | with_reducible refine gdn ?_ | with_reducible refine gt ?_ (by assumption)))); rintro e w2 ⟨rfl, hg2⟩; obtain ⟨hc2, hf2⟩ := gcell hg2; have z2a : w.heap.size < w2.heap.size := (by have hsz := hg2.size; (try simp at hsz); omega); have y2a : w.heap.size ≤ w2.heap.size := (by omega)))
  go_ret2
  refine ⟨rfl, ?_⟩
  (repeat (first | with_reducible exact grownBy_refl _ _ | (with_reducible refine gs ?_ ?_; first | omega | (simp; omega)) | with_reducible refine ga ?_ | with_reducible refine gd ?_ | with_reducible refine gdn ?_ | with_reducible refine gt ?_ (by assumption)))

set_option maxRecDepth 100000 in
set_option maxHeartbeats 4000000 in
theorem markAt_0 (q n : Nat) (p m : Bool) (h1 : 1 ≤ n) (h4 : n ≤ 4) (ao : Option Addr) (len cap : Nat) (L : List UInt8) (w : World) (hB : Hid (Bytes w ao L)) (hlen : Hid (L.length = len)) (hl : n ≤ len) (hx : len ≤ 140737488355328) (v u : Int) (v1 : Hid (wrap32 (num false n L : Int) = v)) (hv : (v == 65279) = false) (v2 : Hid (wrap32 (num true n L : Int) = u)) (hu : (u == 65279) = false) :
    Calls Try.prog 19 #[.agg #[.int .i64 (n : Int), .bool p, .bool m, .func (.func q) #[] #[]], .slice ao len cap] w fun e w' => e = .returned (.tuple #[.int .i64 0, .bool false]) ∧ w.grownBy w' none := by
  go_enter Try.func19, Try.ntmps19
  go_wp2_with fail
  go_at_call 36; refine (number_any 35 false rfl n p m h1 h4 _ len cap L _ ?_ hlen.out hl hx _ v1.out).mono ?_; exact hB.out.kept0 (by (repeat (first | with_reducible exact grownBy_refl _ _ | (with_reducible refine gs ?_ ?_; first | omega | (simp; omega)) | with_reducible refine ga ?_ | with_reducible refine gd ?_ | with_reducible refine gdn ?_ | with_reducible refine gt ?_ (by assumption)))); rintro e w1 ⟨rfl, hg1⟩; obtain ⟨hc1, hf1⟩ := gcell hg1; have z1a : w.heap.size < w1.heap.size := (by have hsz := hg1.size; (try simp at hsz); omega); have y1a : w.heap.size ≤ w1.heap.size := (by omega)
  go_wp2_with ((go_at_call 36; refine (number_any 34 true rfl n p m h1 h4 _ len cap L _ ?_ hlen.out hl hx _ v2.out).mono ?_; exact hB.out.kept0 (by (repeat (first | with_reducible exact grownBy_refl _ _ | (with_reducible refine gs ?_ ?_; first | omega | (simp; omega)) | with_reducible refine ga ?_ | with_reducible refine gd ?_ | with_reducible refine gdn ?_ | with_reducible refine gt ?_ (by assumption)))); rintro e w2 ⟨rfl, hg2⟩; obtain ⟨hc2, hf2⟩ := gcell hg2; have z2a : w.heap.size < w2.heap.size := (by have hsz := hg2.size; (try simp at hsz); omega); have y2a : w.heap.size ≤ w2.heap.size := (by omega)))
  go_ret2
  refine ⟨rfl, ?_⟩
  (repeat (first | with_reducible exact grownBy_refl _ _ | (with_reducible refine gs ?_ ?_; first | omega | (simp; omega)) | with_reducible refine ga ?_ | with_reducible refine gd ?_ | with_reducible refine gdn ?_ | with_reducible refine gt ?_ (by assumption)))
end Go.Proofs.Ytkfcciacoplgmaa.Wd

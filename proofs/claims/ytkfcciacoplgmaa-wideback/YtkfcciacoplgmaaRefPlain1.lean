/- The document's step of one order: walks. -/
import Derived.Test.YtkfcciacoplgmaaRefNum
import Derived.Deep.RegionHeld3
import Derived.BigQuiet
namespace Go.Proofs.Ytkfcciacoplgmaa.Wd
open Go.ChangeShapes Go.WideShapes Go.ChangeAt Go.RowKit Go.Proofs.Ytkfcciacoplgmaa.Mem Go.Proofs.Ytkfcciacoplgmaa.Ucs
set_option linter.unusedVariables false
set_option linter.unusedSimpArgs false

set_option maxRecDepth 100000 in
set_option maxHeartbeats 4000000 in
theorem plainW_more (k : Int) (n : Nat) (p m low lo : Bool) (hf : Hid (fm k = some (n, p, m, low))) (ao : Option Addr) (len cap : Nat) (L : List UInt8) (w : World) (hB : Hid (Bytes w ao L)) (hlen : Hid (L.length = len)) (hx : len ≤ 140737488355328) (hcap : len ≤ cap) (hcm : cap ≤ 9223372036854775807) (hl : len < n) :
    Calls Try.prog 26 #[.int .i64 k, .bool lo, .slice ao len cap] w fun e w' => e = .returned (gotS 1 0 0 0 0) ∧ w.grownBy w' none := by
  go_enter Try.func26, Try.ntmps26
  go_wp2_with (first | (go_at_call 24; refine (size_any hf.out _).mono ?_; rintro e wq ⟨rfl, hw⟩; obtain rfl := hw))
  refine bodyPost_ret (v := gotS 1 0 0 0 0) (by simp [results, Try.results26, go_sem]) rfl ⟨rfl, ?_⟩
  (repeat (first | with_reducible exact grownBy_refl _ _ | (with_reducible refine gs ?_ ?_; first | omega | (simp; omega)) | with_reducible refine ga ?_ | with_reducible refine gd ?_ | with_reducible refine gdn ?_ | with_reducible refine gt ?_ (by assumption)))

set_option maxRecDepth 100000 in
set_option maxHeartbeats 4000000 in
theorem plainW_ok2 (k : Int) (p m low lo : Bool) (hf : Hid (fm k = some (2, p, m, low))) (ao : Option Addr) (len cap : Nat) (L : List UInt8) (w : World) (hB : Hid (Bytes w ao L)) (hlen : Hid (L.length = len)) (hx : len ≤ 140737488355328) (hcap : len ≤ cap) (hcm : cap ≤ 9223372036854775807) (hl : 2 ≤ len) (x : Nat) (hv : Hid ((num lo 2 L : Int) = (x : Int))) (hx1 : x ≤ 1114111) (hs : Hid (scB (x : Int) = true)) :
    Calls Try.prog 26 #[.int .i64 k, .bool lo, .slice ao len cap] w fun e w' => e = .returned (gotS 0 2 1 (x : Int) 0) ∧ w.grownBy w' none := by
  go_enter Try.func26, Try.ntmps26
  go_wp2_with (first | (go_at_call 24; refine (size_any hf.out _).mono ?_; rintro e wq ⟨rfl, hw⟩; obtain rfl := hw) | (go_at_call 25; refine (numberR_any lo 2 (by omega) _ len cap L _ ?_ hlen.out hl hx _ hv.out).mono ?_; exact hB.out.kept0 (by (repeat (first | with_reducible exact grownBy_refl _ _ | (with_reducible refine gs ?_ ?_; first | omega | (simp; omega)) | with_reducible refine ga ?_ | with_reducible refine gd ?_ | with_reducible refine gdn ?_ | with_reducible refine gt ?_ (by assumption)))); rintro e wq ⟨rfl, hw⟩; obtain rfl := hw) | (go_at_call 16; refine (scR_lit _ _ true hs.out).mono ?_; rintro e wq ⟨rfl, hw⟩; obtain rfl := hw))
  refine bodyPost_ret (v := gotS 0 2 1 (x : Int) 0) (by simp [results, Try.results26, go_sem]) rfl ⟨rfl, ?_⟩
  (repeat (first | with_reducible exact grownBy_refl _ _ | (with_reducible refine gs ?_ ?_; first | omega | (simp; omega)) | with_reducible refine ga ?_ | with_reducible refine gd ?_ | with_reducible refine gdn ?_ | with_reducible refine gt ?_ (by assumption)))

set_option maxRecDepth 100000 in
set_option maxHeartbeats 4000000 in
theorem plainW_ok4 (k : Int) (p m low lo : Bool) (hf : Hid (fm k = some (4, p, m, low))) (ao : Option Addr) (len cap : Nat) (L : List UInt8) (w : World) (hB : Hid (Bytes w ao L)) (hlen : Hid (L.length = len)) (hx : len ≤ 140737488355328) (hcap : len ≤ cap) (hcm : cap ≤ 9223372036854775807) (hl : 4 ≤ len) (x : Nat) (hv : Hid ((num lo 4 L : Int) = (x : Int))) (hx1 : x ≤ 1114111) (hs : Hid (scB (x : Int) = true)) :
    Calls Try.prog 26 #[.int .i64 k, .bool lo, .slice ao len cap] w fun e w' => e = .returned (gotS 0 4 1 (x : Int) 0) ∧ w.grownBy w' none := by
  go_enter Try.func26, Try.ntmps26
  go_wp2_with (first | (go_at_call 24; refine (size_any hf.out _).mono ?_; rintro e wq ⟨rfl, hw⟩; obtain rfl := hw) | (go_at_call 25; refine (numberR_any lo 4 (by omega) _ len cap L _ ?_ hlen.out hl hx _ hv.out).mono ?_; exact hB.out.kept0 (by (repeat (first | with_reducible exact grownBy_refl _ _ | (with_reducible refine gs ?_ ?_; first | omega | (simp; omega)) | with_reducible refine ga ?_ | with_reducible refine gd ?_ | with_reducible refine gdn ?_ | with_reducible refine gt ?_ (by assumption)))); rintro e wq ⟨rfl, hw⟩; obtain rfl := hw) | (go_at_call 16; refine (scR_lit _ _ true hs.out).mono ?_; rintro e wq ⟨rfl, hw⟩; obtain rfl := hw))
  refine bodyPost_ret (v := gotS 0 4 1 (x : Int) 0) (by simp [results, Try.results26, go_sem]) rfl ⟨rfl, ?_⟩
  (repeat (first | with_reducible exact grownBy_refl _ _ | (with_reducible refine gs ?_ ?_; first | omega | (simp; omega)) | with_reducible refine ga ?_ | with_reducible refine gd ?_ | with_reducible refine gdn ?_ | with_reducible refine gt ?_ (by assumption)))

set_option maxRecDepth 100000 in
set_option maxHeartbeats 4000000 in
theorem plainW_ill4a (k : Int) (p m low lo : Bool) (hf : Hid (fm k = some (4, p, m, low))) (ao : Option Addr) (len cap : Nat) (L : List UInt8) (w : World) (hB : Hid (Bytes w ao L)) (hlen : Hid (L.length = len)) (hx : len ≤ 140737488355328) (hcap : len ≤ cap) (hcm : cap ≤ 9223372036854775807) (hl : 4 ≤ len) (x : Nat) (hv : Hid ((num lo 4 L : Int) = (x : Int))) (hx1 : x ≤ 1114111) (hs : Hid (scB (x : Int) = false)) :
    Calls Try.prog 26 #[.int .i64 k, .bool lo, .slice ao len cap] w fun e w' => e = .returned (gotS 10 4 0 0 0) ∧ w.grownBy w' none := by
  go_enter Try.func26, Try.ntmps26
  go_wp2_with (first | (go_at_call 24; refine (size_any hf.out _).mono ?_; rintro e wq ⟨rfl, hw⟩; obtain rfl := hw) | (go_at_call 25; refine (numberR_any lo 4 (by omega) _ len cap L _ ?_ hlen.out hl hx _ hv.out).mono ?_; exact hB.out.kept0 (by (repeat (first | with_reducible exact grownBy_refl _ _ | (with_reducible refine gs ?_ ?_; first | omega | (simp; omega)) | with_reducible refine ga ?_ | with_reducible refine gd ?_ | with_reducible refine gdn ?_ | with_reducible refine gt ?_ (by assumption)))); rintro e wq ⟨rfl, hw⟩; obtain rfl := hw) | (go_at_call 16; refine (scR_lit _ _ false hs.out).mono ?_; rintro e wq ⟨rfl, hw⟩; obtain rfl := hw))
  refine bodyPost_ret (v := gotS 10 4 0 0 0) (by simp [results, Try.results26, go_sem]) rfl ⟨rfl, ?_⟩
  (repeat (first | with_reducible exact grownBy_refl _ _ | (with_reducible refine gs ?_ ?_; first | omega | (simp; omega)) | with_reducible refine ga ?_ | with_reducible refine gd ?_ | with_reducible refine gdn ?_ | with_reducible refine gt ?_ (by assumption)))

set_option maxRecDepth 100000 in
set_option maxHeartbeats 4000000 in
theorem plainW_ill4b (k : Int) (p m low lo : Bool) (hf : Hid (fm k = some (4, p, m, low))) (ao : Option Addr) (len cap : Nat) (L : List UInt8) (w : World) (hB : Hid (Bytes w ao L)) (hlen : Hid (L.length = len)) (hx : len ≤ 140737488355328) (hcap : len ≤ cap) (hcm : cap ≤ 9223372036854775807) (hl : 4 ≤ len) (x : Nat) (hv : Hid ((num lo 4 L : Int) = (x : Int))) (hx1 : 1114111 < x) (hx2 : x ≤ 4294967295) :
    Calls Try.prog 26 #[.int .i64 k, .bool lo, .slice ao len cap] w fun e w' => e = .returned (gotS 10 4 0 0 0) ∧ w.grownBy w' none := by
  go_enter Try.func26, Try.ntmps26
  go_wp2_with (first | (go_at_call 24; refine (size_any hf.out _).mono ?_; rintro e wq ⟨rfl, hw⟩; obtain rfl := hw) | (go_at_call 25; refine (numberR_any lo 4 (by omega) _ len cap L _ ?_ hlen.out hl hx _ hv.out).mono ?_; exact hB.out.kept0 (by (repeat (first | with_reducible exact grownBy_refl _ _ | (with_reducible refine gs ?_ ?_; first | omega | (simp; omega)) | with_reducible refine ga ?_ | with_reducible refine gd ?_ | with_reducible refine gdn ?_ | with_reducible refine gt ?_ (by assumption)))); rintro e wq ⟨rfl, hw⟩; obtain rfl := hw))
  refine bodyPost_ret (v := gotS 10 4 0 0 0) (by simp [results, Try.results26, go_sem]) rfl ⟨rfl, ?_⟩
  (repeat (first | with_reducible exact grownBy_refl _ _ | (with_reducible refine gs ?_ ?_; first | omega | (simp; omega)) | with_reducible refine ga ?_ | with_reducible refine gd ?_ | with_reducible refine gdn ?_ | with_reducible refine gt ?_ (by assumption)))

set_option maxRecDepth 100000 in
set_option maxHeartbeats 4000000 in
theorem plainW_ucs9 (p m low lo : Bool) (hf : Hid (fm 9 = some (2, p, m, low))) (ao : Option Addr) (len cap : Nat) (L : List UInt8) (w : World) (hB : Hid (Bytes w ao L)) (hlen : Hid (L.length = len)) (hx : len ≤ 140737488355328) (hcap : len ≤ cap) (hcm : cap ≤ 9223372036854775807) (hl : 2 ≤ len) (x : Nat) (hv : Hid ((num lo 2 L : Int) = (x : Int))) (hx1 : x ≤ 65535) (hs : Hid (scB (x : Int) = false)) :
    Calls Try.prog 26 #[.int .i64 9, .bool lo, .slice ao len cap] w fun e w' => e = .returned (gotS 10 2 0 0 0) ∧ w.grownBy w' none := by
  go_enter Try.func26, Try.ntmps26
  go_wp2_with (first | (go_at_call 24; refine (size_any hf.out _).mono ?_; rintro e wq ⟨rfl, hw⟩; obtain rfl := hw) | (go_at_call 25; refine (numberR_any lo 2 (by omega) _ len cap L _ ?_ hlen.out hl hx _ hv.out).mono ?_; exact hB.out.kept0 (by (repeat (first | with_reducible exact grownBy_refl _ _ | (with_reducible refine gs ?_ ?_; first | omega | (simp; omega)) | with_reducible refine ga ?_ | with_reducible refine gd ?_ | with_reducible refine gdn ?_ | with_reducible refine gt ?_ (by assumption)))); rintro e wq ⟨rfl, hw⟩; obtain rfl := hw) | (go_at_call 16; refine (scR_lit _ _ false hs.out).mono ?_; rintro e wq ⟨rfl, hw⟩; obtain rfl := hw))
  refine bodyPost_ret (v := gotS 10 2 0 0 0) (by simp [results, Try.results26, go_sem]) rfl ⟨rfl, ?_⟩
  (repeat (first | with_reducible exact grownBy_refl _ _ | (with_reducible refine gs ?_ ?_; first | omega | (simp; omega)) | with_reducible refine ga ?_ | with_reducible refine gd ?_ | with_reducible refine gdn ?_ | with_reducible refine gt ?_ (by assumption)))

set_option maxRecDepth 100000 in
set_option maxHeartbeats 4000000 in
theorem plainW_ucs10 (p m low lo : Bool) (hf : Hid (fm 10 = some (2, p, m, low))) (ao : Option Addr) (len cap : Nat) (L : List UInt8) (w : World) (hB : Hid (Bytes w ao L)) (hlen : Hid (L.length = len)) (hx : len ≤ 140737488355328) (hcap : len ≤ cap) (hcm : cap ≤ 9223372036854775807) (hl : 2 ≤ len) (x : Nat) (hv : Hid ((num lo 2 L : Int) = (x : Int))) (hx1 : x ≤ 65535) (hs : Hid (scB (x : Int) = false)) :
    Calls Try.prog 26 #[.int .i64 10, .bool lo, .slice ao len cap] w fun e w' => e = .returned (gotS 10 2 0 0 0) ∧ w.grownBy w' none := by
  go_enter Try.func26, Try.ntmps26
  go_wp2_with (first | (go_at_call 24; refine (size_any hf.out _).mono ?_; rintro e wq ⟨rfl, hw⟩; obtain rfl := hw) | (go_at_call 25; refine (numberR_any lo 2 (by omega) _ len cap L _ ?_ hlen.out hl hx _ hv.out).mono ?_; exact hB.out.kept0 (by (repeat (first | with_reducible exact grownBy_refl _ _ | (with_reducible refine gs ?_ ?_; first | omega | (simp; omega)) | with_reducible refine ga ?_ | with_reducible refine gd ?_ | with_reducible refine gdn ?_ | with_reducible refine gt ?_ (by assumption)))); rintro e wq ⟨rfl, hw⟩; obtain rfl := hw) | (go_at_call 16; refine (scR_lit _ _ false hs.out).mono ?_; rintro e wq ⟨rfl, hw⟩; obtain rfl := hw))
  refine bodyPost_ret (v := gotS 10 2 0 0 0) (by simp [results, Try.results26, go_sem]) rfl ⟨rfl, ?_⟩
  (repeat (first | with_reducible exact grownBy_refl _ _ | (with_reducible refine gs ?_ ?_; first | omega | (simp; omega)) | with_reducible refine ga ?_ | with_reducible refine gd ?_ | with_reducible refine gdn ?_ | with_reducible refine gt ?_ (by assumption)))

set_option maxRecDepth 100000 in
set_option maxHeartbeats 4000000 in
theorem plainW_low (k : Int) (p m low lo : Bool) (hf : Hid (fm k = some (2, p, m, low))) (ao : Option Addr) (len cap : Nat) (L : List UInt8) (w : World) (hB : Hid (Bytes w ao L)) (hlen : Hid (L.length = len)) (hx : len ≤ 140737488355328) (hcap : len ≤ cap) (hcm : cap ≤ 9223372036854775807) (hl : 2 ≤ len) (x : Nat) (hv : Hid ((num lo 2 L : Int) = (x : Int))) (k9 : (k == 9) = false) (k10 : (k == 10) = false) (hx1 : x ≤ 65535) (hs : Hid (scB (x : Int) = false)) (hh : Hid (hiB (x : Int) = false)) :
    Calls Try.prog 26 #[.int .i64 k, .bool lo, .slice ao len cap] w fun e w' => e = .returned (gotS 10 2 0 0 0) ∧ w.grownBy w' none := by
  go_enter Try.func26, Try.ntmps26
  go_wp2_with (first | (go_at_call 24; refine (size_any hf.out _).mono ?_; rintro e wq ⟨rfl, hw⟩; obtain rfl := hw) | (go_at_call 25; refine (numberR_any lo 2 (by omega) _ len cap L _ ?_ hlen.out hl hx _ hv.out).mono ?_; exact hB.out.kept0 (by (repeat (first | with_reducible exact grownBy_refl _ _ | (with_reducible refine gs ?_ ?_; first | omega | (simp; omega)) | with_reducible refine ga ?_ | with_reducible refine gd ?_ | with_reducible refine gdn ?_ | with_reducible refine gt ?_ (by assumption)))); rintro e wq ⟨rfl, hw⟩; obtain rfl := hw) | (go_at_call 16; refine (scR_lit _ _ false hs.out).mono ?_; rintro e wq ⟨rfl, hw⟩; obtain rfl := hw) | (go_at_call 40; refine (hiR_lit _ _ false hh.out).mono ?_; rintro e wq ⟨rfl, hw⟩; obtain rfl := hw))
  refine bodyPost_ret (v := gotS 10 2 0 0 0) (by simp [results, Try.results26, go_sem]) rfl ⟨rfl, ?_⟩
  (repeat (first | with_reducible exact grownBy_refl _ _ | (with_reducible refine gs ?_ ?_; first | omega | (simp; omega)) | with_reducible refine ga ?_ | with_reducible refine gd ?_ | with_reducible refine gdn ?_ | with_reducible refine gt ?_ (by assumption)))

set_option maxRecDepth 100000 in
set_option maxHeartbeats 4000000 in
theorem plainW_himore (k : Int) (p m low lo : Bool) (hf : Hid (fm k = some (2, p, m, low))) (ao : Option Addr) (len cap : Nat) (L : List UInt8) (w : World) (hB : Hid (Bytes w ao L)) (hlen : Hid (L.length = len)) (hx : len ≤ 140737488355328) (hcap : len ≤ cap) (hcm : cap ≤ 9223372036854775807) (hl : 2 ≤ len) (x : Nat) (hv : Hid ((num lo 2 L : Int) = (x : Int))) (k9 : (k == 9) = false) (k10 : (k == 10) = false) (hx1 : x ≤ 65535) (hs : Hid (scB (x : Int) = false)) (hh : Hid (hiB (x : Int) = true)) (hl4 : len < 4) :
    Calls Try.prog 26 #[.int .i64 k, .bool lo, .slice ao len cap] w fun e w' => e = .returned (gotS 1 0 0 0 0) ∧ w.grownBy w' none := by
  go_enter Try.func26, Try.ntmps26
  go_wp2_with (first | (go_at_call 24; refine (size_any hf.out _).mono ?_; rintro e wq ⟨rfl, hw⟩; obtain rfl := hw) | (go_at_call 25; refine (numberR_any lo 2 (by omega) _ len cap L _ ?_ hlen.out hl hx _ hv.out).mono ?_; exact hB.out.kept0 (by (repeat (first | with_reducible exact grownBy_refl _ _ | (with_reducible refine gs ?_ ?_; first | omega | (simp; omega)) | with_reducible refine ga ?_ | with_reducible refine gd ?_ | with_reducible refine gdn ?_ | with_reducible refine gt ?_ (by assumption)))); rintro e wq ⟨rfl, hw⟩; obtain rfl := hw) | (go_at_call 16; refine (scR_lit _ _ false hs.out).mono ?_; rintro e wq ⟨rfl, hw⟩; obtain rfl := hw) | (go_at_call 40; refine (hiR_lit _ _ true hh.out).mono ?_; rintro e wq ⟨rfl, hw⟩; obtain rfl := hw))
  refine bodyPost_ret (v := gotS 1 0 0 0 0) (by simp [results, Try.results26, go_sem]) rfl ⟨rfl, ?_⟩
  (repeat (first | with_reducible exact grownBy_refl _ _ | (with_reducible refine gs ?_ ?_; first | omega | (simp; omega)) | with_reducible refine ga ?_ | with_reducible refine gd ?_ | with_reducible refine gdn ?_ | with_reducible refine gt ?_ (by assumption)))

set_option maxRecDepth 100000 in
set_option maxHeartbeats 4000000 in
theorem plainW_pair (k : Int) (p m low lo : Bool) (hf : Hid (fm k = some (2, p, m, low))) (ao : Option Addr) (len cap : Nat) (L : List UInt8) (w : World) (hB : Hid (Bytes w ao L)) (hlen : Hid (L.length = len)) (hx : len ≤ 140737488355328) (hcap : len ≤ cap) (hcm : cap ≤ 9223372036854775807) (hl : 2 ≤ len) (x : Nat) (hv : Hid ((num lo 2 L : Int) = (x : Int))) (k9 : (k == 9) = false) (k10 : (k == 10) = false) (hx1 : x ≤ 65535) (hs : Hid (scB (x : Int) = false)) (hh : Hid (hiB (x : Int) = true)) (hl4 : 4 ≤ len) (y : Nat) (hy1 : y ≤ 65535) (hy : Hid ((num lo 2 (L.drop 2) : Int) = (y : Int))) (z : Int) (hj : Hid (joinB (x : Int) (y : Int) = true)) (hjv : Hid (joinV (x : Int) (y : Int) = z)) :
    Calls Try.prog 26 #[.int .i64 k, .bool lo, .slice ao len cap] w fun e w' => e = .returned (gotS 0 4 1 z 0) ∧ w.grownBy w' none := by
  have q1 : (2 : Int) ≤ (len : Int) := by omega
  have q2 : (len : Int) ≤ (cap : Int) := by omega
  have q3 : ¬ cap = 2 := by omega
  have q4 : ¬ (cap : Int) = 2 := by omega
  go_enter Try.func26, Try.ntmps26
  go_wp2_with (first | (go_at_call 24; refine (size_any hf.out _).mono ?_; rintro e wq ⟨rfl, hw⟩; obtain rfl := hw) | (go_at_call_of 25 (Value.slice ao len cap); refine (numberR_any lo 2 (by omega) _ len cap L _ ?_ hlen.out hl hx _ hv.out).mono ?_; exact hB.out.kept0 (by (repeat (first | with_reducible exact grownBy_refl _ _ | (with_reducible refine gs ?_ ?_; first | omega | (simp; omega)) | with_reducible refine ga ?_ | with_reducible refine gd ?_ | with_reducible refine gdn ?_ | with_reducible refine gt ?_ (by assumption)))); rintro e wq ⟨rfl, hw⟩; obtain rfl := hw) | (go_at_call 16; refine (scR_lit _ _ false hs.out).mono ?_; rintro e wq ⟨rfl, hw⟩; obtain rfl := hw) | (go_at_call 40; refine (hiR_lit _ _ true hh.out).mono ?_; rintro e wq ⟨rfl, hw⟩; obtain rfl := hw) | (go_at_call 25; refine (numberR_any lo 2 (by omega) _ (len - 2) (cap - 2) (L.drop 2) _ ?_ (by rw [List.length_drop, hlen.out]) (by omega) (by omega) _ hy.out).mono ?_; exact (hB.out.kept0 (by (repeat (first | with_reducible exact grownBy_refl _ _ | (with_reducible refine gs ?_ ?_; first | omega | (simp; omega)) | with_reducible refine ga ?_ | with_reducible refine gd ?_ | with_reducible refine gdn ?_ | with_reducible refine gt ?_ (by assumption))))).drop_ne 2 cap (by omega) (by rw [hlen.out]; exact hcap); rintro e wq ⟨rfl, hw⟩; obtain rfl := hw) | (go_at_call 41; refine (joinR_lit _ _ _ true hj.out z hjv.out).mono ?_; rintro e wq ⟨rfl, hw⟩; obtain rfl := hw))
  refine bodyPost_ret (v := gotS 0 4 1 z 0) (by simp [results, Try.results26, go_sem]) rfl ⟨rfl, ?_⟩
  (repeat (first | with_reducible exact grownBy_refl _ _ | (with_reducible refine gs ?_ ?_; first | omega | (simp; omega)) | with_reducible refine ga ?_ | with_reducible refine gd ?_ | with_reducible refine gdn ?_ | with_reducible refine gt ?_ (by assumption)))

set_option maxRecDepth 100000 in
set_option maxHeartbeats 4000000 in
theorem plainW_nopair (k : Int) (p m low lo : Bool) (hf : Hid (fm k = some (2, p, m, low))) (ao : Option Addr) (len cap : Nat) (L : List UInt8) (w : World) (hB : Hid (Bytes w ao L)) (hlen : Hid (L.length = len)) (hx : len ≤ 140737488355328) (hcap : len ≤ cap) (hcm : cap ≤ 9223372036854775807) (hl : 2 ≤ len) (x : Nat) (hv : Hid ((num lo 2 L : Int) = (x : Int))) (k9 : (k == 9) = false) (k10 : (k == 10) = false) (hx1 : x ≤ 65535) (hs : Hid (scB (x : Int) = false)) (hh : Hid (hiB (x : Int) = true)) (hl4 : 4 ≤ len) (y : Nat) (hy1 : y ≤ 65535) (hy : Hid ((num lo 2 (L.drop 2) : Int) = (y : Int))) (hj : Hid (joinB (x : Int) (y : Int) = false)) (hjv : Hid (joinV (x : Int) (y : Int) = 0)) :
    Calls Try.prog 26 #[.int .i64 k, .bool lo, .slice ao len cap] w fun e w' => e = .returned (gotS 10 2 0 0 0) ∧ w.grownBy w' none := by
  have q1 : (2 : Int) ≤ (len : Int) := by omega
  have q2 : (len : Int) ≤ (cap : Int) := by omega
  have q3 : ¬ cap = 2 := by omega
  have q4 : ¬ (cap : Int) = 2 := by omega
  go_enter Try.func26, Try.ntmps26
  go_wp2_with (first | (go_at_call 24; refine (size_any hf.out _).mono ?_; rintro e wq ⟨rfl, hw⟩; obtain rfl := hw) | (go_at_call_of 25 (Value.slice ao len cap); refine (numberR_any lo 2 (by omega) _ len cap L _ ?_ hlen.out hl hx _ hv.out).mono ?_; exact hB.out.kept0 (by (repeat (first | with_reducible exact grownBy_refl _ _ | (with_reducible refine gs ?_ ?_; first | omega | (simp; omega)) | with_reducible refine ga ?_ | with_reducible refine gd ?_ | with_reducible refine gdn ?_ | with_reducible refine gt ?_ (by assumption)))); rintro e wq ⟨rfl, hw⟩; obtain rfl := hw) | (go_at_call 16; refine (scR_lit _ _ false hs.out).mono ?_; rintro e wq ⟨rfl, hw⟩; obtain rfl := hw) | (go_at_call 40; refine (hiR_lit _ _ true hh.out).mono ?_; rintro e wq ⟨rfl, hw⟩; obtain rfl := hw) | (go_at_call 25; refine (numberR_any lo 2 (by omega) _ (len - 2) (cap - 2) (L.drop 2) _ ?_ (by rw [List.length_drop, hlen.out]) (by omega) (by omega) _ hy.out).mono ?_; exact (hB.out.kept0 (by (repeat (first | with_reducible exact grownBy_refl _ _ | (with_reducible refine gs ?_ ?_; first | omega | (simp; omega)) | with_reducible refine ga ?_ | with_reducible refine gd ?_ | with_reducible refine gdn ?_ | with_reducible refine gt ?_ (by assumption))))).drop_ne 2 cap (by omega) (by rw [hlen.out]; exact hcap); rintro e wq ⟨rfl, hw⟩; obtain rfl := hw) | (go_at_call 41; refine (joinR_lit _ _ _ false hj.out 0 hjv.out).mono ?_; rintro e wq ⟨rfl, hw⟩; obtain rfl := hw))
  refine bodyPost_ret (v := gotS 10 2 0 0 0) (by simp [results, Try.results26, go_sem]) rfl ⟨rfl, ?_⟩
  (repeat (first | with_reducible exact grownBy_refl _ _ | (with_reducible refine gs ?_ ?_; first | omega | (simp; omega)) | with_reducible refine ga ?_ | with_reducible refine gd ?_ | with_reducible refine gdn ?_ | with_reducible refine gt ?_ (by assumption)))
end Go.Proofs.Ytkfcciacoplgmaa.Wd

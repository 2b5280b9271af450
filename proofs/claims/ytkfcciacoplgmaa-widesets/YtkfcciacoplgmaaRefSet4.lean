/- The document's step that puts out a scalar: walks. -/
import Derived.Test.YtkfcciacoplgmaaRefSet0
import Derived.Deep.RegionHeld3
import Derived.BigQuiet
namespace Go.Proofs.Ytkfcciacoplgmaa.Wd
open Go.ChangeShapes Go.WideShapes Go.ChangeAt Go.RowKit Go.Proofs.Ytkfcciacoplgmaa.Mem Go.Proofs.Ytkfcciacoplgmaa.Ucs
set_option linter.unusedVariables false
set_option linter.unusedSimpArgs false

set_option maxRecDepth 100000 in
set_option maxHeartbeats 4000000 in
theorem setR_none (k md bi ac he : Int) (h : Hid (k < 3 ∨ 10 < k)) (u : Int) (w : World) :
    Calls Try.prog 14 #[.int .i64 k, .agg #[.int .i64 md, .int .i64 bi, .int .u32 ac, .int .i32 he], .int .i32 u] w fun e w' => e = .returned (putS 5 ⟨#[]⟩ 0) ∧ w.grownBy w' none := by
  go_enter Try.func14, Try.ntmps14
  go_wp2_with (first | (go_at_call 12; refine (hasR_none k h.out _).mono ?_; rintro e wq ⟨rfl, hw⟩; obtain rfl := hw))
  refine bodyPost_ret (v := putS 5 ⟨#[]⟩ 0) (by simp [results, Try.results14, go_sem]) rfl ⟨rfl, ?_⟩
  (repeat (first | with_reducible exact grownBy_refl _ _ | (with_reducible refine gs ?_ ?_; first | omega | (simp; omega)) | with_reducible refine ga ?_ | with_reducible refine gd ?_ | with_reducible refine gdn ?_ | with_reducible refine gt ?_ (by assumption)))

set_option maxRecDepth 100000 in
set_option maxHeartbeats 4000000 in
theorem setR_bad (k md bi ac he : Int) (n : Nat) (p m low : Bool) (hf : Hid (fm k = some (n, p, m, low))) (hfit : Hid (fitB m md bi ac he = false)) (u : Int) (w : World) :
    Calls Try.prog 14 #[.int .i64 k, .agg #[.int .i64 md, .int .i64 bi, .int .u32 ac, .int .i32 he], .int .i32 u] w fun e w' => e = .returned (putS 7 ⟨#[]⟩ 0) ∧ w.grownBy w' none := by
  go_enter Try.func14, Try.ntmps14
  go_wp2_with (first | (go_at_call 12; refine (hasR_any hf.out _).mono ?_; rintro e wq ⟨rfl, hw⟩; obtain rfl := hw) | (go_at_call 22; refine (fitsR_any hf.out md bi ac he _ false hfit.out).mono ?_; rintro e w1 ⟨rfl, hg1⟩; have rb := two_second hg1; have r0 := cell_at rb 0 rfl; have r1 := cell_at rb 1 rfl; have r2 := cell_at rb 2 rfl; have r3 := cell_at rb 3 rfl; have r4 := cell_at rb 4 rfl; have r5 := cell_at rb 5 rfl; have fz := froz_at rb; clear rb))
  refine bodyPost_ret (v := putS 7 ⟨#[]⟩ 0) (by simp [results, Try.results14, go_sem, r0, r1, r2, r3, r4, r5]) rfl ⟨rfl, ?_⟩
  (repeat (first | with_reducible exact grownBy_refl _ _ | (with_reducible refine gs ?_ ?_; first | omega | (simp; omega)) | with_reducible refine ga ?_ | with_reducible refine gd ?_ | with_reducible refine gdn ?_ | with_reducible refine gt ?_ (by assumption)))

set_option maxRecDepth 100000 in
set_option maxHeartbeats 4000000 in
theorem setR_nosc (k md bi ac he : Int) (n : Nat) (p m low : Bool) (hf : Hid (fm k = some (n, p, m, low))) (hfit : Hid (fitB m md bi ac he = true)) (u : Int) (hs : Hid (scB u = false)) (w : World) :
    Calls Try.prog 14 #[.int .i64 k, .agg #[.int .i64 md, .int .i64 bi, .int .u32 ac, .int .i32 he], .int .i32 u] w fun e w' => e = .returned (putS 11 ⟨#[]⟩ 0) ∧ w.grownBy w' none := by
  go_enter Try.func14, Try.ntmps14
  go_wp2_with (first | (go_at_call 12; refine (hasR_any hf.out _).mono ?_; rintro e wq ⟨rfl, hw⟩; obtain rfl := hw) | (go_at_call 22; refine (fitsR_any hf.out md bi ac he _ true hfit.out).mono ?_; rintro e w1 ⟨rfl, hg1⟩; have rb := two_second hg1; have r0 := cell_at rb 0 rfl; have r1 := cell_at rb 1 rfl; have r2 := cell_at rb 2 rfl; have r3 := cell_at rb 3 rfl; have r4 := cell_at rb 4 rfl; have r5 := cell_at rb 5 rfl; have fz := froz_at rb; clear rb) | (go_at_call 16; refine (scalarR_is _ _ false hs.out).mono ?_; rintro e wq ⟨rfl, hw⟩; obtain rfl := hw))
  refine bodyPost_ret (v := putS 11 ⟨#[]⟩ 0) (by simp [results, Try.results14, go_sem, r0, r1, r2, r3, r4, r5]) rfl ⟨rfl, ?_⟩
  (repeat (first | with_reducible exact grownBy_refl _ _ | (with_reducible refine gs ?_ ?_; first | omega | (simp; omega)) | with_reducible refine ga ?_ | with_reducible refine gd ?_ | with_reducible refine gdn ?_ | with_reducible refine gt ?_ (by assumption)))

set_option maxRecDepth 100000 in
set_option maxHeartbeats 4000000 in
theorem setR_no9 (k md bi ac he : Int) (n : Nat) (p m low : Bool) (hk : k = 9) (hf : Hid (fm 9 = some (n, p, m, low))) (hfit : Hid (fitB m md bi ac he = true)) (u : Int) (hs : Hid (scB u = true)) (hu : 65535 < u) (w : World) :
    Calls Try.prog 14 #[.int .i64 k, .agg #[.int .i64 md, .int .i64 bi, .int .u32 ac, .int .i32 he], .int .i32 u] w fun e w' => e = .returned (putS 11 ⟨#[]⟩ 0) ∧ w.grownBy w' none := by
  subst hk
  go_enter Try.func14, Try.ntmps14
  go_wp2_with (first | (go_at_call 12; refine (hasR_any hf.out _).mono ?_; rintro e wq ⟨rfl, hw⟩; obtain rfl := hw) | (go_at_call 22; refine (fitsR_any hf.out md bi ac he _ true hfit.out).mono ?_; rintro e w1 ⟨rfl, hg1⟩; have rb := two_second hg1; have r0 := cell_at rb 0 rfl; have r1 := cell_at rb 1 rfl; have r2 := cell_at rb 2 rfl; have r3 := cell_at rb 3 rfl; have r4 := cell_at rb 4 rfl; have r5 := cell_at rb 5 rfl; have fz := froz_at rb; clear rb) | (go_at_call 16; refine (scalarR_is _ _ true hs.out).mono ?_; rintro e wq ⟨rfl, hw⟩; obtain rfl := hw))
  refine bodyPost_ret (v := putS 11 ⟨#[]⟩ 0) (by simp [results, Try.results14, go_sem, r0, r1, r2, r3, r4, r5]) rfl ⟨rfl, ?_⟩
  (repeat (first | with_reducible exact grownBy_refl _ _ | (with_reducible refine gs ?_ ?_; first | omega | (simp; omega)) | with_reducible refine ga ?_ | with_reducible refine gd ?_ | with_reducible refine gdn ?_ | with_reducible refine gt ?_ (by assumption)))

set_option maxRecDepth 100000 in
set_option maxHeartbeats 4000000 in
theorem setR_no10 (k md bi ac he : Int) (n : Nat) (p m low : Bool) (hk : k = 10) (hf : Hid (fm 10 = some (n, p, m, low))) (hfit : Hid (fitB m md bi ac he = true)) (u : Int) (hs : Hid (scB u = true)) (hu : 65535 < u) (w : World) :
    Calls Try.prog 14 #[.int .i64 k, .agg #[.int .i64 md, .int .i64 bi, .int .u32 ac, .int .i32 he], .int .i32 u] w fun e w' => e = .returned (putS 11 ⟨#[]⟩ 0) ∧ w.grownBy w' none := by
  subst hk
  go_enter Try.func14, Try.ntmps14
  go_wp2_with (first | (go_at_call 12; refine (hasR_any hf.out _).mono ?_; rintro e wq ⟨rfl, hw⟩; obtain rfl := hw) | (go_at_call 22; refine (fitsR_any hf.out md bi ac he _ true hfit.out).mono ?_; rintro e w1 ⟨rfl, hg1⟩; have rb := two_second hg1; have r0 := cell_at rb 0 rfl; have r1 := cell_at rb 1 rfl; have r2 := cell_at rb 2 rfl; have r3 := cell_at rb 3 rfl; have r4 := cell_at rb 4 rfl; have r5 := cell_at rb 5 rfl; have fz := froz_at rb; clear rb) | (go_at_call 16; refine (scalarR_is _ _ true hs.out).mono ?_; rintro e wq ⟨rfl, hw⟩; obtain rfl := hw))
  refine bodyPost_ret (v := putS 11 ⟨#[]⟩ 0) (by simp [results, Try.results14, go_sem, r0, r1, r2, r3, r4, r5]) rfl ⟨rfl, ?_⟩
  (repeat (first | with_reducible exact grownBy_refl _ _ | (with_reducible refine gs ?_ ?_; first | omega | (simp; omega)) | with_reducible refine ga ?_ | with_reducible refine gd ?_ | with_reducible refine gdn ?_ | with_reducible refine gt ?_ (by assumption)))
end Go.Proofs.Ytkfcciacoplgmaa.Wd

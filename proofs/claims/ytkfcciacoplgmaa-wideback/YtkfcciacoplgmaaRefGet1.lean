/- The document's step that gets a scalar: walks. -/
import Derived.Test.YtkfcciacoplgmaaRefPlain
import Derived.Test.YtkfcciacoplgmaaGet
import Derived.Deep.RegionHeld3
import Derived.BigQuiet
namespace Go.Proofs.Ytkfcciacoplgmaa.Wd
open Go.ChangeShapes Go.WideShapes Go.ChangeAt Go.RowKit Go.Proofs.Ytkfcciacoplgmaa.Mem Go.Proofs.Ytkfcciacoplgmaa.Ucs
set_option linter.unusedVariables false
set_option linter.unusedSimpArgs false

/-- Where the step stands: the state's block, and its result's. -/
structure SQ (w : World) (md : Int) (wx : World) : Prop where
  g : w.grownBy wx none
  st : wx.heap[w.heap.size]? = some (.cells #[.int .i64 md, .int .i64 0, .int .u32 0, .int .i32 0] 24 (0, 0))
  res : wx.heap[w.heap.size + 1]? = some (.cells #[.int .i64 0, .int .i64 0, .int .i64 0, .int .i32 0, .int .i32 0, .int .i64 0, .int .i64 0, .int .u32 0, .int .i32 0] 28 (0, 0))
theorem SQ.next {w wx wy : World} {md : Int} (h : SQ w md wx) (hg : wx.grownBy wy none) : SQ w md wy := ⟨grownBy_trans h.g hg, blk_kept h.st hg, blk_kept h.res hg⟩
theorem SQ.one {w wx : World} {md : Int} (h : SQ w md wx) : SQ w 1 (wx.setCell ⟨w.heap.size, 0, none⟩ (.int .i64 1)) :=
  ⟨gs (Nat.le_refl _) h.g, block_set h.st 0 _, block_other h.res (by omega) _ _⟩
theorem SQ.mk1 {w w1 : World} {md : Int} (hg : ((w.alloc (.cells #[.int .i64 md, .int .i64 0, .int .u32 0, .int .i32 0] 24)).alloc (.cells #[.int .i64 0, .int .i64 0, .int .i64 0, .int .i32 0, .int .i32 0, .int .i64 0, .int .i64 0, .int .u32 0, .int .i32 0] 28)).grownBy w1 none) : SQ w md w1 := ⟨gt (ga (ga (grownBy_refl _ _))) hg, two_first hg, two_second hg⟩
theorem SQ.cells {w wx : World} {md : Int} (h : SQ w md wx) : wx.cell? ⟨w.heap.size, 0, none⟩ = some (.int .i64 md) ∧ wx.cell? ⟨w.heap.size, 1, none⟩ = some (.int .i64 0) ∧ wx.cell? ⟨w.heap.size, 2, none⟩ = some (.int .u32 0) ∧ wx.cell? ⟨w.heap.size, 3, none⟩ = some (.int .i32 0) :=
  ⟨cell_at h.st 0 rfl, cell_at h.st 1 rfl, cell_at h.st 2 rfl, cell_at h.st 3 rfl⟩

set_option maxRecDepth 100000 in
set_option maxHeartbeats 4000000 in
theorem getW_mmore (k md : Int) (n : Nat) (p low : Bool) (hf : Hid (fm k = some (n, p, true, low))) (hfit : Hid (fitB true md 0 0 0 = true)) (hn : Hid (n = 2 ∨ n = 4)) (ao : Option Addr) (len cap : Nat) (L : List UInt8) (w : World) (hB : Hid (Bytes w ao L)) (hlen : Hid (L.length = len)) (hx : len ≤ 140737488355328) (hcap : len ≤ cap) (hcm : cap ≤ 9223372036854775807) (hl : len < n) (hmd : md = 0) :
    Calls Try.prog 10 #[.int .i64 k, .agg #[.int .i64 md, .int .i64 0, .int .u32 0, .int .i32 0], .slice ao len cap] w fun e w' => e = .returned (gotS 1 0 0 0 0) ∧ w.grownBy w' none := by
  subst hmd
  go_enter Try.func10, Try.ntmps10
  go_wp2_with (first | (go_at_call 12; refine (hasR_any hf.out _).mono ?_; rintro e wq ⟨rfl, hw⟩; obtain rfl := hw) | (go_at_call 22; refine (fitsR_any hf.out 0 0 0 0 _ true hfit.out).mono ?_; rintro e w1 ⟨rfl, hg1⟩; have sr1 := Hid.mk' (SQ.mk1 hg1); obtain ⟨s0, s1, s2, s3⟩ := sr1.out.cells; have fz1 := froz_at sr1.out.st; have rb := sr1.out.res; have r0 := cell_at rb 0 rfl; have r1 := cell_at rb 1 rfl; have r2 := cell_at rb 2 rfl; have r3 := cell_at rb 3 rfl; have r4 := cell_at rb 4 rfl; have r5 := cell_at rb 5 rfl; have r6 := cell_at rb 6 rfl; have r7 := cell_at rb 7 rfl; have r8 := cell_at rb 8 rfl; have fz := froz_at rb; clear rb) | (go_at_call 23; refine (marked_any hf.out _).mono ?_; rintro e wq ⟨rfl, hw⟩; obtain rfl := hw) | (go_at_call 24; refine (size_any hf.out _).mono ?_; rintro e wq ⟨rfl, hw⟩; obtain rfl := hw))
  refine bodyPost_ret (v := gotS 1 0 0 0 0) (by simp [results, Try.results10, go_sem, r0, r1, r2, r3, r4, r5, r6, r7, r8]) rfl ⟨rfl, ?_⟩
  (repeat (first | with_reducible exact grownBy_refl _ _ | (with_reducible refine gs ?_ ?_; first | omega | (simp; omega)) | with_reducible refine ga ?_ | with_reducible refine gd ?_ | with_reducible refine gdn ?_ | with_reducible refine gt ?_ (by assumption)))

set_option maxRecDepth 100000 in
set_option maxHeartbeats 4000000 in
theorem getW_m1 (k md : Int) (n : Nat) (p low : Bool) (hf : Hid (fm k = some (n, p, true, low))) (hfit : Hid (fitB true md 0 0 0 = true)) (hn : Hid (n = 2 ∨ n = 4)) (ao : Option Addr) (len cap : Nat) (L : List UInt8) (w : World) (hB : Hid (Bytes w ao L)) (hlen : Hid (L.length = len)) (hx : len ≤ 140737488355328) (hcap : len ≤ cap) (hcm : cap ≤ 9223372036854775807) (hl : n ≤ len) (hmd : md = 0) (v1 : Hid ((num false n L : Int) = 65279)) :
    Calls Try.prog 10 #[.int .i64 k, .agg #[.int .i64 md, .int .i64 0, .int .u32 0, .int .i32 0], .slice ao len cap] w fun e w' => e = .returned (gotS 0 (n : Int) 0 0 1) ∧ w.grownBy w' none := by
  subst hmd
  go_enter Try.func10, Try.ntmps10
  go_wp2_with (first | (go_at_call 12; refine (hasR_any hf.out _).mono ?_; rintro e wq ⟨rfl, hw⟩; obtain rfl := hw) | (go_at_call 22; refine (fitsR_any hf.out 0 0 0 0 _ true hfit.out).mono ?_; rintro e w1 ⟨rfl, hg1⟩; have sr1 := Hid.mk' (SQ.mk1 hg1); obtain ⟨s0, s1, s2, s3⟩ := sr1.out.cells; have fz1 := froz_at sr1.out.st; have rb := sr1.out.res; have r0 := cell_at rb 0 rfl; have r1 := cell_at rb 1 rfl; have r2 := cell_at rb 2 rfl; have r3 := cell_at rb 3 rfl; have r4 := cell_at rb 4 rfl; have r5 := cell_at rb 5 rfl; have r6 := cell_at rb 6 rfl; have r7 := cell_at rb 7 rfl; have r8 := cell_at rb 8 rfl; have fz := froz_at rb; clear rb) | (go_at_call 23; refine (marked_any hf.out _).mono ?_; rintro e wq ⟨rfl, hw⟩; obtain rfl := hw) | (go_at_call 24; refine (size_any hf.out _).mono ?_; rintro e wq ⟨rfl, hw⟩; obtain rfl := hw) | (go_at_call_of 25 (Value.bool false); refine (numberR_any false n hn.out _ len cap L _ ?_ hlen.out hl hx _ v1.out).mono ?_; exact (hB.out.kept0 sr1.out.g); rintro e wq ⟨rfl, hw⟩; obtain rfl := hw))
  refine bodyPost_ret (v := gotS 0 (n : Int) 0 0 1) (by simp [results, Try.results10, go_sem, r0, r1, r2, r3, r4, r5, r6, r7, r8]) rfl ⟨rfl, ?_⟩
  (repeat (first | with_reducible exact grownBy_refl _ _ | (with_reducible refine gs ?_ ?_; first | omega | (simp; omega)) | with_reducible refine ga ?_ | with_reducible refine gd ?_ | with_reducible refine gdn ?_ | with_reducible refine gt ?_ (by assumption)))

set_option maxRecDepth 100000 in
set_option maxHeartbeats 4000000 in
theorem getW_m2 (k md : Int) (n : Nat) (p low : Bool) (hf : Hid (fm k = some (n, p, true, low))) (hfit : Hid (fitB true md 0 0 0 = true)) (hn : Hid (n = 2 ∨ n = 4)) (ao : Option Addr) (len cap : Nat) (L : List UInt8) (w : World) (hB : Hid (Bytes w ao L)) (hlen : Hid (L.length = len)) (hx : len ≤ 140737488355328) (hcap : len ≤ cap) (hcm : cap ≤ 9223372036854775807) (hl : n ≤ len) (hmd : md = 0) (v : Int) (v1 : Hid ((num false n L : Int) = v)) (hv : (v == 65279) = false) (v2 : Hid ((num true n L : Int) = 65279)) :
    Calls Try.prog 10 #[.int .i64 k, .agg #[.int .i64 md, .int .i64 0, .int .u32 0, .int .i32 0], .slice ao len cap] w fun e w' => e = .returned (gotS 0 (n : Int) 0 0 2) ∧ w.grownBy w' none := by
  subst hmd
  go_enter Try.func10, Try.ntmps10
  go_wp2_with (first | (go_at_call 12; refine (hasR_any hf.out _).mono ?_; rintro e wq ⟨rfl, hw⟩; obtain rfl := hw) | (go_at_call 22; refine (fitsR_any hf.out 0 0 0 0 _ true hfit.out).mono ?_; rintro e w1 ⟨rfl, hg1⟩; have sr1 := Hid.mk' (SQ.mk1 hg1); obtain ⟨s0, s1, s2, s3⟩ := sr1.out.cells; have fz1 := froz_at sr1.out.st; have rb := sr1.out.res; have r0 := cell_at rb 0 rfl; have r1 := cell_at rb 1 rfl; have r2 := cell_at rb 2 rfl; have r3 := cell_at rb 3 rfl; have r4 := cell_at rb 4 rfl; have r5 := cell_at rb 5 rfl; have r6 := cell_at rb 6 rfl; have r7 := cell_at rb 7 rfl; have r8 := cell_at rb 8 rfl; have fz := froz_at rb; clear rb) | (go_at_call 23; refine (marked_any hf.out _).mono ?_; rintro e wq ⟨rfl, hw⟩; obtain rfl := hw) | (go_at_call 24; refine (size_any hf.out _).mono ?_; rintro e wq ⟨rfl, hw⟩; obtain rfl := hw) | (go_at_call_of 25 (Value.bool false); refine (numberR_any false n hn.out _ len cap L _ ?_ hlen.out hl hx _ v1.out).mono ?_; exact (hB.out.kept0 sr1.out.g); rintro e wq ⟨rfl, hw⟩; obtain rfl := hw) | (go_at_call_of 25 (Value.bool true); refine (numberR_any true n hn.out _ len cap L _ ?_ hlen.out hl hx _ v2.out).mono ?_; exact (hB.out.kept0 sr1.out.g); rintro e wq ⟨rfl, hw⟩; obtain rfl := hw))
  refine bodyPost_ret (v := gotS 0 (n : Int) 0 0 2) (by simp [results, Try.results10, go_sem, r0, r1, r2, r3, r4, r5, r6, r7, r8]) rfl ⟨rfl, ?_⟩
  (repeat (first | with_reducible exact grownBy_refl _ _ | (with_reducible refine gs ?_ ?_; first | omega | (simp; omega)) | with_reducible refine ga ?_ | with_reducible refine gd ?_ | with_reducible refine gdn ?_ | with_reducible refine gt ?_ (by assumption)))

set_option maxRecDepth 100000 in
set_option maxHeartbeats 4000000 in
theorem getW_none (k md bi ac he : Int) (h : Hid (k < 3 ∨ 10 < k)) (ao : Option Addr) (len cap : Nat) (w : World) :
    Calls Try.prog 10 #[.int .i64 k, .agg #[.int .i64 md, .int .i64 bi, .int .u32 ac, .int .i32 he], .slice ao len cap] w fun e w' => e = .returned (gotS 5 0 0 0 0) ∧ w.grownBy w' none := by
  go_enter Try.func10, Try.ntmps10
  go_wp2_with (first | (go_at_call 12; refine (hasR_none k h.out _).mono ?_; rintro e wq ⟨rfl, hw⟩; obtain rfl := hw))
  refine bodyPost_ret (v := gotS 5 0 0 0 0) (by simp [results, Try.results10, go_sem]) rfl ⟨rfl, ?_⟩
  (repeat (first | with_reducible exact grownBy_refl _ _ | (with_reducible refine gs ?_ ?_; first | omega | (simp; omega)) | with_reducible refine ga ?_ | with_reducible refine gd ?_ | with_reducible refine gdn ?_ | with_reducible refine gt ?_ (by assumption)))

set_option maxRecDepth 100000 in
set_option maxHeartbeats 4000000 in
theorem getW_bad (k md bi ac he : Int) (n : Nat) (p m low : Bool) (hf : Hid (fm k = some (n, p, m, low))) (hfit : Hid (fitB m md bi ac he = false)) (ao : Option Addr) (len cap : Nat) (w : World) :
    Calls Try.prog 10 #[.int .i64 k, .agg #[.int .i64 md, .int .i64 bi, .int .u32 ac, .int .i32 he], .slice ao len cap] w fun e w' => e = .returned (gotS 7 0 0 0 0) ∧ w.grownBy w' none := by
  go_enter Try.func10, Try.ntmps10
  go_wp2_with (first | (go_at_call 12; refine (hasR_any hf.out _).mono ?_; rintro e wq ⟨rfl, hw⟩; obtain rfl := hw) | (go_at_call 22; refine (fitsR_any hf.out md bi ac he _ false hfit.out).mono ?_; rintro e w1 ⟨rfl, hg1⟩; have rb := two_second hg1; have r0 := cell_at rb 0 rfl; have r1 := cell_at rb 1 rfl; have r2 := cell_at rb 2 rfl; have r3 := cell_at rb 3 rfl; have r4 := cell_at rb 4 rfl; have r5 := cell_at rb 5 rfl; have r6 := cell_at rb 6 rfl; have r7 := cell_at rb 7 rfl; have r8 := cell_at rb 8 rfl; have fz := froz_at rb; clear rb))
  refine bodyPost_ret (v := gotS 7 0 0 0 0) (by simp [results, Try.results10, go_sem, r0, r1, r2, r3, r4, r5, r6, r7, r8]) rfl ⟨rfl, ?_⟩
  (repeat (first | with_reducible exact grownBy_refl _ _ | (with_reducible refine gs ?_ ?_; first | omega | (simp; omega)) | with_reducible refine ga ?_ | with_reducible refine gd ?_ | with_reducible refine gdn ?_ | with_reducible refine gt ?_ (by assumption)))
end Go.Proofs.Ytkfcciacoplgmaa.Wd

/- The program's step that gets a scalar: walks. -/
import Derived.Test.YtkfcciacoplgmaaStep
import Derived.Test.YtkfcciacoplgmaaFormIn
import Derived.Test.YtkfcciacoplgmaaMark
import Derived.Deep.RegionHeld3
import Derived.BigQuiet
namespace Go.Proofs.Ytkfcciacoplgmaa.Wd
open Go.ChangeShapes Go.WideShapes Go.ChangeAt Go.RowKit Go.Proofs.Ytkfcciacoplgmaa.Mem Go.Proofs.Ytkfcciacoplgmaa.Ucs
set_option linter.unusedVariables false
set_option linter.unusedSimpArgs false

/-- Where the step stands: the state's block, its result's, the form's. -/
structure SG (w : World) (md : Int) (fb n : Nat) (p m : Bool) (q : Nat) (wx : World) : Prop where
  g : w.grownBy wx none
  st : wx.heap[w.heap.size]? = some (.cells #[.int .i64 md, .int .i64 0, .int .u32 0, .int .i32 0] 24 (0, 0))
  res : wx.heap[w.heap.size + 1]? = some (.cells #[.int .i64 0, .int .i64 0, .int .i64 0, .int .i32 0, .int .i32 0, .int .i64 0, .int .i64 0, .int .u32 0, .int .i32 0] 28 (0, 0))
  fo : wx.heap[fb]? = some (.cells #[.int .i64 (n : Int), .bool p, .bool m, .func (.func q) #[] #[]] 45 (0, 0))
  lt : w.heap.size + 1 < fb
theorem SG.next {w wx wy : World} {md : Int} {fb n : Nat} {p m : Bool} {q : Nat} (h : SG w md fb n p m q wx) (hg : wx.grownBy wy none) : SG w md fb n p m q wy :=
  ⟨grownBy_trans h.g hg, blk_kept h.st hg, blk_kept h.res hg, blk_kept h.fo hg, h.lt⟩
theorem SG.cells {w wx : World} {md : Int} {fb n : Nat} {p m : Bool} {q : Nat} (h : SG w md fb n p m q wx) :
    (wx.cell? ⟨w.heap.size, 0, none⟩ = some (.int .i64 md) ∧ wx.cell? ⟨w.heap.size, 1, none⟩ = some (.int .i64 0) ∧ wx.cell? ⟨w.heap.size, 2, none⟩ = some (.int .u32 0) ∧ wx.cell? ⟨w.heap.size, 3, none⟩ = some (.int .i32 0)) ∧
    (wx.cell? ⟨fb, 0, none⟩ = some (.int .i64 (n : Int)) ∧ wx.cell? ⟨fb, 1, none⟩ = some (.bool p) ∧ wx.cell? ⟨fb, 2, none⟩ = some (.bool m) ∧ wx.cell? ⟨fb, 3, none⟩ = some (.func (.func q) #[] #[])) :=
  ⟨⟨cell_at h.st 0 rfl, cell_at h.st 1 rfl, cell_at h.st 2 rfl, cell_at h.st 3 rfl⟩, ⟨cell_at h.fo 0 rfl, cell_at h.fo 1 rfl, cell_at h.fo 2 rfl, cell_at h.fo 3 rfl⟩⟩
theorem SG.mk1 {w w1 : World} {md : Int} (n : Nat) (p m : Bool) (q : Nat) (hg : ((w.alloc (.cells #[.int .i64 md, .int .i64 0, .int .u32 0, .int .i32 0] 24)).alloc (.cells #[.int .i64 0, .int .i64 0, .int .i64 0, .int .i32 0, .int .i32 0, .int .i64 0, .int .i64 0, .int .u32 0, .int .i32 0] 28)).grownBy w1 none) : SG w md w1.heap.size n p m q (w1.alloc (.cells #[.int .i64 (n : Int), .bool p, .bool m, .func (.func q) #[] #[]] 45)) := by
  refine ⟨ga (gt (ga (ga (grownBy_refl _ _))) hg), res_alloc (two_first hg) _, res_alloc (two_second hg) _, heap_alloc_new w1 _, ?_⟩
  have := hg.size
  simp at this
  omega

set_option maxRecDepth 100000 in
set_option maxHeartbeats 4000000 in
theorem get_more (k md : Int) (n : Nat) (p m low : Bool) (hf : Hid (fm k = some (n, p, m, low))) (hfit : Hid (fitB m md 0 0 0 = true)) (q : Nat) (hq : Hid (fnOf (low || decide (md = 2)) = q)) (ao : Option Addr) (len cap : Nat) (L : List UInt8) (w : World) (hB : Hid (Bytes w ao L)) (hlen : Hid (L.length = len)) (hx : len ≤ 140737488355328) (hcap : len ≤ cap) (hcm : cap ≤ 9223372036854775807) (hl : len < n) :
    Calls Try.prog 9 #[.int .i64 k, .agg #[.int .i64 md, .int .i64 0, .int .u32 0, .int .i32 0], .slice ao len cap] w fun e w' => e = .returned (gotS 1 0 0 0 0) ∧ w.grownBy w' none := by
  go_enter Try.func9, Try.ntmps9
  go_wp2_with (first | (go_at_call 17; refine (formIn_ok k n p m low hf.out md hfit.out q hq.out _).mono ?_; rintro e w1 ⟨rfl, hg1⟩; have sg1 := Hid.mk' (SG.mk1 n p m q hg1); obtain ⟨⟨s0, s1, s2, s3⟩, ⟨f0, f1, f2, f3⟩⟩ := sg1.out.cells; have rb := sg1.out.res; have r0 := cell_at rb 0 rfl; have r1 := cell_at rb 1 rfl; have r2 := cell_at rb 2 rfl; have r3 := cell_at rb 3 rfl; have r4 := cell_at rb 4 rfl; have r5 := cell_at rb 5 rfl; have r6 := cell_at rb 6 rfl; have r7 := cell_at rb 7 rfl; have r8 := cell_at rb 8 rfl; have fz := froz_at rb; clear rb))
  refine bodyPost_ret (v := gotS 1 0 0 0 0) (by simp [results, Try.results9, go_sem, r0, r1, r2, r3, r4, r5, r6, r7, r8]) rfl ⟨rfl, ?_⟩
  (repeat (first | with_reducible exact grownBy_refl _ _ | (with_reducible refine gs ?_ ?_; first | omega | (simp; omega)) | with_reducible refine ga ?_ | with_reducible refine gd ?_ | with_reducible refine gdn ?_ | with_reducible refine gt ?_ (by assumption)))

set_option maxRecDepth 100000 in
set_option maxHeartbeats 4000000 in
theorem get_mark1 (k md : Int) (n : Nat) (p m low : Bool) (hf : Hid (fm k = some (n, p, m, low))) (hfit : Hid (fitB m md 0 0 0 = true)) (q : Nat) (hq : Hid (fnOf (low || decide (md = 2)) = q)) (ao : Option Addr) (len cap : Nat) (L : List UInt8) (w : World) (hB : Hid (Bytes w ao L)) (hlen : Hid (L.length = len)) (hx : len ≤ 140737488355328) (hcap : len ≤ cap) (hcm : cap ≤ 9223372036854775807) (he : Hid ((m && decide (md = 0)) = true)) (hl : n ≤ len) (v1 : Hid (wrap32 (num false n L : Int) = 65279)) :
    Calls Try.prog 9 #[.int .i64 k, .agg #[.int .i64 md, .int .i64 0, .int .u32 0, .int .i32 0], .slice ao len cap] w fun e w' => e = .returned (gotS 0 (n : Int) 0 0 1) ∧ w.grownBy w' none := by
  have h1 : 1 ≤ n := by rcases (fm_facts hf.out).2.2.1 with h | h <;> omega
  have h4 : n ≤ 4 := by rcases (fm_facts hf.out).2.2.1 with h | h <;> omega
  go_enter Try.func9, Try.ntmps9
  go_wp2_with (first | (go_at_call 17; refine (formIn_ok k n p m low hf.out md hfit.out q hq.out _).mono ?_; rintro e w1 ⟨rfl, hg1⟩; have sg1 := Hid.mk' (SG.mk1 n p m q hg1); obtain ⟨⟨s0, s1, s2, s3⟩, ⟨f0, f1, f2, f3⟩⟩ := sg1.out.cells) | (go_at_call 18; refine (expects_any _ _ _ _ _ _ _ _ _ true he.out).mono ?_; rintro e w2 ⟨rfl, hg2⟩; have sg2 := Hid.mk' (sg1.out.next hg2); clear s0 s1 s2 s3 f0 f1 f2 f3; obtain ⟨⟨s0, s1, s2, s3⟩, ⟨f0, f1, f2, f3⟩⟩ := sg2.out.cells) | (go_at_call 19; refine (markAt_1 q n p m h1 h4 _ len cap L _ ?_ hlen hl hx v1).mono ?_; exact (hB.out.kept0 sg2.out.g); rintro e w3 ⟨rfl, hg3⟩; have sg3 := Hid.mk' (sg2.out.next hg3); clear s0 s1 s2 s3 f0 f1 f2 f3; obtain ⟨⟨s0, s1, s2, s3⟩, ⟨f0, f1, f2, f3⟩⟩ := sg3.out.cells; have rb := sg3.out.res; have r0 := cell_at rb 0 rfl; have r1 := cell_at rb 1 rfl; have r2 := cell_at rb 2 rfl; have r3 := cell_at rb 3 rfl; have r4 := cell_at rb 4 rfl; have r5 := cell_at rb 5 rfl; have r6 := cell_at rb 6 rfl; have r7 := cell_at rb 7 rfl; have r8 := cell_at rb 8 rfl; have fz := froz_at rb; clear rb))
  refine bodyPost_ret (v := gotS 0 (n : Int) 0 0 1) (by simp [results, Try.results9, go_sem, r0, r1, r2, r3, r4, r5, r6, r7, r8]) rfl ⟨rfl, ?_⟩
  (repeat (first | with_reducible exact grownBy_refl _ _ | (with_reducible refine gs ?_ ?_; first | omega | (simp; omega)) | with_reducible refine ga ?_ | with_reducible refine gd ?_ | with_reducible refine gdn ?_ | with_reducible refine gt ?_ (by assumption)))

set_option maxRecDepth 100000 in
set_option maxHeartbeats 4000000 in
theorem get_mark2 (k md : Int) (n : Nat) (p m low : Bool) (hf : Hid (fm k = some (n, p, m, low))) (hfit : Hid (fitB m md 0 0 0 = true)) (q : Nat) (hq : Hid (fnOf (low || decide (md = 2)) = q)) (ao : Option Addr) (len cap : Nat) (L : List UInt8) (w : World) (hB : Hid (Bytes w ao L)) (hlen : Hid (L.length = len)) (hx : len ≤ 140737488355328) (hcap : len ≤ cap) (hcm : cap ≤ 9223372036854775807) (he : Hid ((m && decide (md = 0)) = true)) (hl : n ≤ len) (v : Int) (v1 : Hid (wrap32 (num false n L : Int) = v)) (hv : Hid ((v == 65279) = false)) (v2 : Hid (wrap32 (num true n L : Int) = 65279)) :
    Calls Try.prog 9 #[.int .i64 k, .agg #[.int .i64 md, .int .i64 0, .int .u32 0, .int .i32 0], .slice ao len cap] w fun e w' => e = .returned (gotS 0 (n : Int) 0 0 2) ∧ w.grownBy w' none := by
  have h1 : 1 ≤ n := by rcases (fm_facts hf.out).2.2.1 with h | h <;> omega
  have h4 : n ≤ 4 := by rcases (fm_facts hf.out).2.2.1 with h | h <;> omega
  go_enter Try.func9, Try.ntmps9
  go_wp2_with (first | (go_at_call 17; refine (formIn_ok k n p m low hf.out md hfit.out q hq.out _).mono ?_; rintro e w1 ⟨rfl, hg1⟩; have sg1 := Hid.mk' (SG.mk1 n p m q hg1); obtain ⟨⟨s0, s1, s2, s3⟩, ⟨f0, f1, f2, f3⟩⟩ := sg1.out.cells) | (go_at_call 18; refine (expects_any _ _ _ _ _ _ _ _ _ true he.out).mono ?_; rintro e w2 ⟨rfl, hg2⟩; have sg2 := Hid.mk' (sg1.out.next hg2); clear s0 s1 s2 s3 f0 f1 f2 f3; obtain ⟨⟨s0, s1, s2, s3⟩, ⟨f0, f1, f2, f3⟩⟩ := sg2.out.cells) | (go_at_call 19; refine (markAt_2 q n p m h1 h4 _ len cap L _ ?_ hlen hl hx v v1 hv.out v2).mono ?_; exact (hB.out.kept0 sg2.out.g); rintro e w3 ⟨rfl, hg3⟩; have sg3 := Hid.mk' (sg2.out.next hg3); clear s0 s1 s2 s3 f0 f1 f2 f3; obtain ⟨⟨s0, s1, s2, s3⟩, ⟨f0, f1, f2, f3⟩⟩ := sg3.out.cells; have rb := sg3.out.res; have r0 := cell_at rb 0 rfl; have r1 := cell_at rb 1 rfl; have r2 := cell_at rb 2 rfl; have r3 := cell_at rb 3 rfl; have r4 := cell_at rb 4 rfl; have r5 := cell_at rb 5 rfl; have r6 := cell_at rb 6 rfl; have r7 := cell_at rb 7 rfl; have r8 := cell_at rb 8 rfl; have fz := froz_at rb; clear rb))
  refine bodyPost_ret (v := gotS 0 (n : Int) 0 0 2) (by simp [results, Try.results9, go_sem, r0, r1, r2, r3, r4, r5, r6, r7, r8]) rfl ⟨rfl, ?_⟩
  (repeat (first | with_reducible exact grownBy_refl _ _ | (with_reducible refine gs ?_ ?_; first | omega | (simp; omega)) | with_reducible refine ga ?_ | with_reducible refine gd ?_ | with_reducible refine gdn ?_ | with_reducible refine gt ?_ (by assumption)))
end Go.Proofs.Ytkfcciacoplgmaa.Wd

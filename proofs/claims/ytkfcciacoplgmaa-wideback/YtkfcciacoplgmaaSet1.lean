/- The program's step that puts out a scalar: walks. -/
import Derived.Test.YtkfcciacoplgmaaUnitsP
import Derived.Test.YtkfcciacoplgmaaFormIn
import Derived.Deep.RegionHeld3
import Derived.BigQuiet
namespace Go.Proofs.Ytkfcciacoplgmaa.Wd
open Go.ChangeShapes Go.WideShapes Go.ChangeAt Go.RowKit Go.Proofs.Ytkfcciacoplgmaa.Mem Go.Proofs.Ytkfcciacoplgmaa.Ucs
set_option linter.unusedVariables false
set_option linter.unusedSimpArgs false

abbrev putS (e : Int) (s : ByteArray) (md : Int) : Value := .agg #[.int .i64 e, .string s, .int .i64 md, .int .i64 0, .int .u32 0, .int .i32 0]
/-- Where the step stands: the state's block, its result's, the form's. -/
structure SP (w : World) (md : Int) (fb n : Nat) (p m : Bool) (q : Nat) (wx : World) : Prop where
  g : w.grownBy wx none
  st : wx.heap[w.heap.size]? = some (.cells #[.int .i64 md, .int .i64 0, .int .u32 0, .int .i32 0] 24 (0, 0))
  res : wx.heap[w.heap.size + 1]? = some (.cells #[.int .i64 0, .string ⟨#[]⟩, .int .i64 0, .int .i64 0, .int .u32 0, .int .i32 0] 33 (0, 0))
  fo : wx.heap[fb]? = some (.cells #[.int .i64 (n : Int), .bool p, .bool m, .func (.func q) #[] #[]] 45 (0, 0))
theorem SP.next {w wx wy : World} {md : Int} {fb n : Nat} {p m : Bool} {q : Nat} (h : SP w md fb n p m q wx) (hg : wx.grownBy wy none) : SP w md fb n p m q wy :=
  ⟨grownBy_trans h.g hg, blk_kept h.st hg, blk_kept h.res hg, blk_kept h.fo hg⟩
theorem SP.cells {w wx : World} {md : Int} {fb n : Nat} {p m : Bool} {q : Nat} (h : SP w md fb n p m q wx) :
    (wx.cell? ⟨w.heap.size, 0, none⟩ = some (.int .i64 md) ∧ wx.cell? ⟨w.heap.size, 1, none⟩ = some (.int .i64 0) ∧ wx.cell? ⟨w.heap.size, 2, none⟩ = some (.int .u32 0) ∧ wx.cell? ⟨w.heap.size, 3, none⟩ = some (.int .i32 0)) ∧
    (wx.cell? ⟨fb, 0, none⟩ = some (.int .i64 (n : Int)) ∧ wx.cell? ⟨fb, 1, none⟩ = some (.bool p) ∧ wx.cell? ⟨fb, 2, none⟩ = some (.bool m) ∧ wx.cell? ⟨fb, 3, none⟩ = some (.func (.func q) #[] #[])) :=
  ⟨⟨cell_at h.st 0 rfl, cell_at h.st 1 rfl, cell_at h.st 2 rfl, cell_at h.st 3 rfl⟩, ⟨cell_at h.fo 0 rfl, cell_at h.fo 1 rfl, cell_at h.fo 2 rfl, cell_at h.fo 3 rfl⟩⟩
theorem SP.mk1 {w w1 : World} {md : Int} (n : Nat) (p m : Bool) (q : Nat) (hg : ((w.alloc (.cells #[.int .i64 md, .int .i64 0, .int .u32 0, .int .i32 0] 24)).alloc (.cells #[.int .i64 0, .string ⟨#[]⟩, .int .i64 0, .int .i64 0, .int .u32 0, .int .i32 0] 33)).grownBy w1 none) : SP w md w1.heap.size n p m q (w1.alloc (.cells #[.int .i64 (n : Int), .bool p, .bool m, .func (.func q) #[] #[]] 45)) :=
  ⟨ga (gt (ga (ga (grownBy_refl _ _))) hg), res_alloc (two_first hg) _, res_alloc (two_second hg) _, heap_alloc_new w1 _⟩
/-- A scalar's bytes in one order, if it has a place. -/
def bytesR (p low : Bool) (n : Nat) (u : Int) : Option (List UInt8) :=
  if scB u = false then none else if n = 4 ∨ u ≤ 65535 then some (unitB low n u.toNat) else if p = true then some (unitB low n (splitH u).toNat ++ unitB low n (splitL u).toNat) else none
theorem str_append (A B : List UInt8) : str A ++ str B = str (A ++ B) := by
  apply ByteArray.ext
  simp [str]

set_option maxRecDepth 100000 in
set_option maxHeartbeats 4000000 in
theorem set_no (k md : Int) (n : Nat) (p m low : Bool) (hf : Hid (fm k = some (n, p, m, low))) (hfit : Hid (fitB m md 0 0 0 = true)) (q : Nat) (hq : Hid (fnOf (low || decide (md = 2)) = q)) (u : Int) (w : World) (hU : Hid (∀ w : World, Calls Try.prog 29 #[.agg #[.int .i64 (n : Int), .bool p, .bool m, .func (.func q) #[] #[]], .int .i32 u] w fun e w' => e = .returned (.tuple #[.string ⟨#[]⟩, .bool false]) ∧ w.grownBy w' none)) :
    Calls Try.prog 13 #[.int .i64 k, .agg #[.int .i64 md, .int .i64 0, .int .u32 0, .int .i32 0], .int .i32 u] w fun e w' => e = .returned (putS 11 ⟨#[]⟩ 0) ∧ w.grownBy w' none := by
  go_enter Try.func13, Try.ntmps13
  go_wp2_with (first | (go_at_call 17; refine (formIn_ok k n p m low hf.out md hfit.out q hq.out _).mono ?_; rintro e w1 ⟨rfl, hg1⟩; have sg1 := Hid.mk' (SP.mk1 n p m q hg1); obtain ⟨⟨s0, s1, s2, s3⟩, ⟨f0, f1, f2, f3⟩⟩ := sg1.out.cells) | (go_at_call 29; refine (hU.out _).mono ?_; rintro e w2 ⟨rfl, hg2⟩; have sg2 := Hid.mk' (sg1.out.next hg2); clear s0 s1 s2 s3 f0 f1 f2 f3; obtain ⟨⟨s0, s1, s2, s3⟩, ⟨f0, f1, f2, f3⟩⟩ := sg2.out.cells; have rb := sg2.out.res; have r0 := cell_at rb 0 rfl; have r1 := cell_at rb 1 rfl; have r2 := cell_at rb 2 rfl; have r3 := cell_at rb 3 rfl; have r4 := cell_at rb 4 rfl; have r5 := cell_at rb 5 rfl; have fz := froz_at rb; clear rb))
  refine bodyPost_ret (v := putS 11 ⟨#[]⟩ 0) (by simp [results, Try.results13, go_sem, r0, r1, r2, r3, r4, r5]) rfl ⟨rfl, ?_⟩
  (repeat (first | with_reducible exact grownBy_refl _ _ | (with_reducible refine gs ?_ ?_; first | omega | (simp; omega)) | with_reducible refine ga ?_ | with_reducible refine gd ?_ | with_reducible refine gdn ?_ | with_reducible refine gt ?_ (by assumption)))

set_option maxRecDepth 100000 in
set_option maxHeartbeats 4000000 in
theorem set_plain (k md : Int) (n : Nat) (p m low : Bool) (hf : Hid (fm k = some (n, p, m, low))) (hfit : Hid (fitB m md 0 0 0 = true)) (q : Nat) (hq : Hid (fnOf (low || decide (md = 2)) = q)) (u : Int) (w : World) (s : ByteArray) (hU : Hid (∀ w : World, Calls Try.prog 29 #[.agg #[.int .i64 (n : Int), .bool p, .bool m, .func (.func q) #[] #[]], .int .i32 u] w fun e w' => e = .returned (.tuple #[.string s, .bool true]) ∧ w.grownBy w' none)) (he : Hid ((m && decide (md = 0)) = false)) :
    Calls Try.prog 13 #[.int .i64 k, .agg #[.int .i64 md, .int .i64 0, .int .u32 0, .int .i32 0], .int .i32 u] w fun e w' => e = .returned (putS 0 s md) ∧ w.grownBy w' none := by
  go_enter Try.func13, Try.ntmps13
  go_wp2_with (first | (go_at_call 17; refine (formIn_ok k n p m low hf.out md hfit.out q hq.out _).mono ?_; rintro e w1 ⟨rfl, hg1⟩; have sg1 := Hid.mk' (SP.mk1 n p m q hg1); obtain ⟨⟨s0, s1, s2, s3⟩, ⟨f0, f1, f2, f3⟩⟩ := sg1.out.cells) | (go_at_call 29; refine (hU.out _).mono ?_; rintro e w2 ⟨rfl, hg2⟩; have sg2 := Hid.mk' (sg1.out.next hg2); clear s0 s1 s2 s3 f0 f1 f2 f3; obtain ⟨⟨s0, s1, s2, s3⟩, ⟨f0, f1, f2, f3⟩⟩ := sg2.out.cells) | (go_at_call 18; refine (expects_any _ _ _ _ _ _ _ _ _ false he.out).mono ?_; rintro e w3 ⟨rfl, hg3⟩; have sg3 := Hid.mk' (sg2.out.next hg3); clear s0 s1 s2 s3 f0 f1 f2 f3; obtain ⟨⟨s0, s1, s2, s3⟩, ⟨f0, f1, f2, f3⟩⟩ := sg3.out.cells) | (go_at_call 21; refine (behind_false _ _ _ _ _ _ he.out).mono ?_; rintro e w5 ⟨rfl, hg5⟩; have sg5 := Hid.mk' (sg3.out.next hg5); clear s0 s1 s2 s3 f0 f1 f2 f3; have rb := sg5.out.res; have r0 := cell_at rb 0 rfl; have r1 := cell_at rb 1 rfl; have r2 := cell_at rb 2 rfl; have r3 := cell_at rb 3 rfl; have r4 := cell_at rb 4 rfl; have r5 := cell_at rb 5 rfl; have fz := froz_at rb; clear rb))
  refine bodyPost_ret (v := putS 0 s md) (by simp [results, Try.results13, go_sem, r0, r1, r2, r3, r4, r5]) rfl ⟨rfl, ?_⟩
  (repeat (first | with_reducible exact grownBy_refl _ _ | (with_reducible refine gs ?_ ?_; first | omega | (simp; omega)) | with_reducible refine ga ?_ | with_reducible refine gd ?_ | with_reducible refine gdn ?_ | with_reducible refine gt ?_ (by assumption)))

set_option maxRecDepth 100000 in
set_option maxHeartbeats 4000000 in
theorem set_mark (k md : Int) (n : Nat) (p m low : Bool) (hf : Hid (fm k = some (n, p, m, low))) (hfit : Hid (fitB m md 0 0 0 = true)) (q : Nat) (hq : Hid (fnOf (low || decide (md = 2)) = q)) (u : Int) (w : World) (s t : ByteArray) (hU : Hid (∀ w : World, Calls Try.prog 29 #[.agg #[.int .i64 (n : Int), .bool p, .bool m, .func (.func q) #[] #[]], .int .i32 u] w fun e w' => e = .returned (.tuple #[.string s, .bool true]) ∧ w.grownBy w' none)) (he : Hid ((m && decide (md = 0)) = true)) (hn : Hid (n = 2 ∨ n = 4)) (hT : Hid (str (unitB (low || decide (md = 2)) n 65279) = t)) (sz : s.size ≤ 4) (tz : t.size ≤ 4) :
    Calls Try.prog 13 #[.int .i64 k, .agg #[.int .i64 md, .int .i64 0, .int .u32 0, .int .i32 0], .int .i32 u] w fun e w' => e = .returned (putS 0 (t ++ s) 1) ∧ w.grownBy w' none := by
  go_enter Try.func13, Try.ntmps13
  go_wp2_with (first | (go_at_call 17; refine (formIn_ok k n p m low hf.out md hfit.out q hq.out _).mono ?_; rintro e w1 ⟨rfl, hg1⟩; have sg1 := Hid.mk' (SP.mk1 n p m q hg1); obtain ⟨⟨s0, s1, s2, s3⟩, ⟨f0, f1, f2, f3⟩⟩ := sg1.out.cells) | (go_at_call 29; refine (hU.out _).mono ?_; rintro e w2 ⟨rfl, hg2⟩; have sg2 := Hid.mk' (sg1.out.next hg2); clear s0 s1 s2 s3 f0 f1 f2 f3; obtain ⟨⟨s0, s1, s2, s3⟩, ⟨f0, f1, f2, f3⟩⟩ := sg2.out.cells) | (go_at_call 18; refine (expects_any _ _ _ _ _ _ _ _ _ true he.out).mono ?_; rintro e w3 ⟨rfl, hg3⟩; have sg3 := Hid.mk' (sg2.out.next hg3); clear s0 s1 s2 s3 f0 f1 f2 f3; obtain ⟨⟨s0, s1, s2, s3⟩, ⟨f0, f1, f2, f3⟩⟩ := sg3.out.cells) | (go_at_call 30; refine (unit_any q (low || decide (md = 2)) hq.out.symm n hn.out p m 65279 (by omega) 65279 (by rfl) _ t hT.out).mono ?_; rintro e w4 ⟨rfl, hg4⟩; have sg4 := Hid.mk' (sg3.out.next hg4); clear s0 s1 s2 s3 f0 f1 f2 f3; obtain ⟨⟨s0, s1, s2, s3⟩, ⟨f0, f1, f2, f3⟩⟩ := sg4.out.cells) | (go_at_call 21; refine (behind_true _ _ _ _ _ _ he.out).mono ?_; rintro e w5 ⟨rfl, hg5⟩; have sg5 := Hid.mk' (sg4.out.next hg5); clear s0 s1 s2 s3 f0 f1 f2 f3; have rb := sg5.out.res; have r0 := cell_at rb 0 rfl; have r1 := cell_at rb 1 rfl; have r2 := cell_at rb 2 rfl; have r3 := cell_at rb 3 rfl; have r4 := cell_at rb 4 rfl; have r5 := cell_at rb 5 rfl; have fz := froz_at rb; clear rb))
  refine bodyPost_ret (v := putS 0 (t ++ s) 1) (by simp [results, Try.results13, go_sem, r0, r1, r2, r3, r4, r5]) rfl ⟨rfl, ?_⟩
  (repeat (first | with_reducible exact grownBy_refl _ _ | (with_reducible refine gs ?_ ?_; first | omega | (simp; omega)) | with_reducible refine ga ?_ | with_reducible refine gd ?_ | with_reducible refine gdn ?_ | with_reducible refine gt ?_ (by assumption)))

set_option maxRecDepth 100000 in
set_option maxHeartbeats 4000000 in
theorem set_none (k md bi ac he : Int) (h : Hid (k < 3 ∨ 10 < k)) (u : Int) (w : World) :
    Calls Try.prog 13 #[.int .i64 k, .agg #[.int .i64 md, .int .i64 bi, .int .u32 ac, .int .i32 he], .int .i32 u] w fun e w' => e = .returned (putS 5 ⟨#[]⟩ 0) ∧ w.grownBy w' none := by
  go_enter Try.func13, Try.ntmps13
  go_wp2_with (go_at_call 17; refine (formIn_none k h.out md bi ac he _).mono ?_; rintro e w1 ⟨rfl, hg1⟩; have rb := res_alloc (two_second hg1) (.cells #[.int .i64 0, .bool false, .bool false, .nilFunc] 45); have r0 := cell_at rb 0 rfl; have r1 := cell_at rb 1 rfl; have r2 := cell_at rb 2 rfl; have r3 := cell_at rb 3 rfl; have r4 := cell_at rb 4 rfl; have r5 := cell_at rb 5 rfl; have fz := froz_at rb; clear rb)
  refine bodyPost_ret (v := putS 5 ⟨#[]⟩ 0) (by simp [results, Try.results13, go_sem, r0, r1, r2, r3, r4, r5]) rfl ⟨rfl, ?_⟩
  (repeat (first | with_reducible exact grownBy_refl _ _ | (with_reducible refine gs ?_ ?_; first | omega | (simp; omega)) | with_reducible refine ga ?_ | with_reducible refine gd ?_ | with_reducible refine gdn ?_ | with_reducible refine gt ?_ (by assumption)))

set_option maxRecDepth 100000 in
set_option maxHeartbeats 4000000 in
theorem set_bad (k md bi ac he : Int) (n : Nat) (p m low : Bool) (h : Hid (fm k = some (n, p, m, low))) (hfit : Hid (fitB m md bi ac he = false)) (u : Int) (w : World) :
    Calls Try.prog 13 #[.int .i64 k, .agg #[.int .i64 md, .int .i64 bi, .int .u32 ac, .int .i32 he], .int .i32 u] w fun e w' => e = .returned (putS 7 ⟨#[]⟩ 0) ∧ w.grownBy w' none := by
  go_enter Try.func13, Try.ntmps13
  go_wp2_with (go_at_call 17; refine (formIn_bad k n p m low h md bi ac he hfit _).mono ?_; rintro e w1 ⟨rfl, hg1⟩; have rb := res_alloc (two_second hg1) (.cells #[.int .i64 0, .bool false, .bool false, .nilFunc] 45); have r0 := cell_at rb 0 rfl; have r1 := cell_at rb 1 rfl; have r2 := cell_at rb 2 rfl; have r3 := cell_at rb 3 rfl; have r4 := cell_at rb 4 rfl; have r5 := cell_at rb 5 rfl; have fz := froz_at rb; clear rb)
  refine bodyPost_ret (v := putS 7 ⟨#[]⟩ 0) (by simp [results, Try.results13, go_sem, r0, r1, r2, r3, r4, r5]) rfl ⟨rfl, ?_⟩
  (repeat (first | with_reducible exact grownBy_refl _ _ | (with_reducible refine gs ?_ ?_; first | omega | (simp; omega)) | with_reducible refine ga ?_ | with_reducible refine gd ?_ | with_reducible refine gdn ?_ | with_reducible refine gt ?_ (by assumption)))
end Go.Proofs.Ytkfcciacoplgmaa.Wd

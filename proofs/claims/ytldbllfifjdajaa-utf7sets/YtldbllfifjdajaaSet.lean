/- The program's step that puts out a scalar: walks. -/
import Derived.Test.YtldbllfifjdajaaRefBits
namespace Go.Proofs.Ytldbllfifjdajaa.Sv
open Go.ChangeShapes Go.WideShapes Go.ChangeAt Go.RowKit Go.Proofs.Ytldbllfifjdajaa.Mem Go.Proofs.Ytldbllfifjdajaa.Ucs
set_option linter.unusedVariables false
set_option linter.unusedSimpArgs false

/-- Where a step stands: the state's block, its result's. -/
structure SB (w : World) (md bi ac he : Int) (wx : World) : Prop where
  g : w.grownBy wx none
  st : wx.heap[w.heap.size]? = some (.cells #[.int .i64 md, .int .i64 bi, .int .u32 ac, .int .i32 he] 24 (0, 0))
  res : wx.heap[w.heap.size + 1]? = some (.cells #[.int .i64 0, .string ⟨#[]⟩, .int .i64 0, .int .i64 0, .int .u32 0, .int .i32 0] 29 (0, 0))
theorem SB.next {w wx wy : World} {md bi ac he : Int} (h : SB w md bi ac he wx) (hg : wx.grownBy wy none) : SB w md bi ac he wy :=
  ⟨grownBy_trans h.g hg, blk_kept h.st hg, blk_kept h.res hg⟩
theorem SB.drew {w wx : World} {md bi ac he : Int} (h : SB w md bi ac he wx) : SB w md bi ac he wx.drew := ⟨gd h.g, h.st, h.res⟩
theorem SB.alloc {w wx : World} {md bi ac he : Int} (h : SB w md bi ac he wx) (o : Obj) : SB w md bi ac he (wx.alloc o) := h.next (World.grownBy_alloc _ _ _)
theorem SB.mk0 (w : World) (md bi ac he : Int) : SB w md bi ac he ((w.alloc (.cells #[.int .i64 md, .int .i64 bi, .int .u32 ac, .int .i32 he] 24)).alloc (.cells #[.int .i64 0, .string ⟨#[]⟩, .int .i64 0, .int .i64 0, .int .u32 0, .int .i32 0] 29)) :=
  ⟨ga (ga (grownBy_refl _ _)), res_alloc (heap_alloc_new w _) _, by simpa using heap_alloc_new (w.alloc (.cells #[.int .i64 md, .int .i64 bi, .int .u32 ac, .int .i32 he] 24)) (.cells #[.int .i64 0, .string ⟨#[]⟩, .int .i64 0, .int .i64 0, .int .u32 0, .int .i32 0] 29)⟩
theorem SB.cells {w wx : World} {md bi ac he : Int} (h : SB w md bi ac he wx) :
    (wx.cell? ⟨w.heap.size, 0, none⟩ = some (.int .i64 md) ∧ wx.cell? ⟨w.heap.size, 1, none⟩ = some (.int .i64 bi) ∧ wx.cell? ⟨w.heap.size, 2, none⟩ = some (.int .u32 ac) ∧ wx.cell? ⟨w.heap.size, 3, none⟩ = some (.int .i32 he)) ∧
    (wx.cell? ⟨w.heap.size + 1, 0, none⟩ = some (.int .i64 0) ∧ wx.cell? ⟨w.heap.size + 1, 1, none⟩ = some (.string ⟨#[]⟩) ∧ wx.cell? ⟨w.heap.size + 1, 2, none⟩ = some (.int .i64 0) ∧ wx.cell? ⟨w.heap.size + 1, 3, none⟩ = some (.int .i64 0) ∧ wx.cell? ⟨w.heap.size + 1, 4, none⟩ = some (.int .u32 0) ∧ wx.cell? ⟨w.heap.size + 1, 5, none⟩ = some (.int .i32 0)) ∧
    (∀ i, wx.frozen? ⟨w.heap.size, i, none⟩ = false) ∧ (∀ i, wx.frozen? ⟨w.heap.size + 1, i, none⟩ = false) ∧ w.heap.size < wx.heap.size ∧ w.heap.size + 1 < wx.heap.size :=
  ⟨⟨cell_at h.st 0 rfl, cell_at h.st 1 rfl, cell_at h.st 2 rfl, cell_at h.st 3 rfl⟩, ⟨cell_at h.res 0 rfl, cell_at h.res 1 rfl, cell_at h.res 2 rfl, cell_at h.res 3 rfl, cell_at h.res 4 rfl, cell_at h.res 5 rfl⟩, froz_at h.st, froz_at h.res, lt_of_block h.st, lt_of_block h.res⟩
theorem scalar_is (u : Int) (w : World) (t : Bool) (ht : scB u = t) : Calls Try.prog 12 #[.int .i32 u] w fun e w' => e = .returned (.bool t) ∧ w' = w := by subst ht; exact scalar_any u w
theorem scalarR_is (u : Int) (w : World) (t : Bool) (ht : scB u = t) : Calls Try.prog 16 #[.int .i32 u] w fun e w' => e = .returned (.bool t) ∧ w' = w := by subst ht; exact scalar_ref u w
theorem contains_pl (s : ByteArray) (hs : s.data.toList = plainL) (u : Int) (hsc : scB u = true) (w : World) (t : Bool) (ht : hasB plainL u = t) : Calls Try.prog 13 #[.string s, .int .i32 u] w fun e w' => e = .returned (.bool t) ∧ w.grownBy w' none := by
  have hz : s.size = 75 := by show s.data.toList.length = 75; rw [hs]; rfl
  exact contains_any s (by rw [hs]; exact plain_ascii) (by omega) (by omega) u hsc w t (by rw [hs]; exact ht)

set_option maxRecDepth 100000 in
set_option maxHeartbeats 4000000 in
theorem set_bad (md bi ac he : Int) (hw : Hid (wrB md bi ac he = false)) (u : Int) (w : World) : Calls Try.prog 6 #[stV md bi ac he, .int .i32 u] w fun e w' => e = .returned (putV 7 ⟨#[]⟩ 0 0 0) ∧ w.grownBy w' none := by
  go_enter Try.func6, Try.ntmps6
  go_wp2_with (first | (go_at_call 8; refine (wr_any md bi ac he _ false hw.out).mono ?_; rintro e w1 ⟨rfl, hg1⟩; have sb1 := Hid.mk' ((SB.mk0 w md bi ac he).next hg1); obtain ⟨⟨s0, s1, s2, s3⟩, ⟨r0, r1, r2, r3, r4, r5⟩, fs, fr, z0, z1⟩ := sb1.out.cells))
  refine bodyPost_ret (v := putV 7 ⟨#[]⟩ 0 0 0) (by simp [results, Try.results6, go_sem, r0, r1, r2, r3, r4, r5, z1, Nat.ne_of_lt z1, (Nat.ne_of_lt z1).symm]) rfl ⟨rfl, ?_⟩
  (repeat (first | with_reducible exact grownBy_refl _ _ | (with_reducible refine gs ?_ ?_; first | omega | (simp; omega)) | with_reducible refine ga ?_ | with_reducible refine gd ?_ | with_reducible refine gdn ?_ | with_reducible refine gt ?_ (by assumption)))

set_option maxRecDepth 100000 in
set_option maxHeartbeats 4000000 in
theorem set_none (md bi ac he : Int) (hw : Hid (wrB md bi ac he = true)) (u : Int) (hs : Hid (scB u = false)) (w : World) : Calls Try.prog 6 #[stV md bi ac he, .int .i32 u] w fun e w' => e = .returned (putV 11 ⟨#[]⟩ 0 0 0) ∧ w.grownBy w' none := by
  go_enter Try.func6, Try.ntmps6
  go_wp2_with (first | (go_at_call 8; refine (wr_any md bi ac he _ true hw.out).mono ?_; rintro e w1 ⟨rfl, hg1⟩; have sb1 := Hid.mk' ((SB.mk0 w md bi ac he).next hg1); obtain ⟨⟨s0, s1, s2, s3⟩, ⟨r0, r1, r2, r3, r4, r5⟩, fs, fr, z0, z1⟩ := sb1.out.cells) | (go_at_call 12; refine (scalar_is u _ false hs.out).mono ?_; rintro e w' ⟨rfl, hw⟩; obtain rfl := hw))
  refine bodyPost_ret (v := putV 11 ⟨#[]⟩ 0 0 0) (by simp [results, Try.results6, go_sem, r0, r1, r2, r3, r4, r5, z1, Nat.ne_of_lt z1, (Nat.ne_of_lt z1).symm]) rfl ⟨rfl, ?_⟩
  (repeat (first | with_reducible exact grownBy_refl _ _ | (with_reducible refine gs ?_ ?_; first | omega | (simp; omega)) | with_reducible refine ga ?_ | with_reducible refine gd ?_ | with_reducible refine gdn ?_ | with_reducible refine gt ?_ (by assumption)))

set_option maxRecDepth 100000 in
set_option maxHeartbeats 4000000 in
theorem set_plain0 (u : Int) (hs : Hid (scB u = true)) (hp : Hid (hasB plainL u = true)) (c : UInt8) (hc : Utf8.encode u = str [c]) (s : ByteArray) (hsd : str [c] = s) (w : World) : Calls Try.prog 6 #[stV 0 0 0 0, .int .i32 u] w fun e w' => e = .returned (putV 0 (⟨#[]⟩ ++ s) 0 0 0) ∧ w.grownBy w' none := by
  have hz : s.size = 1 := by rw [← hsd]; rfl
  rw [hsd] at hc
  go_enter Try.func6, Try.ntmps6
  go_wp2_with (first | (go_at_call 8; refine (wr_any 0 0 0 0 _ true rfl).mono ?_; rintro e w1 ⟨rfl, hg1⟩; have sb1 := Hid.mk' ((SB.mk0 w 0 0 0 0).next hg1); obtain ⟨⟨s0, s1, s2, s3⟩, ⟨r0, r1, r2, r3, r4, r5⟩, fs, fr, z0, z1⟩ := sb1.out.cells) | (go_at_call 12; refine (scalar_is u _ true hs.out).mono ?_; rintro e w' ⟨rfl, hw⟩; obtain rfl := hw) | (go_at_call 13; refine (contains_pl _ (by rfl) u hs.out _ true hp.out).mono ?_; rintro e w2 ⟨rfl, hg2⟩; have sb2 := Hid.mk' (sb1.out.next hg2); clear s0 s1 s2 s3 r0 r1 r2 r3 r4 r5 fs fr z0 z1; obtain ⟨⟨s0, s1, s2, s3⟩, ⟨r0, r1, r2, r3, r4, r5⟩, fs, fr, z0, z1⟩ := sb2.out.cells) | (go_at_call 14; refine (leave_out u _).mono ?_; rintro e w3 ⟨rfl, hg3⟩; have sb3 := Hid.mk' (sb2.out.next hg3); clear s0 s1 s2 s3 r0 r1 r2 r3 r4 r5 fs fr z0 z1; obtain ⟨⟨s0, s1, s2, s3⟩, ⟨r0, r1, r2, r3, r4, r5⟩, fs, fr, z0, z1⟩ := sb3.out.cells))
  refine bodyPost_ret (v := putV 0 (⟨#[]⟩ ++ s) 0 0 0) (by simp [results, Try.results6, go_sem, r0, r1, r2, r3, r4, r5, z1, Nat.ne_of_lt z1, (Nat.ne_of_lt z1).symm]) rfl ⟨rfl, ?_⟩
  (repeat (first | with_reducible exact grownBy_refl _ _ | (with_reducible refine gs ?_ ?_; first | omega | (simp; omega)) | with_reducible refine ga ?_ | with_reducible refine gd ?_ | with_reducible refine gdn ?_ | with_reducible refine gt ?_ (by assumption)))

set_option maxRecDepth 100000 in
set_option maxHeartbeats 4000000 in
theorem set_plain1 (b a : Nat) (hb : Hid (b ≤ 5)) (ha : Hid (a < 2 ^ b)) (hw : Hid (wrB 1 (b : Int) (a : Int) 0 = true)) (u : Int) (hs : Hid (scB u = true)) (hp : Hid (hasB plainL u = true)) (s : ByteArray) (hc : Utf8.encode u = s) (hz : s.size = 1) (sl : ByteArray) (hl : Hid (str (leaveL b a u) = sl)) (hlz : sl.size ≤ 2) (w : World) : Calls Try.prog 6 #[stV 1 (b : Int) (a : Int) 0, .int .i32 u] w fun e w' => e = .returned (putV 0 (sl ++ s) 0 0 0) ∧ w.grownBy w' none := by
  go_enter Try.func6, Try.ntmps6
  go_wp2_with (first | (go_at_call 8; refine (wr_any 1 (b : Int) (a : Int) 0 _ true hw.out).mono ?_; rintro e w1 ⟨rfl, hg1⟩; have sb1 := Hid.mk' ((SB.mk0 w 1 (b : Int) (a : Int) 0).next hg1); obtain ⟨⟨s0, s1, s2, s3⟩, ⟨r0, r1, r2, r3, r4, r5⟩, fs, fr, z0, z1⟩ := sb1.out.cells) | (go_at_call 12; refine (scalar_is u _ true hs.out).mono ?_; rintro e w' ⟨rfl, hw⟩; obtain rfl := hw) | (go_at_call 13; refine (contains_pl _ (by rfl) u hs.out _ true hp.out).mono ?_; rintro e w2 ⟨rfl, hg2⟩; have sb2 := Hid.mk' (sb1.out.next hg2); clear s0 s1 s2 s3 r0 r1 r2 r3 r4 r5 fs fr z0 z1; obtain ⟨⟨s0, s1, s2, s3⟩, ⟨r0, r1, r2, r3, r4, r5⟩, fs, fr, z0, z1⟩ := sb2.out.cells) | (go_at_call 14; refine (leave_any b a hb.out ha.out u hs.out _ sl hl.out).mono ?_; rintro e w3 ⟨rfl, hg3⟩; have sb3 := Hid.mk' (sb2.out.next hg3); clear s0 s1 s2 s3 r0 r1 r2 r3 r4 r5 fs fr z0 z1; obtain ⟨⟨s0, s1, s2, s3⟩, ⟨r0, r1, r2, r3, r4, r5⟩, fs, fr, z0, z1⟩ := sb3.out.cells))
  refine bodyPost_ret (v := putV 0 (sl ++ s) 0 0 0) (by simp [results, Try.results6, go_sem, r0, r1, r2, r3, r4, r5, z1, Nat.ne_of_lt z1, (Nat.ne_of_lt z1).symm]) rfl ⟨rfl, ?_⟩
  (repeat (first | with_reducible exact grownBy_refl _ _ | (with_reducible refine gs ?_ ?_; first | omega | (simp; omega)) | with_reducible refine ga ?_ | with_reducible refine gd ?_ | with_reducible refine gdn ?_ | with_reducible refine gt ?_ (by assumption)))

set_option maxRecDepth 100000 in
set_option maxHeartbeats 4000000 in
theorem set_in (b a : Nat) (hb : Hid (b ≤ 5)) (ha : Hid (a < 2 ^ b)) (hw : Hid (wrB 1 (b : Int) (a : Int) 0 = true)) (u : Int) (hs : Hid (scB u = true)) (hp : Hid (hasB plainL u = false)) (B : ByteArray) (r A : Int) (hP : Hid (∀ w : World, Calls Try.prog 15 #[stV 1 (b : Int) (a : Int) 0, .int .i32 u] w fun e w' => e = .returned (putV 0 B 1 r A) ∧ w.grownBy w' none)) (w : World) : Calls Try.prog 6 #[stV 1 (b : Int) (a : Int) 0, .int .i32 u] w fun e w' => e = .returned (putV 0 B 1 r A) ∧ w.grownBy w' none := by
  go_enter Try.func6, Try.ntmps6
  go_wp2_with (first | (go_at_call 8; refine (wr_any 1 (b : Int) (a : Int) 0 _ true hw.out).mono ?_; rintro e w1 ⟨rfl, hg1⟩; have sb1 := Hid.mk' ((SB.mk0 w 1 (b : Int) (a : Int) 0).next hg1); obtain ⟨⟨s0, s1, s2, s3⟩, ⟨r0, r1, r2, r3, r4, r5⟩, fs, fr, z0, z1⟩ := sb1.out.cells) | (go_at_call 12; refine (scalar_is u _ true hs.out).mono ?_; rintro e w' ⟨rfl, hw⟩; obtain rfl := hw) | (go_at_call 13; refine (contains_pl _ (by rfl) u hs.out _ false hp.out).mono ?_; rintro e w2 ⟨rfl, hg2⟩; have sb2 := Hid.mk' (sb1.out.next hg2); clear s0 s1 s2 s3 r0 r1 r2 r3 r4 r5 fs fr z0 z1; obtain ⟨⟨s0, s1, s2, s3⟩, ⟨r0, r1, r2, r3, r4, r5⟩, fs, fr, z0, z1⟩ := sb2.out.cells) | (go_at_call 15; refine (hP.out _).mono ?_; rintro e w3 ⟨rfl, hg3⟩; have sb3 := Hid.mk' (sb2.out.next hg3); clear s0 s1 s2 s3 r0 r1 r2 r3 r4 r5 fs fr z0 z1; obtain ⟨⟨s0, s1, s2, s3⟩, ⟨r0, r1, r2, r3, r4, r5⟩, fs, fr, z0, z1⟩ := sb3.out.cells))
  refine bodyPost_ret (v := putV 0 B 1 r A) (by simp [results, Try.results6, go_sem, r0, r1, r2, r3, r4, r5, z1, Nat.ne_of_lt z1, (Nat.ne_of_lt z1).symm]) rfl ⟨rfl, ?_⟩
  (repeat (first | with_reducible exact grownBy_refl _ _ | (with_reducible refine gs ?_ ?_; first | omega | (simp; omega)) | with_reducible refine ga ?_ | with_reducible refine gd ?_ | with_reducible refine gdn ?_ | with_reducible refine gt ?_ (by assumption)))

set_option maxRecDepth 100000 in
set_option maxHeartbeats 4000000 in
theorem set_plus (u : Int) (hu : u = 43) (w : World) : Calls Try.prog 6 #[stV 0 0 0 0, .int .i32 u] w fun e w' => e = .returned (putV 0 ⟨#[43, 45]⟩ 0 0 0) ∧ w.grownBy w' none := by
  subst hu
  go_enter Try.func6, Try.ntmps6
  go_wp2_with (first | (go_at_call 8; refine (wr_any 0 0 0 0 _ true rfl).mono ?_; rintro e w1 ⟨rfl, hg1⟩; have sb1 := Hid.mk' ((SB.mk0 w 0 0 0 0).next hg1); obtain ⟨⟨s0, s1, s2, s3⟩, ⟨r0, r1, r2, r3, r4, r5⟩, fs, fr, z0, z1⟩ := sb1.out.cells) | (go_at_call 12; refine (scalar_is 43 _ true rfl).mono ?_; rintro e w' ⟨rfl, hw⟩; obtain rfl := hw) | (go_at_call 13; refine (contains_pl _ (by rfl) 43 rfl _ false (by decide +kernel)).mono ?_; rintro e w2 ⟨rfl, hg2⟩; have sb2 := Hid.mk' (sb1.out.next hg2); clear s0 s1 s2 s3 r0 r1 r2 r3 r4 r5 fs fr z0 z1; obtain ⟨⟨s0, s1, s2, s3⟩, ⟨r0, r1, r2, r3, r4, r5⟩, fs, fr, z0, z1⟩ := sb2.out.cells))
  refine bodyPost_ret (v := putV 0 ⟨#[43, 45]⟩ 0 0 0) (by simp [results, Try.results6, go_sem, r0, r1, r2, r3, r4, r5, z1, Nat.ne_of_lt z1, (Nat.ne_of_lt z1).symm]) rfl ⟨rfl, ?_⟩
  (repeat (first | with_reducible exact grownBy_refl _ _ | (with_reducible refine gs ?_ ?_; first | omega | (simp; omega)) | with_reducible refine ga ?_ | with_reducible refine gd ?_ | with_reducible refine gdn ?_ | with_reducible refine gt ?_ (by assumption)))

set_option maxRecDepth 100000 in
set_option maxHeartbeats 4000000 in
theorem set_out (u : Int) (hs : Hid (scB u = true)) (hp : Hid (hasB plainL u = false)) (hu : (u == 43) = false) (B : ByteArray) (r A : Int) (hP : Hid (∀ w : World, Calls Try.prog 15 #[stV 1 0 0 0, .int .i32 u] w fun e w' => e = .returned (putV 0 B 1 r A) ∧ w.grownBy w' none)) (hBz : B.size ≤ 8) (w : World) : Calls Try.prog 6 #[stV 0 0 0 0, .int .i32 u] w fun e w' => e = .returned (putV 0 (⟨#[43]⟩ ++ B) 1 r A) ∧ w.grownBy w' none := by
  go_enter Try.func6, Try.ntmps6
  go_wp2_with (first | (go_at_call 8; refine (wr_any 0 0 0 0 _ true rfl).mono ?_; rintro e w1 ⟨rfl, hg1⟩; have sb1 := Hid.mk' ((SB.mk0 w 0 0 0 0).next hg1); obtain ⟨⟨s0, s1, s2, s3⟩, ⟨r0, r1, r2, r3, r4, r5⟩, fs, fr, z0, z1⟩ := sb1.out.cells) | (go_at_call 12; refine (scalar_is u _ true hs.out).mono ?_; rintro e w' ⟨rfl, hw⟩; obtain rfl := hw) | (go_at_call 13; refine (contains_pl _ (by rfl) u hs.out _ false hp.out).mono ?_; rintro e w2 ⟨rfl, hg2⟩; have sb2 := Hid.mk' (sb1.out.next hg2); clear s0 s1 s2 s3 r0 r1 r2 r3 r4 r5 fs fr z0 z1; obtain ⟨⟨s0, s1, s2, s3⟩, ⟨r0, r1, r2, r3, r4, r5⟩, fs, fr, z0, z1⟩ := sb2.out.cells) | (go_at_call 15; refine (hP.out _).mono ?_; rintro e w3 ⟨rfl, hg3⟩; have sb3 := Hid.mk' (sb2.out.next hg3); clear s0 s1 s2 s3 r0 r1 r2 r3 r4 r5 fs fr z0 z1; obtain ⟨⟨s0, s1, s2, s3⟩, ⟨r0, r1, r2, r3, r4, r5⟩, fs, fr, z0, z1⟩ := sb3.out.cells))
  refine bodyPost_ret (v := putV 0 (⟨#[43]⟩ ++ B) 1 r A) (by simp [results, Try.results6, go_sem, r0, r1, r2, r3, r4, r5, z1, Nat.ne_of_lt z1, (Nat.ne_of_lt z1).symm]) rfl ⟨rfl, ?_⟩
  (repeat (first | with_reducible exact grownBy_refl _ _ | (with_reducible refine gs ?_ ?_; first | omega | (simp; omega)) | with_reducible refine ga ?_ | with_reducible refine gd ?_ | with_reducible refine gdn ?_ | with_reducible refine gt ?_ (by assumption)))
end Go.Proofs.Ytldbllfifjdajaa.Sv

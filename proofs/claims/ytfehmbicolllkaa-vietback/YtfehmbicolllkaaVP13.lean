/- The document's step that reads, of layer 13: walks. -/
import Derived.Test.YtfehmbicolllkaaVD13
import Derived.Test.YtfehmbicolllkaaVG13
namespace Go.Proofs.Ytfehmbicolllkaa.C13
open Go.ChangeShapes Go.WideShapes Go.ChangeAt Go.RowKit Go.Proofs.Ytfehmbicolllkaa.Mem
set_option linter.unusedVariables false
set_option linter.unusedSimpArgs false

/-- The step's result as a value. -/
abbrev vgV (e n k a b he : Int) : Value := .agg #[.int .i64 e, .int .i64 n, .int .i64 k, .int .i32 a, .int .i32 b, .int .i64 0, .int .i64 0, .int .u32 0, .int .i32 he]
/-- Where a step that reads stands: the state's block, its result's. -/
structure SG (w : World) (md bi ac he : Int) (wx : World) : Prop where
  g : w.grownBy wx none
  st : wx.heap[w.heap.size]? = some (.cells #[.int .i64 md, .int .i64 bi, .int .u32 ac, .int .i32 he] 29 (0, 0))
  res : wx.heap[w.heap.size + 1]? = some (.cells #[.int .i64 0, .int .i64 0, .int .i64 0, .int .i32 0, .int .i32 0, .int .i64 0, .int .i64 0, .int .u32 0, .int .i32 0] 34 (0, 0))
theorem SG.next {w wx wy : World} {md bi ac he : Int} (h : SG w md bi ac he wx) (hg : wx.grownBy wy none) : SG w md bi ac he wy :=
  ⟨grownBy_trans h.g hg, blk_kept h.st hg, blk_kept h.res hg⟩
theorem SG.drew {w wx : World} {md bi ac he : Int} (h : SG w md bi ac he wx) : SG w md bi ac he wx.drew := ⟨gd h.g, h.st, h.res⟩
theorem SG.mk0 (w : World) (md bi ac he : Int) : SG w md bi ac he ((w.alloc (.cells #[.int .i64 md, .int .i64 bi, .int .u32 ac, .int .i32 he] 29)).alloc (.cells #[.int .i64 0, .int .i64 0, .int .i64 0, .int .i32 0, .int .i32 0, .int .i64 0, .int .i64 0, .int .u32 0, .int .i32 0] 34)) :=
  ⟨ga (ga (grownBy_refl _ _)), res_alloc (heap_alloc_new w _) _, by simpa using heap_alloc_new (w.alloc (.cells #[.int .i64 md, .int .i64 bi, .int .u32 ac, .int .i32 he] 29)) (.cells #[.int .i64 0, .int .i64 0, .int .i64 0, .int .i32 0, .int .i32 0, .int .i64 0, .int .i64 0, .int .u32 0, .int .i32 0] 34)⟩
theorem SG.cells {w wx : World} {md bi ac he : Int} (h : SG w md bi ac he wx) :
    (wx.cell? ⟨w.heap.size, 0, none⟩ = some (.int .i64 md) ∧ wx.cell? ⟨w.heap.size, 1, none⟩ = some (.int .i64 bi) ∧ wx.cell? ⟨w.heap.size, 2, none⟩ = some (.int .u32 ac) ∧ wx.cell? ⟨w.heap.size, 3, none⟩ = some (.int .i32 he)) ∧
    (wx.cell? ⟨w.heap.size + 1, 0, none⟩ = some (.int .i64 0) ∧ wx.cell? ⟨w.heap.size + 1, 1, none⟩ = some (.int .i64 0) ∧ wx.cell? ⟨w.heap.size + 1, 2, none⟩ = some (.int .i64 0) ∧ wx.cell? ⟨w.heap.size + 1, 3, none⟩ = some (.int .i32 0) ∧ wx.cell? ⟨w.heap.size + 1, 4, none⟩ = some (.int .i32 0) ∧ wx.cell? ⟨w.heap.size + 1, 5, none⟩ = some (.int .i64 0) ∧ wx.cell? ⟨w.heap.size + 1, 6, none⟩ = some (.int .i64 0) ∧ wx.cell? ⟨w.heap.size + 1, 7, none⟩ = some (.int .u32 0) ∧ wx.cell? ⟨w.heap.size + 1, 8, none⟩ = some (.int .i32 0)) ∧
    (∀ i, wx.frozen? ⟨w.heap.size, i, none⟩ = false) ∧ (∀ i, wx.frozen? ⟨w.heap.size + 1, i, none⟩ = false) ∧ w.heap.size < wx.heap.size ∧ w.heap.size + 1 < wx.heap.size :=
  ⟨⟨cell_at h.st 0 rfl, cell_at h.st 1 rfl, cell_at h.st 2 rfl, cell_at h.st 3 rfl⟩, ⟨cell_at h.res 0 rfl, cell_at h.res 1 rfl, cell_at h.res 2 rfl, cell_at h.res 3 rfl, cell_at h.res 4 rfl, cell_at h.res 5 rfl, cell_at h.res 6 rfl, cell_at h.res 7 rfl, cell_at h.res 8 rfl⟩, froz_at h.st, froz_at h.res, lt_of_block h.st, lt_of_block h.res⟩
theorem byte_kept {w wx : World} {B O : Nat} {v : Value} (h : w.cell? ⟨B, O, none⟩ = some v) (hlt : B < w.heap.size) (hg : w.grownBy wx none) : wx.cell? ⟨B, O, none⟩ = some v := by
  rw [(gcell hg).1 _ _ hlt]; exact h
set_option maxRecDepth 100000 in
set_option maxHeartbeats 1000000 in
theorem g_bad (md bi ac he : Int) (hf : Hid (fitR md bi ac he = false)) (ao : Option Addr) (len cap : Nat) (w : World) : Calls Try.prog 16 #[stV md bi ac he, .slice ao len cap] w fun e w' => e = .returned (vgV 7 0 0 0 0 0) ∧ w.grownBy w' none := by
  go_enter Try.func16, Try.ntmps16
  go_wp2_with (first
    | (go_at_call 18; refine (fits_any md bi ac he _ false hf).mono ?_; rintro e w1 ⟨rfl, hg1⟩; have sb1 := Hid.mk' ((SG.mk0 w md bi ac he).next hg1); obtain ⟨⟨s0, s1, s2, s3⟩, ⟨r0, r1, r2, r3, r4, r5, r6, r7, r8⟩, fs, fr, z0, z1⟩ := sb1.out.cells))
  refine bodyPost_ret (v := vgV 7 0 0 0 0 0) (by simp [results, Try.results16, go_sem, r0, r1, r2, r3, r4, r5, r6, r7, r8, z1, Nat.ne_of_lt z1, (Nat.ne_of_lt z1).symm]) rfl ⟨rfl, ?_⟩
  (repeat (first | with_reducible exact grownBy_refl _ _ | (with_reducible refine gs ?_ ?_; first | omega | (simp; omega)) | with_reducible refine ga ?_ | with_reducible refine gd ?_ | with_reducible refine gdn ?_ | with_reducible refine gt ?_ (by assumption)))
set_option maxRecDepth 100000 in
set_option maxHeartbeats 1000000 in
theorem g_more (he : Int) (hf : Hid (fitR 0 0 0 he = true)) (ao : Option Addr) (cap : Nat) (w : World) : Calls Try.prog 16 #[stV 0 0 0 he, .slice ao 0 cap] w fun e w' => e = .returned (vgV 1 0 0 0 0 0) ∧ w.grownBy w' none := by
  go_enter Try.func16, Try.ntmps16
  go_wp2_with (first
    | (go_at_call 18; refine (fits_any 0 0 0 he _ true hf).mono ?_; rintro e w1 ⟨rfl, hg1⟩; have sb1 := Hid.mk' ((SG.mk0 w 0 0 0 he).next hg1); obtain ⟨⟨s0, s1, s2, s3⟩, ⟨r0, r1, r2, r3, r4, r5, r6, r7, r8⟩, fs, fr, z0, z1⟩ := sb1.out.cells))
  refine bodyPost_ret (v := vgV 1 0 0 0 0 0) (by simp [results, Try.results16, go_sem, r0, r1, r2, r3, r4, r5, r6, r7, r8, z1, Nat.ne_of_lt z1, (Nat.ne_of_lt z1).symm]) rfl ⟨rfl, ?_⟩
  (repeat (first | with_reducible exact grownBy_refl _ _ | (with_reducible refine gs ?_ ?_; first | omega | (simp; omega)) | with_reducible refine ga ?_ | with_reducible refine gd ?_ | with_reducible refine gdn ?_ | with_reducible refine gt ?_ (by assumption)))
set_option maxRecDepth 100000 in
set_option maxHeartbeats 1000000 in
theorem g_ill (he : Int) (hf : Hid (fitR 0 0 0 he = true)) (b : Nat) (hb : b < 256) (n : Nat) (hn : Hid (vsR b = n)) (w : World) (g o len cap : Nat) (hlt : g < w.heap.size) (hb0 : w.cell? ⟨g, o, none⟩ = some (.int .u8 (b : Int))) (hl1 : 0 < len) (hl2 : len ≤ cap) (hl3 : cap ≤ 9223372036854775807) (hl4 : ((len : Int) == 0) = false) (h9 : n = 65533) : Calls Try.prog 16 #[stV 0 0 0 he, .slice (some ⟨g, o, none⟩) len cap] w fun e w' => e = .returned (vgV 10 1 0 0 0 he) ∧ w.grownBy w' none := by
  subst h9
  go_enter Try.func16, Try.ntmps16
  go_wp2_with (first
    | (go_at_call 18; refine (fits_any 0 0 0 he _ true hf).mono ?_; rintro e w1 ⟨rfl, hg1⟩; have sb1 := Hid.mk' ((SG.mk0 w 0 0 0 he).next hg1); obtain ⟨⟨s0, s1, s2, s3⟩, ⟨r0, r1, r2, r3, r4, r5, r6, r7, r8⟩, fs, fr, z0, z1⟩ := sb1.out.cells; have hb1 := byte_kept hb0 hlt sb1.out.g)
    | (go_at_call 31; refine (scalar_any b hb _ 65533 hn).mono ?_; rintro e w2 ⟨rfl, hg2⟩; clear s0 s1 s2 s3 r0 r1 r2 r3 r4 r5 r6 r7 r8 fs fr z0 z1 hb1; have sb2 := Hid.mk' (sb1.out.next hg2); obtain ⟨⟨s0, s1, s2, s3⟩, ⟨r0, r1, r2, r3, r4, r5, r6, r7, r8⟩, fs, fr, z0, z1⟩ := sb2.out.cells))
  refine bodyPost_ret (v := vgV 10 1 0 0 0 he) (by simp [results, Try.results16, go_sem, r0, r1, r2, r3, r4, r5, r6, r7, r8, z1, Nat.ne_of_lt z1, (Nat.ne_of_lt z1).symm]) rfl ⟨rfl, ?_⟩
  (repeat (first | with_reducible exact grownBy_refl _ _ | (with_reducible refine gs ?_ ?_; first | omega | (simp; omega)) | with_reducible refine ga ?_ | with_reducible refine gd ?_ | with_reducible refine gdn ?_ | with_reducible refine gt ?_ (by assumption)))
set_option maxRecDepth 100000 in
set_option maxHeartbeats 1000000 in
theorem g_made (he : Int) (hf : Hid (fitR 0 0 0 he = true)) (b : Nat) (hb : b < 256) (n : Nat) (hn : Hid (vsR b = n)) (w : World) (g o len cap : Nat) (hlt : g < w.heap.size) (hb0 : w.cell? ⟨g, o, none⟩ = some (.int .u8 (b : Int))) (hl1 : 0 < len) (hl2 : len ≤ cap) (hl3 : cap ≤ 9223372036854775807) (hl4 : ((len : Int) == 0) = false) (h9 : ((n : Int) == 65533) = false) (hz : (he == 0) = false) (hz2 : (he != 0) = true) (u : Nat) (hR : Hid (coR he (n : Int) = some u)) : Calls Try.prog 16 #[stV 0 0 0 he, .slice (some ⟨g, o, none⟩) len cap] w fun e w' => e = .returned (vgV 0 1 1 (u : Int) 0 0) ∧ w.grownBy w' none := by
  go_enter Try.func16, Try.ntmps16
  go_wp2_with (first
    | (go_at_call 18; refine (fits_any 0 0 0 he _ true hf).mono ?_; rintro e w1 ⟨rfl, hg1⟩; have sb1 := Hid.mk' ((SG.mk0 w 0 0 0 he).next hg1); obtain ⟨⟨s0, s1, s2, s3⟩, ⟨r0, r1, r2, r3, r4, r5, r6, r7, r8⟩, fs, fr, z0, z1⟩ := sb1.out.cells; have hb1 := byte_kept hb0 hlt sb1.out.g)
    | (go_at_call 31; refine (scalar_any b hb _ n hn).mono ?_; rintro e w2 ⟨rfl, hg2⟩; clear s0 s1 s2 s3 r0 r1 r2 r3 r4 r5 r6 r7 r8 fs fr z0 z1 hb1; have sb2 := Hid.mk' (sb1.out.next hg2); obtain ⟨⟨s0, s1, s2, s3⟩, ⟨r0, r1, r2, r3, r4, r5, r6, r7, r8⟩, fs, fr, z0, z1⟩ := sb2.out.cells)
    | (go_at_call 10; refine (compose_any he (n : Int) _ (some u) hR).mono ?_; rintro e w3 ⟨rfl, hg3⟩; clear s0 s1 s2 s3 r0 r1 r2 r3 r4 r5 r6 r7 r8 fs fr z0 z1; have sb3 := Hid.mk' (sb2.out.next hg3); obtain ⟨⟨s0, s1, s2, s3⟩, ⟨r0, r1, r2, r3, r4, r5, r6, r7, r8⟩, fs, fr, z0, z1⟩ := sb3.out.cells))
  refine bodyPost_ret (v := vgV 0 1 1 (u : Int) 0 0) (by simp [results, Try.results16, go_sem, r0, r1, r2, r3, r4, r5, r6, r7, r8, z1, Nat.ne_of_lt z1, (Nat.ne_of_lt z1).symm]) rfl ⟨rfl, ?_⟩
  (repeat (first | with_reducible exact grownBy_refl _ _ | (with_reducible refine gs ?_ ?_; first | omega | (simp; omega)) | with_reducible refine ga ?_ | with_reducible refine gd ?_ | with_reducible refine gdn ?_ | with_reducible refine gt ?_ (by assumption)))
set_option maxRecDepth 100000 in
set_option maxHeartbeats 1000000 in
theorem g_next (he : Int) (hf : Hid (fitR 0 0 0 he = true)) (b : Nat) (hb : b < 256) (n : Nat) (hn : Hid (vsR b = n)) (w : World) (g o len cap : Nat) (hlt : g < w.heap.size) (hb0 : w.cell? ⟨g, o, none⟩ = some (.int .u8 (b : Int))) (hl1 : 0 < len) (hl2 : len ≤ cap) (hl3 : cap ≤ 9223372036854775807) (hl4 : ((len : Int) == 0) = false) (h9 : ((n : Int) == 65533) = false) (hz : (he == 0) = false) (hz2 : (he != 0) = true) (hR : Hid (coR he (n : Int) = none)) (hH : Hid (hoR (n : Int) = true)) : Calls Try.prog 16 #[stV 0 0 0 he, .slice (some ⟨g, o, none⟩) len cap] w fun e w' => e = .returned (vgV 0 1 1 he 0 (n : Int)) ∧ w.grownBy w' none := by
  go_enter Try.func16, Try.ntmps16
  go_wp2_with (first
    | (go_at_call 18; refine (fits_any 0 0 0 he _ true hf).mono ?_; rintro e w1 ⟨rfl, hg1⟩; have sb1 := Hid.mk' ((SG.mk0 w 0 0 0 he).next hg1); obtain ⟨⟨s0, s1, s2, s3⟩, ⟨r0, r1, r2, r3, r4, r5, r6, r7, r8⟩, fs, fr, z0, z1⟩ := sb1.out.cells; have hb1 := byte_kept hb0 hlt sb1.out.g)
    | (go_at_call 31; refine (scalar_any b hb _ n hn).mono ?_; rintro e w2 ⟨rfl, hg2⟩; clear s0 s1 s2 s3 r0 r1 r2 r3 r4 r5 r6 r7 r8 fs fr z0 z1 hb1; have sb2 := Hid.mk' (sb1.out.next hg2); obtain ⟨⟨s0, s1, s2, s3⟩, ⟨r0, r1, r2, r3, r4, r5, r6, r7, r8⟩, fs, fr, z0, z1⟩ := sb2.out.cells)
    | (go_at_call 10; refine (compose_any he (n : Int) _ none hR).mono ?_; rintro e w3 ⟨rfl, hg3⟩; clear s0 s1 s2 s3 r0 r1 r2 r3 r4 r5 r6 r7 r8 fs fr z0 z1; have sb3 := Hid.mk' (sb2.out.next hg3); obtain ⟨⟨s0, s1, s2, s3⟩, ⟨r0, r1, r2, r3, r4, r5, r6, r7, r8⟩, fs, fr, z0, z1⟩ := sb3.out.cells)
    | (go_at_call 32; refine (holds_any (n : Int) _ true hH).mono ?_; rintro e w4 ⟨rfl, hg4⟩; clear s0 s1 s2 s3 r0 r1 r2 r3 r4 r5 r6 r7 r8 fs fr z0 z1; have sb4 := Hid.mk' (sb3.out.next hg4); obtain ⟨⟨s0, s1, s2, s3⟩, ⟨r0, r1, r2, r3, r4, r5, r6, r7, r8⟩, fs, fr, z0, z1⟩ := sb4.out.cells))
  refine bodyPost_ret (v := vgV 0 1 1 he 0 (n : Int)) (by simp [results, Try.results16, go_sem, r0, r1, r2, r3, r4, r5, r6, r7, r8, z1, Nat.ne_of_lt z1, (Nat.ne_of_lt z1).symm]) rfl ⟨rfl, ?_⟩
  (repeat (first | with_reducible exact grownBy_refl _ _ | (with_reducible refine gs ?_ ?_; first | omega | (simp; omega)) | with_reducible refine ga ?_ | with_reducible refine gd ?_ | with_reducible refine gdn ?_ | with_reducible refine gt ?_ (by assumption)))
set_option maxRecDepth 100000 in
set_option maxHeartbeats 1000000 in
theorem g_two (he : Int) (hf : Hid (fitR 0 0 0 he = true)) (b : Nat) (hb : b < 256) (n : Nat) (hn : Hid (vsR b = n)) (w : World) (g o len cap : Nat) (hlt : g < w.heap.size) (hb0 : w.cell? ⟨g, o, none⟩ = some (.int .u8 (b : Int))) (hl1 : 0 < len) (hl2 : len ≤ cap) (hl3 : cap ≤ 9223372036854775807) (hl4 : ((len : Int) == 0) = false) (h9 : ((n : Int) == 65533) = false) (hz : (he == 0) = false) (hz2 : (he != 0) = true) (hR : Hid (coR he (n : Int) = none)) (hH : Hid (hoR (n : Int) = false)) : Calls Try.prog 16 #[stV 0 0 0 he, .slice (some ⟨g, o, none⟩) len cap] w fun e w' => e = .returned (vgV 0 1 2 he (n : Int) 0) ∧ w.grownBy w' none := by
  go_enter Try.func16, Try.ntmps16
  go_wp2_with (first
    | (go_at_call 18; refine (fits_any 0 0 0 he _ true hf).mono ?_; rintro e w1 ⟨rfl, hg1⟩; have sb1 := Hid.mk' ((SG.mk0 w 0 0 0 he).next hg1); obtain ⟨⟨s0, s1, s2, s3⟩, ⟨r0, r1, r2, r3, r4, r5, r6, r7, r8⟩, fs, fr, z0, z1⟩ := sb1.out.cells; have hb1 := byte_kept hb0 hlt sb1.out.g)
    | (go_at_call 31; refine (scalar_any b hb _ n hn).mono ?_; rintro e w2 ⟨rfl, hg2⟩; clear s0 s1 s2 s3 r0 r1 r2 r3 r4 r5 r6 r7 r8 fs fr z0 z1 hb1; have sb2 := Hid.mk' (sb1.out.next hg2); obtain ⟨⟨s0, s1, s2, s3⟩, ⟨r0, r1, r2, r3, r4, r5, r6, r7, r8⟩, fs, fr, z0, z1⟩ := sb2.out.cells)
    | (go_at_call 10; refine (compose_any he (n : Int) _ none hR).mono ?_; rintro e w3 ⟨rfl, hg3⟩; clear s0 s1 s2 s3 r0 r1 r2 r3 r4 r5 r6 r7 r8 fs fr z0 z1; have sb3 := Hid.mk' (sb2.out.next hg3); obtain ⟨⟨s0, s1, s2, s3⟩, ⟨r0, r1, r2, r3, r4, r5, r6, r7, r8⟩, fs, fr, z0, z1⟩ := sb3.out.cells)
    | (go_at_call 32; refine (holds_any (n : Int) _ false hH).mono ?_; rintro e w4 ⟨rfl, hg4⟩; clear s0 s1 s2 s3 r0 r1 r2 r3 r4 r5 r6 r7 r8 fs fr z0 z1; have sb4 := Hid.mk' (sb3.out.next hg4); obtain ⟨⟨s0, s1, s2, s3⟩, ⟨r0, r1, r2, r3, r4, r5, r6, r7, r8⟩, fs, fr, z0, z1⟩ := sb4.out.cells))
  refine bodyPost_ret (v := vgV 0 1 2 he (n : Int) 0) (by simp [results, Try.results16, go_sem, r0, r1, r2, r3, r4, r5, r6, r7, r8, z1, Nat.ne_of_lt z1, (Nat.ne_of_lt z1).symm]) rfl ⟨rfl, ?_⟩
  (repeat (first | with_reducible exact grownBy_refl _ _ | (with_reducible refine gs ?_ ?_; first | omega | (simp; omega)) | with_reducible refine ga ?_ | with_reducible refine gd ?_ | with_reducible refine gdn ?_ | with_reducible refine gt ?_ (by assumption)))
set_option maxRecDepth 100000 in
set_option maxHeartbeats 1000000 in
theorem g_hold (hf : Hid (fitR 0 0 0 0 = true)) (b : Nat) (hb : b < 256) (n : Nat) (hn : Hid (vsR b = n)) (w : World) (g o len cap : Nat) (hlt : g < w.heap.size) (hb0 : w.cell? ⟨g, o, none⟩ = some (.int .u8 (b : Int))) (hl1 : 0 < len) (hl2 : len ≤ cap) (hl3 : cap ≤ 9223372036854775807) (hl4 : ((len : Int) == 0) = false) (h9 : ((n : Int) == 65533) = false) (hH : Hid (hoR (n : Int) = true)) : Calls Try.prog 16 #[stV 0 0 0 0, .slice (some ⟨g, o, none⟩) len cap] w fun e w' => e = .returned (vgV 0 1 0 0 0 (n : Int)) ∧ w.grownBy w' none := by
  go_enter Try.func16, Try.ntmps16
  go_wp2_with (first
    | (go_at_call 18; refine (fits_any 0 0 0 0 _ true hf).mono ?_; rintro e w1 ⟨rfl, hg1⟩; have sb1 := Hid.mk' ((SG.mk0 w 0 0 0 0).next hg1); obtain ⟨⟨s0, s1, s2, s3⟩, ⟨r0, r1, r2, r3, r4, r5, r6, r7, r8⟩, fs, fr, z0, z1⟩ := sb1.out.cells; have hb1 := byte_kept hb0 hlt sb1.out.g)
    | (go_at_call 31; refine (scalar_any b hb _ n hn).mono ?_; rintro e w2 ⟨rfl, hg2⟩; clear s0 s1 s2 s3 r0 r1 r2 r3 r4 r5 r6 r7 r8 fs fr z0 z1 hb1; have sb2 := Hid.mk' (sb1.out.next hg2); obtain ⟨⟨s0, s1, s2, s3⟩, ⟨r0, r1, r2, r3, r4, r5, r6, r7, r8⟩, fs, fr, z0, z1⟩ := sb2.out.cells)
    | (go_at_call 32; refine (holds_any (n : Int) _ true hH).mono ?_; rintro e w4 ⟨rfl, hg4⟩; clear s0 s1 s2 s3 r0 r1 r2 r3 r4 r5 r6 r7 r8 fs fr z0 z1; have sb4 := Hid.mk' (sb2.out.next hg4); obtain ⟨⟨s0, s1, s2, s3⟩, ⟨r0, r1, r2, r3, r4, r5, r6, r7, r8⟩, fs, fr, z0, z1⟩ := sb4.out.cells))
  refine bodyPost_ret (v := vgV 0 1 0 0 0 (n : Int)) (by simp [results, Try.results16, go_sem, r0, r1, r2, r3, r4, r5, r6, r7, r8, z1, Nat.ne_of_lt z1, (Nat.ne_of_lt z1).symm]) rfl ⟨rfl, ?_⟩
  (repeat (first | with_reducible exact grownBy_refl _ _ | (with_reducible refine gs ?_ ?_; first | omega | (simp; omega)) | with_reducible refine ga ?_ | with_reducible refine gd ?_ | with_reducible refine gdn ?_ | with_reducible refine gt ?_ (by assumption)))
set_option maxRecDepth 100000 in
set_option maxHeartbeats 1000000 in
theorem g_one (hf : Hid (fitR 0 0 0 0 = true)) (b : Nat) (hb : b < 256) (n : Nat) (hn : Hid (vsR b = n)) (w : World) (g o len cap : Nat) (hlt : g < w.heap.size) (hb0 : w.cell? ⟨g, o, none⟩ = some (.int .u8 (b : Int))) (hl1 : 0 < len) (hl2 : len ≤ cap) (hl3 : cap ≤ 9223372036854775807) (hl4 : ((len : Int) == 0) = false) (h9 : ((n : Int) == 65533) = false) (hH : Hid (hoR (n : Int) = false)) : Calls Try.prog 16 #[stV 0 0 0 0, .slice (some ⟨g, o, none⟩) len cap] w fun e w' => e = .returned (vgV 0 1 1 (n : Int) 0 0) ∧ w.grownBy w' none := by
  go_enter Try.func16, Try.ntmps16
  go_wp2_with (first
    | (go_at_call 18; refine (fits_any 0 0 0 0 _ true hf).mono ?_; rintro e w1 ⟨rfl, hg1⟩; have sb1 := Hid.mk' ((SG.mk0 w 0 0 0 0).next hg1); obtain ⟨⟨s0, s1, s2, s3⟩, ⟨r0, r1, r2, r3, r4, r5, r6, r7, r8⟩, fs, fr, z0, z1⟩ := sb1.out.cells; have hb1 := byte_kept hb0 hlt sb1.out.g)
    | (go_at_call 31; refine (scalar_any b hb _ n hn).mono ?_; rintro e w2 ⟨rfl, hg2⟩; clear s0 s1 s2 s3 r0 r1 r2 r3 r4 r5 r6 r7 r8 fs fr z0 z1 hb1; have sb2 := Hid.mk' (sb1.out.next hg2); obtain ⟨⟨s0, s1, s2, s3⟩, ⟨r0, r1, r2, r3, r4, r5, r6, r7, r8⟩, fs, fr, z0, z1⟩ := sb2.out.cells)
    | (go_at_call 32; refine (holds_any (n : Int) _ false hH).mono ?_; rintro e w4 ⟨rfl, hg4⟩; clear s0 s1 s2 s3 r0 r1 r2 r3 r4 r5 r6 r7 r8 fs fr z0 z1; have sb4 := Hid.mk' (sb2.out.next hg4); obtain ⟨⟨s0, s1, s2, s3⟩, ⟨r0, r1, r2, r3, r4, r5, r6, r7, r8⟩, fs, fr, z0, z1⟩ := sb4.out.cells))
  refine bodyPost_ret (v := vgV 0 1 1 (n : Int) 0 0) (by simp [results, Try.results16, go_sem, r0, r1, r2, r3, r4, r5, r6, r7, r8, z1, Nat.ne_of_lt z1, (Nat.ne_of_lt z1).symm]) rfl ⟨rfl, ?_⟩
  (repeat (first | with_reducible exact grownBy_refl _ _ | (with_reducible refine gs ?_ ?_; first | omega | (simp; omega)) | with_reducible refine ga ?_ | with_reducible refine gd ?_ | with_reducible refine gdn ?_ | with_reducible refine gt ?_ (by assumption)))
end Go.Proofs.Ytfehmbicolllkaa.C13

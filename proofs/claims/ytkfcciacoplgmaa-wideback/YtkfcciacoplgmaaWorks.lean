/- That the program works at all, and how many bytes a scalar has: walks. -/
import Derived.Test.YtkfcciacoplgmaaSet
import Derived.KernelRfl
import Derived.Deep.RegionHeld3
import Derived.BigQuiet
namespace Go.Proofs.Ytkfcciacoplgmaa.Wd
open Go.ChangeShapes Go.WideShapes Go.ChangeAt Go.RowKit Go.Proofs.Ytkfcciacoplgmaa.Mem Go.Proofs.Ytkfcciacoplgmaa.Ucs
set_option linter.unusedVariables false
set_option linter.unusedSimpArgs false

theorem put_err (e : Int) (s : ByteArray) (md : Int) (w : World) : (Instr.field 33 (putS e s md) 0).run Try.prog w = .ok (.int .i64 e) w := by kernel_rfl
theorem put_bytes (e : Int) (s : ByteArray) (md : Int) (w : World) : (Instr.field 33 (putS e s md) 1).run Try.prog w = .ok (.string s) w := by kernel_rfl
theorem get_lit (k md bi ac he : Int) (ao : Option Addr) (len cap : Nat) (L : List UInt8) (w : World) (hB : Bytes w ao L) (hlen : L.length = len) (hx : len ≤ 140737488355328) (hcap : len ≤ cap) (hcm : cap ≤ 9223372036854775807) (e n j a d : Int) (hR : getR k md bi ac he L = ⟨e, n, j, a, d⟩) :
    Calls Try.prog 9 #[.int .i64 k, .agg #[.int .i64 md, .int .i64 bi, .int .u32 ac, .int .i32 he], .slice ao len cap] w fun x w' => x = .returned (gotS e n j a d) ∧ w.grownBy w' none :=
  get_any k md bi ac he ao len cap L w hB hlen hx hcap hcm _ hR
theorem set_lit (k md bi ac he u : Int) (w : World) (e : Int) (L : List UInt8) (d : Int) (hR : setR k md bi ac he u = ⟨e, L, d⟩) (s : ByteArray) (hs : str L = s) :
    Calls Try.prog 13 #[.int .i64 k, .agg #[.int .i64 md, .int .i64 bi, .int .u32 ac, .int .i32 he], .int .i32 u] w fun x w' => x = .returned (putS e s d) ∧ w.grownBy w' none :=
  set_any k md bi ac he u w _ hR s hs

set_option maxRecDepth 100000 in
set_option maxHeartbeats 4000000 in
theorem works_any (w : World) : Calls Try.prog 15 #[] w fun e w' => e = .returned (.bool true) ∧ w.grownBy w' none := by
  obtain ⟨L1, hL1, B1, g1⟩ : ∃ L1 : List UInt8, Hid (L1.length = 4) ∧ Hid (Bytes (w.alloc (.cells #[.int .u8 61, .int .u8 216, .int .u8 0, .int .u8 222] 5)) (some ⟨w.heap.size, 0, none⟩) L1) ∧ Hid (getR 4 0 0 0 0 L1 = ⟨0, 4, 1, 128512, 0⟩) :=
    ⟨[61, 216, 0, 222], (rfl : [61, 216, 0, 222].length = 4), bytes_new w _ _ rfl, (by kernel_rfl : getR 4 0 0 0 0 [61, 216, 0, 222] = ⟨0, 4, 1, 128512, 0⟩)⟩
  have pe := put_err
  have s1 : Hid (setR 8 0 0 0 0 65 = ⟨0, [0, 0, 254, 255, 0, 0, 0, 65], 1⟩) := (by kernel_rfl : setR 8 0 0 0 0 65 = ⟨0, [0, 0, 254, 255, 0, 0, 0, 65], 1⟩)
  have s2 : Hid (setR 9 0 0 0 0 128512 = ⟨11, [], 0⟩) := (by kernel_rfl : setR 9 0 0 0 0 128512 = ⟨11, [], 0⟩)
  go_enter Try.func15, Try.ntmps15
  go_wp2_with (first | (go_at_call 9; refine (get_lit _ _ _ _ _ _ 4 4 L1 _ B1.out hL1.out (by omega) (by omega) (by omega) _ _ _ _ _ g1.out).mono ?_; rintro e w1 ⟨rfl, hg1⟩) | (go_at_call_of 13 (Value.int IntKind.i64 8); refine (set_lit _ _ _ _ _ _ _ _ _ _ s1.out ⟨#[0, 0, 254, 255, 0, 0, 0, 65]⟩ rfl).mono ?_; rintro e w2 ⟨rfl, hg2⟩; have gb := blk_kept (heap_alloc_new w1 (.cells #[.int .i64 0, .int .i64 4, .int .i64 1, .int .i32 128512, .int .i32 0, .int .i64 0, .int .i64 0, .int .u32 0, .int .i32 0] 28)) hg2; have gb2 := res_alloc gb (.cells #[.int .i64 0, .string ⟨#[0, 0, 254, 255, 0, 0, 0, 65]⟩, .int .i64 1, .int .i64 0, .int .u32 0, .int .i32 0] 33); clear gb; have r0 := cell_at gb2 0 rfl; have r1 := cell_at gb2 1 rfl; have r2 := cell_at gb2 2 rfl; have r3 := cell_at gb2 3 rfl; have r4 := cell_at gb2 4 rfl; have r5 := cell_at gb2 5 rfl; have r6 := cell_at gb2 6 rfl; have r7 := cell_at gb2 7 rfl; have r8 := cell_at gb2 8 rfl; have fz := froz_at gb2; clear gb2) | (go_at_call_of 13 (Value.int IntKind.i64 9); refine (set_lit _ _ _ _ _ _ _ _ _ _ s2.out ⟨#[]⟩ rfl).mono ?_; rintro e w3 ⟨rfl, hg3⟩))
  go_ret
  refine ⟨rfl, ?_⟩
  (repeat (first | with_reducible exact grownBy_refl _ _ | (with_reducible refine gs ?_ ?_; first | omega | (simp; omega)) | with_reducible refine ga ?_ | with_reducible refine gd ?_ | with_reducible refine gdn ?_ | with_reducible refine gt ?_ (by assumption)))
end Go.Proofs.Ytkfcciacoplgmaa.Wd

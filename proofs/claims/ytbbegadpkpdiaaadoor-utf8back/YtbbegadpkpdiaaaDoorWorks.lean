/- That the program works at all: four calls that the laws begin with. -/
import Derived.Test.YtbbegadpkpdiaaaDoorGet
import Derived.Test.YtbbegadpkpdiaaaDoorSet
import Derived.Test.YtbbegadpkpdiaaaDoorMath
namespace Go.Proofs.YtbbegadpkpdiaaaDoor.U8
open Go.ChangeShapes Go.WideShapes Go.ChangeAt Go.RowKit Go.Proofs.YtbbegadpkpdiaaaDoor.Mem Go.Proofs.YtbbegadpkpdiaaaDoor.Ucs
set_option linter.unusedVariables false

theorem put_err (e : Int) (s : ByteArray) (w : World) : (Instr.field 32 (putV e s) 0).run Tryd.prog w = .ok (.int .i64 e) w := by kernel_rfl
theorem put_bytes (e : Int) (s : ByteArray) (w : World) : (Instr.field 32 (putV e s) 1).run Tryd.prog w = .ok (.string s) w := by kernel_rfl
theorem get_at (ao : Option Addr) (n cap : Nat) (L : List UInt8) (w : World) (hF : Forms w) (hB : Bytes w ao L) (hn : L.length = n) (hl : n ≤ 140737488355328) (R : Res) (hR : get L = R) :
    Calls Tryd.prog 9 #[.slice ao n cap] w fun e w' => e = .returned (gotV R.err (R.n : Int) R.k (R.a : Int)) ∧ w.grownBy w' none := by
  subst hn; subst hR; exact get_any ao cap L w hF hB hl
theorem set_at (u : Int) (w : World) (hF : Forms w) (h : scB u = true) (s : ByteArray) (hs : str (unit u.toNat) = s) : Calls Tryd.prog 11 #[.int .i32 u] w fun e w' => e = .returned (putV 0 s) ∧ w.grownBy w' none := by
  subst hs
  have := set_any u w hF
  unfold setV at this
  rwa [if_pos h] at this
theorem bytes_new (w : World) (cs : Array Value) (L : List UInt8) (h : cs.toList = bcells L) : Bytes (w.alloc (.cells cs 5)) (some ⟨w.heap.size, 0, none⟩) L := by
  refine .inr ⟨_, rfl, fun j hj => ?_⟩
  rw [addr_add, Nat.zero_add]
  have e : cs[j]? = some (.int .u8 (L[j].toNat : Int)) := by
    rw [← Array.getElem?_toList, h]
    simp [bcells, List.getElem?_eq_getElem hj]
  exact cell_at (heap_alloc_new w _) j e

set_option maxRecDepth 100000 in
set_option maxHeartbeats 1000000 in
theorem works_any (w : World) (hF : Forms w) : Calls Tryd.prog 17 #[] w fun e w' => e = .returned (.bool true) ∧ w.grownBy w' none := by
  obtain ⟨L1, hL1, B1, g1⟩ : ∃ L1 : List UInt8, L1.length = 3 ∧ Bytes (w.alloc (.cells #[.int .u8 195, .int .u8 164, .int .u8 65] 5)) (some ⟨w.heap.size, 0, none⟩) L1 ∧ Hid (get L1 = .ok 2 228) :=
    ⟨[195, 164, 65], rfl, bytes_new w _ _ rfl, (by decide +kernel : get [195, 164, 65] = .ok 2 228)⟩
  obtain ⟨L2, hL2, B2, g2⟩ : ∃ L2 : List UInt8, L2.length = 3 ∧ Hid (∀ w : World, Bytes (w.alloc (.cells #[.int .u8 237, .int .u8 160, .int .u8 128] 5)) (some ⟨w.heap.size, 0, none⟩) L2) ∧ Hid (get L2 = .ill 1) :=
    ⟨[237, 160, 128], rfl, (fun w => bytes_new w _ _ rfl : ∀ w : World, _), (by decide +kernel : get [237, 160, 128] = .ill 1)⟩
  have F1 : Forms (w.alloc (.cells #[.int .u8 195, .int .u8 164, .int .u8 65] 5)) := hF.alloc _
  have pe := put_err
  have s1 : Hid (scB 8364 = true) := (by decide : scB 8364 = true)
  have s2 : Hid (str (unit (8364 : Int).toNat) = ⟨#[226, 130, 172]⟩) := (by decide +kernel : str (unit (8364 : Int).toNat) = ⟨#[226, 130, 172]⟩)
  have s3 : Hid (scB 55296 = false) := (by decide : scB 55296 = false)
  clear hF
  go_enter Tryd.func17, Tryd.ntmps17
  go_wp2_with (first | (go_at_call 9; refine (get_at _ 3 3 L1 _ (by assumption) (by assumption) hL1 (by omega) _ g1.out).mono ?_; rintro e w1 ⟨rfl, hg1⟩; simp only [Res.err, Res.n, Res.k, Res.a]; have F2 : Forms (w1.alloc (.cells #[.int .u8 237, .int .u8 160, .int .u8 128] 5)) := (F1.kept0 hg1).alloc _; have B3 := B2.out w1; clear B1 F1) | (go_at_call 9; refine (get_at _ 3 3 L2 _ (by assumption) (by assumption) hL2 (by omega) _ g2.out).mono ?_; rintro e w2 ⟨rfl, hg2⟩; simp only [Res.err, Res.n, Res.k, Res.a]; have F3 : Forms w2 := F2.kept0 hg2; clear B3 F2) | (go_at_call_of 11 (Value.int IntKind.i32 8364); refine (set_at 8364 _ (by assumption) s1.out ⟨#[226, 130, 172]⟩ s2.out).mono ?_; rintro e w3 ⟨rfl, hg3⟩; clear F3) | (go_at_call_of 11 (Value.int IntKind.i32 55296); refine (set_none 55296 _ s3.out).mono ?_; rintro e w4 ⟨rfl, hg4⟩))
  go_ret
  exact ⟨rfl, grownBy_trans (grownBy_trans (grownBy_trans (grownBy_trans (World.grownBy_alloc _ _ _) hg1) (grownBy_trans (World.grownBy_alloc _ _ _) hg2)) hg3) hg4⟩
end Go.Proofs.YtbbegadpkpdiaaaDoor.U8

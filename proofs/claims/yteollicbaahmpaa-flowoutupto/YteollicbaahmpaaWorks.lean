/- The document's first example holds: a walk. -/
import Derived.Lib.SlBytesConst
import Derived.Test.YteollicbaahmpaaOut
namespace Go.Proofs.Yteollicbaahmpaa.Mem
open Go.ChangeShapes Go.WideShapes Go.ChangeAt Go.RowKit
set_option linter.unusedVariables false

theorem peek_is (w : World) (b : Nat) (ao : Option Addr) (c : Nat) (L : List UInt8) (k : Nat) (n : Int) (h : InAt w b ao c L k) (M : List UInt8) (hM : (L.drop k).take n.toNat = M) (m : Nat) (hm : M.length = m) :
    Calls Try.prog 8 #[.pointer (some ⟨b, 0, none⟩), .int .i64 n] w fun e w' => ∃ ao' c', e = .returned (.slice ao' m c') ∧ Own w' ao' c' M ∧ w.grownBy w' none ∧ (∀ g, blk ao' = some g → w.heap.size ≤ g) := by
  subst hM
  subst hm
  exact peek_any w b ao c L k n h

theorem conv_is {w : World} {ao : Option Addr} {M : List UInt8} {c : Nat} (h : Own w ao c M) (m : Nat) (hm : M.length = m) (s : ByteArray) (hs : str M = s) :
    (convert 22 9 (.slice ao m c)).run Try.prog w = .ok (.string s) w := by
  subst hm
  subst hs
  exact conv h.bytes 22 9 c Try.underlying22 Try.underlying5 Try.underlying9

set_option maxHeartbeats 1000000 in
theorem works_any (w : World) : Calls Try.prog 19 #[] w fun e w' => e = .returned (.bool true) ∧ w.grownBy w' none := by
  have hcc := Lib.run_convert_bytes_const (P := Try.prog) w 22 5 #[.int .u8 97, .int .u8 98, .int .u8 99] 3 3 Try.underlying22 Try.underlying5
  have HB : Hid (Bytes (w.alloc (.cells #[.int .u8 97, .int .u8 98, .int .u8 99] 5 (3, 4))) (some ⟨w.heap.size, 0, none⟩) [97, 98, 99]) := by
    refine .inr ⟨_, rfl, fun j hj => ?_⟩
    rw [addr_add, Nat.zero_add, World.cell?_alloc_mark]
    match j, hj with
    | 0, _ => rfl
    | 1, _ => rfl
    | 2, _ => rfl
  go_enter Try.func19, Try.ntmps19
  go_wp2_with (first
    | (go_at_call 7; refine (newIn_any _ _ [97, 98, 99] _ ?_ (by decide)).mono ?_; exact HB.out; rintro e w1 ⟨b, ao, c, rfl, hI, hg1, hb, ho⟩)
    | (go_at_call 14; refine (newOut_any 3 _ (by decide)).mono ?_; rintro e w2 ⟨d, rfl, hO, hg2, hd⟩; have hI2 := hI.kept0 hg2)
    | (go_at_call_of 8 (Value.int IntKind.i64 2); refine (peek_is _ _ _ _ [97, 98, 99] 0 2 hI2 [97, 98] rfl 2 rfl).mono ?_; rintro e w3 ⟨xo, xc, rfl, hx, hg3, hxf⟩; have hcv := conv_is hx 2 rfl ⟨#[97, 98]⟩ rfl; have hI3 := hI2.kept0 hg3; have hO3 := hO.kept0 hg3)
    | (go_at_call 10; refine (skip_yes _ b ao c [97, 98, 99] 0 2 (by assumption) (by decide)).mono ?_; rintro e w4 ⟨rfl, hI4, hg4⟩; have hO4 := hO3.aside hg4 hI3.blk (by decide) (by decide))
    | (go_at_call_of 8 (Value.int IntKind.i64 5); refine (peek_is _ _ _ _ [97, 98, 99] 2 5 hI4 [99] rfl 1 rfl).mono ?_; rintro e w5 ⟨yo, yc, rfl, hy, hg5, hyf⟩; have hcv2 := conv_is hy 1 rfl ⟨#[99]⟩ rfl; have hI5 := hI4.kept0 hg5; have hO5 := hO4.kept0 hg5)
    | (go_at_call 10; refine (skip_no _ b ao c [97, 98, 99] 2 2 (by assumption) (.inr (by decide))).mono ?_; rintro e w' ⟨rfl, hw⟩; obtain rfl := hw)
    | (go_at_call 13; refine (at_any _ _ _ _ _ _ hI5).mono ?_; rintro e w' ⟨rfl, hw⟩; obtain rfl := hw)
    | (go_at_call_of 15 (Value.string ⟨#[97, 98]⟩); refine (put_yes _ d none 0 [] (max 3 0) ⟨#[97, 98]⟩ (by assumption) (by decide) (by decide)).mono ?_; rintro e w6 ⟨zo, zc, rfl, hO6, hk6, hz⟩)
    | (go_at_call_of 15 (Value.string ⟨#[99, 100]⟩); refine (put_no _ _ _ _ _ _ ⟨#[99, 100]⟩ hO6 (by decide)).mono ?_; rintro e w' ⟨rfl, hw⟩; obtain rfl := hw)
    | (go_at_call 17; refine (room_any _ _ _ _ _ _ hO6).mono ?_; rintro e w' ⟨rfl, hw⟩; obtain rfl := hw))
  go_ret
  have z0 : w.heap.size ≤ w1.heap.size := by have := hg1.size; simp at this; omega
  have zb : w.heap.size ≤ b := by simp at hb; omega
  have B1 : Below w.heap.size w w1 := ((Below.refl _ w).alloc (Nat.le_refl _) _).grown hg1 (by simp) (by simp)
  have B2 := B1.grown hg2 z0 (by simp)
  have B3 := B2.grown hg3 (Nat.le_trans z0 hg2.size) (by simp)
  have B4 := B3.grown hg4 B3.size (by intro k e; simp at e; omega)
  have B5 := B4.grown hg5 B4.size (by simp)
  have B6 := Kept.below B5 hk6 B5.size (by intro j e; simp [blk] at e; omega)
  exact ⟨rfl, B6.os, B6.tape, B6.output, B6.size, fun k hk _ => B6.block k hk⟩
end Go.Proofs.Yteollicbaahmpaa.Mem

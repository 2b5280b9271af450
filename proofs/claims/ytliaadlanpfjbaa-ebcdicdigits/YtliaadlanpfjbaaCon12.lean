/- The contracts that the laws of layer 12 want of the program, over any condition that new blocks keep; the first law's walk. -/
import Derived.Test.YtliaadlanpfjbaaFl12
import Derived.Test.YtliaadlanpfjbaaBk12
import Derived.Test.YtliaadlanpfjbaaBlk
namespace Go.Proofs.Ytliaadlanpfjbaa.C12
open Go.ChangeShapes Go.WideShapes Go.ChangeAt Go.RowKit Go.Proofs.Ytliaadlanpfjbaa.Mem Go.Proofs.Ytliaadlanpfjbaa.El Go.Proofs.Ytliaadlanpfjbaa.Ru
set_option linter.unusedVariables false
set_option linter.unusedSimpArgs false

def I64 (k : Int) : Prop := -9223372036854775808 ≤ k ∧ k ≤ 9223372036854775807
def I32 (k : Int) : Prop := -2147483648 ≤ k ∧ k ≤ 2147483647
structure Con (P : World → Prop) : Prop where
  keep : ∀ {w w' : World}, P w → w.grownBy w' none → P w'
  has : ∀ (k : Int) (hk : I64 k) (H : Bool) (hH : Hid (decide (k ∈ kinds) = H)) (w : World), P w → Calls Try.prog 12 #[.int .i64 k] w fun e w' => e = .returned (.bool H) ∧ w.grownBy w' none
  scalar : ∀ (k : Int) (hk : I64 k) (b : Nat) (hb : b < 256) (w : World) (R : Option Nat) (hR : Hid (scI k b = R)), P w → Calls Try.prog 8 #[.int .i64 k, .int .u8 (b : Int)] w fun e w' => e = .returned (.tuple #[.int .i32 ((R.getD 0 : Nat) : Int), .bool R.isSome]) ∧ w.grownBy w' none
  byte : ∀ (k : Int) (hk : I64 k) (u : Int) (hu : I32 u) (w : World) (R : Option Nat) (hR : Hid (byI k u = R)), P w → Calls Try.prog 10 #[.int .i64 k, .int .i32 u] w fun e w' => e = .returned (.tuple #[.int .u8 ((R.getD 0 : Nat) : Int), .bool R.isSome]) ∧ w.grownBy w' none
  flat : ∀ (k : Int) (hk : I64 k) (w : World) (F : List Int) (hF : Hid (flR k = F)), P w → Calls Try.prog 14 #[.int .i64 k] w fun e w' => ∃ ro rc, e = .returned (.slice ro F.length rc) ∧ RuE.Own w' ro rc F ∧ w.grownBy w' none ∧ (∀ g, blk ro = some g → w.heap.size ≤ g)

set_option maxRecDepth 100000 in
set_option maxHeartbeats 1000000 in
theorem tells_walk {P : World → Prop} (C : Con P) (k : Int) (hk : I64 k) (b : Nat) (hb : b < 256) (u : Int) (hu : I32 u) (w : World) (hw : P w) : Calls Try.prog 3 #[.int .i64 k, .int .u8 (b : Int), .int .i32 u] w fun e w' => e = .returned (.bool true) ∧ w.grownBy w' none := by
  obtain ⟨R, hR⟩ : ∃ R, Hid (scI k b = R) := ⟨_, Hid.mk' rfl⟩
  obtain ⟨S, hS⟩ : ∃ R, Hid (byI k u = R) := ⟨_, Hid.mk' rfl⟩
  obtain ⟨H, hH⟩ : ∃ R, Hid (decide (k ∈ kinds) = R) := ⟨_, Hid.mk' rfl⟩
  have a1 := Hid.mk' (fun w hw => C.scalar k hk b hb w R hR hw)
  have a2 := Hid.mk' (fun w => refScalar_any k b hb w R hR)
  have a3 := Hid.mk' (fun w hw => C.byte k hk u hu w S hS hw)
  have a4 := Hid.mk' (fun w => refByte_any k u w S hS)
  have a5 := Hid.mk' (fun w hw => C.has k hk H hH w hw)
  have a6 := Hid.mk' (fun w => has_any k H hH w)
  have hq := Hid.mk' hw
  have K := Hid.mk' (fun (a b : World) (h : P a) (g : a.grownBy b none) => C.keep h g)
  clear hR hS hH hk hb hu hw C
  obtain ⟨r, hr⟩ : ∃ r : Nat, R.getD 0 = r := ⟨_, rfl⟩
  obtain ⟨s, hs⟩ : ∃ r : Nat, S.getD 0 = r := ⟨_, rfl⟩
  obtain ⟨p, hp⟩ : ∃ r : Bool, R.isSome = r := ⟨_, rfl⟩
  obtain ⟨q, hq2⟩ : ∃ r : Bool, S.isSome = r := ⟨_, rfl⟩
  rw [hr, hp] at a1 a2
  rw [hs, hq2] at a3 a4
  clear hr hs hp hq2
  have e1 : ((r : Int) == (r : Int)) = true := by simp
  have e2 : ((s : Int) == (s : Int)) = true := by simp
  cases p <;> cases q <;> cases H <;>
  · go_enter Try.func3, Try.ntmps3
    go_upto_region 5 with (first
      | (go_at_call 8; refine (a1.out _ hq.out).mono ?_; rintro e w1 ⟨rfl, hg1⟩; have hq1 := Hid.mk' (K.out _ _ hq.out hg1))
      | (go_at_call 9; refine (a2.out _).mono ?_; rintro e w2 ⟨rfl, hg2⟩; have hq2 := Hid.mk' (K.out _ _ hq1.out hg2))
      | (go_at_call 10; refine (a3.out _ hq2.out).mono ?_; rintro e w3 ⟨rfl, hg3⟩; have hq3 := Hid.mk' (K.out _ _ hq2.out hg3))
      | (go_at_call 11; refine (a4.out _).mono ?_; rintro e w4 ⟨rfl, hg4⟩; have hq4 := Hid.mk' (K.out _ _ hq3.out hg4)))
    have hG := Hid.mk' (gt (gt (gt hg1 hg2) hg3) hg4)
    clear a1 a2 a3 a4 hg1 hg2 hg3 hg4 hq hq1 hq2 hq3
    go_wp2_with (first
      | (go_at_call 12; refine (a5.out _ hq4.out).mono ?_; rintro e w5 ⟨rfl, hg5⟩)
      | (go_at_call 13; refine (a6.out _).mono ?_; rintro e w6 ⟨rfl, rfl⟩))
    go_ret
    exact ⟨rfl, gt hG.out hg5⟩

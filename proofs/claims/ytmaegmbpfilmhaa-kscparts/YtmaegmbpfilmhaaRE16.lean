/- The contracts that the laws of layer 16 want of the program, over any condition that new blocks keep; the first law's walk, 'works'. -/
import Derived.Test.YtmaegmbpfilmhaaRC16
import Derived.Test.YtmaegmbpfilmhaaRD16
import Derived.Test.YtmaegmbpfilmhaaBlk
namespace Go.Proofs.Ytmaegmbpfilmhaa.C16
open Go.ChangeShapes Go.WideShapes Go.ChangeAt Go.RowKit Go.Proofs.Ytmaegmbpfilmhaa.Mem Go.Proofs.Ytmaegmbpfilmhaa.El Go.Proofs.Ytmaegmbpfilmhaa.Ru
set_option linter.unusedVariables false
set_option linter.unusedSimpArgs false

structure Con (P : World → Prop) : Prop where
  keep : ∀ {w w' : World}, P w → w.grownBy w' none → P w'
  scalar : ∀ (k : Int) (hk : I64 k) (c : Int) (hc : I64 c) (w : World) (R : Option Nat) (hR : Hid (scP k c = R)), P w → Calls Try.prog 8 #[.int .i64 k, .int .i64 c] w fun e w' => e = .returned (.tuple #[.int .i32 ((R.getD 0 : Nat) : Int), .bool R.isSome]) ∧ w.grownBy w' none
  place : ∀ (u : Int) (hu : I32 u) (w : World) (A B : Nat) (ok : Bool) (hP : Hid (plT u = (A, B, ok))), P w → Calls Try.prog 10 #[.int .i32 u] w fun e w' => e = .returned (.tuple #[.int .i64 (A : Int), .int .i64 (B : Int), .bool ok]) ∧ w.grownBy w' none
  row : ∀ (k : Int) (hk : I64 k) (w : World) (F : List Int) (hF : Hid (rowR k = F)), P w → Calls Try.prog 12 #[.int .i64 k] w fun e w' => ∃ ro rc, e = .returned (.slice ro F.length rc) ∧ RuE.Own w' ro rc F ∧ w.grownBy w' none ∧ (∀ g, blk ro = some g → w.heap.size ≤ g)

set_option maxRecDepth 100000 in
set_option maxHeartbeats 1000000 in
theorem tells_walk {P : World → Prop} (C : Con P) (k : Int) (hk : I64 k) (c : Int) (hc : I64 c) (u : Int) (hu : I32 u) (w : World) (hw : P w) : Calls Try.prog 3 #[.int .i64 k, .int .i64 c, .int .i32 u] w fun e w' => e = .returned (.bool true) ∧ w.grownBy w' none := by
  obtain ⟨R, hR⟩ : ∃ R, Hid (scP k c = R) := ⟨_, Hid.mk' rfl⟩
  obtain ⟨A, B, ok, hP⟩ : ∃ A B ok, Hid (plT u = (A, B, ok)) := ⟨_, _, _, Hid.mk' rfl⟩
  have a1 := Hid.mk' (fun w hw => C.scalar k hk c hc w R hR hw)
  have a2 := Hid.mk' (fun w => refScalar_any k c hc w R hR)
  have a3 := Hid.mk' (fun w hw => C.place u hu w A B ok hP hw)
  have a4 := Hid.mk' (fun w => refPlace_any u w A B ok hP)
  have hq := Hid.mk' hw
  have K := Hid.mk' (fun (a b : World) (h : P a) (g : a.grownBy b none) => C.keep h g)
  clear hR hP hk hc hu hw C
  obtain ⟨r, hr⟩ : ∃ r : Nat, R.getD 0 = r := ⟨_, rfl⟩
  obtain ⟨p, hp⟩ : ∃ r : Bool, R.isSome = r := ⟨_, rfl⟩
  rw [hr, hp] at a1 a2
  clear hr hp
  have e1 : ((r : Int) == (r : Int)) = true := by simp
  have e2 : ((A : Int) == (A : Int)) = true := by simp
  have e3 : ((B : Int) == (B : Int)) = true := by simp
  cases p <;> cases ok <;>
  · go_enter Try.func3, Try.ntmps3
    go_wp2_with (first
      | (go_at_call 8; refine (a1.out _ hq.out).mono ?_; rintro e w1 ⟨rfl, hg1⟩; have hq1 := Hid.mk' (K.out _ _ hq.out hg1))
      | (go_at_call 9; refine (a2.out _).mono ?_; rintro e w2 ⟨rfl, hg2⟩; have hq2 := Hid.mk' (K.out _ _ hq1.out hg2))
      | (go_at_call 10; refine (a3.out _ hq2.out).mono ?_; rintro e w3 ⟨rfl, hg3⟩)
      | (go_at_call 11; refine (a4.out _).mono ?_; rintro e w4 ⟨rfl, hg4⟩))
    go_ret
    exact ⟨rfl, gt (gt (gt hg1 hg2) hg3) hg4⟩

set_option maxRecDepth 100000 in
set_option maxHeartbeats 1000000 in
theorem works_any {P : World → Prop} (C : Con P) (w : World) (hw : P w) : Calls Try.prog 15 #[] w fun e w' => e = .returned (.bool true) ∧ w.grownBy w' none ∧ P w' := by
  have a1 := Hid.mk' (fun w hw => C.scalar 4 (by unfold I64; omega) 1 (by unfold I64; omega) w (some 12593) (Hid.mk' (by decide +kernel)) hw)
  have a3 := Hid.mk' (fun w hw => C.place 12594 (by unfold I32; omega) w 4 2 true (Hid.mk' (by decide +kernel)) hw)
  have a5 := Hid.mk' (fun w hw => C.row 94 (by unfold I64; omega) w [] (Hid.mk' (by decide +kernel)) hw)
  have hq := Hid.mk' hw
  have K := Hid.mk' (fun (a b : World) (h : P a) (g : a.grownBy b none) => C.keep h g)
  clear hw C
  go_enter Try.func15, Try.ntmps15
  go_wp2_with (first
    | (go_at_call 8; refine (a1.out _ hq.out).mono ?_; rintro e w1 ⟨rfl, hg1⟩; have hq1 := Hid.mk' (K.out _ _ hq.out hg1))
    | (go_at_call 10; refine (a3.out _ hq1.out).mono ?_; rintro e w3 ⟨rfl, hg3⟩; have hq3 := Hid.mk' (K.out _ _ hq1.out hg3))
    | (go_at_call 12; refine (a5.out _ hq3.out).mono ?_; rintro e w5 ⟨ro, rc, rfl, ho5, hg5, _⟩; have hq5 := Hid.mk' (K.out _ _ hq3.out hg5)))
  go_ret
  exact ⟨rfl, gt (gt hg1 hg3) hg5, hq5.out⟩
end Go.Proofs.Ytmaegmbpfilmhaa.C16

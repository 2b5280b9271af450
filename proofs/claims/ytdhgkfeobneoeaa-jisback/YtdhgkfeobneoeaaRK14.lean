/- JisHalf: the walk over the program's contracts. -/
import Derived.Test.YtdhgkfeobneoeaaRJ14
namespace Go.Proofs.Ytdhgkfeobneoeaa.C14
open Go.ChangeShapes Go.WideShapes Go.ChangeAt Go.RowKit Go.Proofs.Ytdhgkfeobneoeaa.Mem
set_option linter.unusedVariables false
set_option linter.unusedSimpArgs false

structure ConH (P : World → Prop) : Prop where
  keep : ∀ {w w' : World}, P w → w.grownBy w' none → P w'
  half : ∀ (b : Nat) (hb : b < 256) (w : World) (R : Option Nat) (hR : Hid (haR b = R)), P w → Calls Try.prog 16 #[.int .u8 (b : Int)] w fun e w' => e = .returned (.tuple #[.int .i32 ((R.getD 0 : Nat) : Int), .bool R.isSome]) ∧ w.grownBy w' none
  halfByte : ∀ (u : Int) (hu : I32 u) (w : World) (R : Option Nat) (hR : Hid (hbR u = R)), P w → Calls Try.prog 18 #[.int .i32 u] w fun e w' => e = .returned (.tuple #[.int .u8 ((R.getD 0 : Nat) : Int), .bool R.isSome]) ∧ w.grownBy w' none
theorem haR_le {b n : Nat} (hb : b < 256) (h : haR b = some n) : n ≤ 65535 := by
  have : ∀ b, b < 256 → ∀ n, haR b = some n → n ≤ 65535 := by decide +kernel
  exact this b hb n h
set_option maxRecDepth 100000 in
set_option maxHeartbeats 1000000 in
theorem half_walk {P : World → Prop} (C : ConH P) (b : Nat) (hb : b < 256) (u : Int) (hu : I32 u) (w : World) (hw : P w) : Calls Try.prog 6 #[.int .u8 (b : Int), .int .i32 u] w fun e w' => e = .returned (.bool true) ∧ w.grownBy w' none := by
  obtain ⟨R, hR⟩ : ∃ R, Hid (haR b = R) := ⟨_, Hid.mk' rfl⟩
  obtain ⟨S, hS⟩ : ∃ S, Hid (hbR u = S) := ⟨_, Hid.mk' rfl⟩
  have a1 := Hid.mk' (fun w hw => C.half b hb w R hR hw)
  have a2 := Hid.mk' (fun w => refHalf_any b hb w R hR)
  have a3 := Hid.mk' (fun w hw => C.halfByte u hu w S hS hw)
  have a4 := Hid.mk' (fun w => refHalfByte_any u w S hS)
  have hq := Hid.mk' hw
  have K := Hid.mk' (fun (a b : World) (h : P a) (g : a.grownBy b none) => C.keep h g)
  obtain ⟨s, hs⟩ : ∃ r : Nat, S.getD 0 = r := ⟨_, rfl⟩
  obtain ⟨q, hq2⟩ : ∃ r : Bool, S.isSome = r := ⟨_, rfl⟩
  rw [hs, hq2] at a3 a4
  clear hs hq2 hS
  have e2 : ((s : Int) != (s : Int)) = false := by simp
  cases R with
  | none =>
    have a5 := Hid.mk' (fun w hw => C.halfByte 0 (by unfold I32; omega) w (some 0) (Hid.mk' (by decide +kernel)) hw)
    simp only [Option.getD_none, Option.isSome_none, Option.getD_some, Option.isSome_some, Int.natCast_zero, Int.cast_ofNat_Int] at a1 a2 a5
    clear hR hw C hu
    cases q <;>
    · go_enter Try.func6, Try.ntmps6
      go_upto_region 7 with (first
        | (go_at_call 16; refine (a1.out _ hq.out).mono ?_; rintro e w1 ⟨rfl, hg1⟩; have hq1 := Hid.mk' (K.out _ _ hq.out hg1))
        | (go_at_call 17; refine (a2.out _).mono ?_; rintro e w2 ⟨rfl, rfl⟩)
        | (go_at_call 18; refine (a3.out _ hq1.out).mono ?_; rintro e w3 ⟨rfl, hg3⟩; have hq3 := Hid.mk' (K.out _ _ hq1.out hg3))
        | (go_at_call 19; refine (a4.out _).mono ?_; rintro e w4 ⟨rfl, rfl⟩))
      go_wp2_with (go_at_call 18; refine (a5.out _ hq3.out).mono ?_; rintro e w5 ⟨rfl, hg5⟩)
      go_ret
      exact ⟨rfl, gt (gt hg1 hg3) hg5⟩
  | some n =>
    have hn := haR_le hb hR.out
    have a5 := Hid.mk' (fun w hw => C.halfByte (n : Int) (by unfold I32; omega) w (some b) (Hid.mk' (half_back b hb n hR.out)) hw)
    simp only [Option.getD_some, Option.isSome_some] at a1 a2 a5
    have e1 : ((n : Int) != (n : Int)) = false := by simp
    have e3 : ((b : Int) == (b : Int)) = true := by simp
    clear hR hw C hu
    cases q <;>
    · go_enter Try.func6, Try.ntmps6
      go_upto_region 7 with (first
        | (go_at_call 16; refine (a1.out _ hq.out).mono ?_; rintro e w1 ⟨rfl, hg1⟩; have hq1 := Hid.mk' (K.out _ _ hq.out hg1))
        | (go_at_call 17; refine (a2.out _).mono ?_; rintro e w2 ⟨rfl, rfl⟩)
        | (go_at_call 18; refine (a3.out _ hq1.out).mono ?_; rintro e w3 ⟨rfl, hg3⟩; have hq3 := Hid.mk' (K.out _ _ hq1.out hg3))
        | (go_at_call 19; refine (a4.out _).mono ?_; rintro e w4 ⟨rfl, rfl⟩))
      go_wp2_with (go_at_call 18; refine (a5.out _ hq3.out).mono ?_; rintro e w5 ⟨rfl, hg5⟩)
      go_ret
      exact ⟨rfl, gt (gt hg1 hg3) hg5⟩
end Go.Proofs.Ytdhgkfeobneoeaa.C14

/- GbKana: the walk. -/
import Derived.Test.YthdkialncnfflaaRG15
namespace Go.Proofs.Ythdkialncnfflaa.C15
open Go.ChangeShapes Go.WideShapes Go.ChangeAt Go.RowKit Go.Proofs.Ythdkialncnfflaa.Mem Go.Proofs.Ythdkialncnfflaa.El Go.Proofs.Ythdkialncnfflaa.Ru
set_option linter.unusedVariables false
set_option linter.unusedSimpArgs false

theorem kana4 : ∀ c : Nat, c < 94 → scP 4 ((c : Int) + 1) = if c < 83 then some (12353 + c) else none := by decide +kernel
theorem kana5 : ∀ c : Nat, c < 94 → scP 5 ((c : Int) + 1) = if c < 86 then some (12449 + c) else none := by decide +kernel
theorem kana3 : ∀ c : Nat, c < 94 → scP 3 ((c : Int) + 1) = some (if c = 3 then 65509 else if c = 93 then 65507 else 65281 + c) := by decide +kernel
/-- Scalar at a cell, as the law calls it: with this number, or none. -/
theorem call_some {P : World → Prop} (C : Con P) (k : Int) (hk : I64 k) (r : Nat) (hr : r < 94) (n : Nat) (z : Int) (hz : (n : Int) = z) (h : scP k ((r : Int) + 1) = some n) : Hid (∀ w, P w → Calls Try.prog 7 #[.int .i64 k, .int .i64 (1 + (r : Int))] w fun e w' => e = .returned (.tuple #[.int .i32 z, .bool true]) ∧ w.grownBy w' none) := Hid.mk' (fun w hw => by
  have := C.scalar k hk (1 + (r : Int)) (by unfold I64; omega) w (some n) (Hid.mk' (by rw [show 1 + (r : Int) = (r : Int) + 1 by omega]; exact h)) hw
  simp only [Option.getD_some, Option.isSome_some, hz] at this
  exact this)
theorem call_none {P : World → Prop} (C : Con P) (k : Int) (hk : I64 k) (r : Nat) (hr : r < 94) (h : scP k ((r : Int) + 1) = none) : Hid (∀ w, P w → Calls Try.prog 7 #[.int .i64 k, .int .i64 (1 + (r : Int))] w fun e w' => e = .returned (.tuple #[.int .i32 0, .bool false]) ∧ w.grownBy w' none) := Hid.mk' (fun w hw => by
  have := C.scalar k hk (1 + (r : Int)) (by unfold I64; omega) w none (Hid.mk' (by rw [show 1 + (r : Int) = (r : Int) + 1 by omega]; exact h)) hw
  simpa using this)

set_option maxRecDepth 100000 in
set_option maxHeartbeats 2000000 in
theorem kana_walk {P : World → Prop} (C : Con P) (a : Int) (w : World) (hw : P w) : Calls Try.prog 6 #[.int .i64 a] w fun e w' => e = .returned (.bool true) ∧ w.grownBy w' none := by
  obtain ⟨r, hr0, hr94⟩ := mod_fit a 94 (by omega) (by omega)
  have hr : wrap64 ((IntKind.u64.wrap a).tmod 94) = (r : Int) := hr0
  clear hr0
  have a0 := Hid.mk' (fun w hw => works_any C w hw)
  have K := Hid.mk' (fun (a b : World) (h : P a) (g : a.grownBy b none) => C.keep h g)
  have k4 := kana4 r hr94
  have k5 := kana5 r hr94
  have k3 := kana3 r hr94
  have hq := Hid.mk' hw
  have i3 : I64 3 := by unfold I64; omega
  have i4 : I64 4 := by unfold I64; omega
  have i5 : I64 5 := by unfold I64; omega
  by_cases c3 : r = 3
  · subst c3
    have a4 := call_some C 4 i4 3 hr94 _ 12356 rfl k4
    have a5 := call_some C 5 i5 3 hr94 _ 12452 rfl k5
    have a3 := call_some C 3 i3 3 hr94 _ 65509 rfl k3
    simp only [Int.cast_ofNat_Int, Int.reduceAdd] at a3 a4 a5 hr
    clear C hw k3 k4 k5
    go_enter Try.func6, Try.ntmps6
    go_wp2_with (first
      | (go_at_call 14; refine (a0.out _ hq.out).mono ?_; rintro e w1 ⟨rfl, hg1, hp1⟩; have hq1 := Hid.mk' hp1; clear hp1)
      | (go_at_call_of 7 (Value.int IntKind.i64 5); refine (a5.out _ hq2.out).mono ?_; rintro e w3 ⟨rfl, hg3⟩; have hq3 := Hid.mk' (K.out _ _ hq2.out hg3))
      | (go_at_call_of 7 (Value.int IntKind.i64 3); refine (a3.out _ hq3.out).mono ?_; rintro e w4 ⟨rfl, hg4⟩)
      | (go_at_call_of 7 (Value.int IntKind.i64 4); refine (a4.out _ hq1.out).mono ?_; rintro e w2 ⟨rfl, hg2⟩; have hq2 := Hid.mk' (K.out _ _ hq1.out hg2)))
    go_ret
    exact ⟨rfl, gt (gt (gt hg1 hg2) hg3) hg4⟩
  · by_cases c93 : r = 93
    · subst c93
      have a4 := call_none C 4 i4 93 hr94 k4
      have a5 := call_none C 5 i5 93 hr94 k5
      have a3 := call_some C 3 i3 93 hr94 _ 65507 rfl k3
      simp only [Int.cast_ofNat_Int, Int.reduceAdd] at a3 a4 a5 hr
      clear C hw k3 k4 k5
      go_enter Try.func6, Try.ntmps6
      go_wp2_with (first
        | (go_at_call 14; refine (a0.out _ hq.out).mono ?_; rintro e w1 ⟨rfl, hg1, hp1⟩; have hq1 := Hid.mk' hp1; clear hp1)
        | (go_at_call_of 7 (Value.int IntKind.i64 5); refine (a5.out _ hq2.out).mono ?_; rintro e w3 ⟨rfl, hg3⟩; have hq3 := Hid.mk' (K.out _ _ hq2.out hg3))
        | (go_at_call_of 7 (Value.int IntKind.i64 3); refine (a3.out _ hq3.out).mono ?_; rintro e w4 ⟨rfl, hg4⟩)
        | (go_at_call_of 7 (Value.int IntKind.i64 4); refine (a4.out _ hq1.out).mono ?_; rintro e w2 ⟨rfl, hg2⟩; have hq2 := Hid.mk' (K.out _ _ hq1.out hg2)))
      go_ret
      exact ⟨rfl, gt (gt (gt hg1 hg2) hg3) hg4⟩
    · rw [if_neg c3, if_neg c93] at k3
      have a3 := call_some C 3 i3 r hr94 _ (65280 + (1 + (r : Int))) (by omega) k3
      have hr' : (r : Int) < 94 := by omega
      by_cases c83 : r < 83
      · rw [if_pos c83] at k4
        rw [if_pos (by omega)] at k5
        have a4 := call_some C 4 i4 r hr94 _ (12352 + (1 + (r : Int))) (by omega) k4
        have a5 := call_some C 5 i5 r hr94 _ (12448 + (1 + (r : Int))) (by omega) k5
        have d1 : 1 + (r : Int) ≤ 83 := by omega
        have d2 : 1 + (r : Int) ≤ 86 := by omega
        clear C hw k3 k4 k5
        go_enter Try.func6, Try.ntmps6
        go_wp2_with (first
          | (go_at_call 14; refine (a0.out _ hq.out).mono ?_; rintro e w1 ⟨rfl, hg1, hp1⟩; have hq1 := Hid.mk' hp1; clear hp1)
          | (go_at_call_of 7 (Value.int IntKind.i64 5); refine (a5.out _ hq2.out).mono ?_; rintro e w3 ⟨rfl, hg3⟩; have hq3 := Hid.mk' (K.out _ _ hq2.out hg3))
          | (go_at_call_of 7 (Value.int IntKind.i64 3); refine (a3.out _ hq3.out).mono ?_; rintro e w4 ⟨rfl, hg4⟩)
          | (go_at_call_of 7 (Value.int IntKind.i64 4); refine (a4.out _ hq1.out).mono ?_; rintro e w2 ⟨rfl, hg2⟩; have hq2 := Hid.mk' (K.out _ _ hq1.out hg2)))
        go_ret
        exact ⟨rfl, gt (gt (gt hg1 hg2) hg3) hg4⟩
      · rw [if_neg c83] at k4
        have a4 := call_none C 4 i4 r hr94 k4
        have d1 : ¬ 1 + (r : Int) ≤ 83 := by omega
        by_cases c86 : r < 86
        · rw [if_pos c86] at k5
          have a5 := call_some C 5 i5 r hr94 _ (12448 + (1 + (r : Int))) (by omega) k5
          have d2 : 1 + (r : Int) ≤ 86 := by omega
          clear C hw k3 k4 k5
          go_enter Try.func6, Try.ntmps6
          go_wp2_with (first
            | (go_at_call 14; refine (a0.out _ hq.out).mono ?_; rintro e w1 ⟨rfl, hg1, hp1⟩; have hq1 := Hid.mk' hp1; clear hp1)
            | (go_at_call_of 7 (Value.int IntKind.i64 5); refine (a5.out _ hq2.out).mono ?_; rintro e w3 ⟨rfl, hg3⟩; have hq3 := Hid.mk' (K.out _ _ hq2.out hg3))
            | (go_at_call_of 7 (Value.int IntKind.i64 3); refine (a3.out _ hq3.out).mono ?_; rintro e w4 ⟨rfl, hg4⟩)
            | (go_at_call_of 7 (Value.int IntKind.i64 4); refine (a4.out _ hq1.out).mono ?_; rintro e w2 ⟨rfl, hg2⟩; have hq2 := Hid.mk' (K.out _ _ hq1.out hg2)))
          go_ret
          exact ⟨rfl, gt (gt (gt hg1 hg2) hg3) hg4⟩
        · rw [if_neg c86] at k5
          have a5 := call_none C 5 i5 r hr94 k5
          have d2 : ¬ 1 + (r : Int) ≤ 86 := by omega
          clear C hw k3 k4 k5
          go_enter Try.func6, Try.ntmps6
          go_wp2_with (first
            | (go_at_call 14; refine (a0.out _ hq.out).mono ?_; rintro e w1 ⟨rfl, hg1, hp1⟩; have hq1 := Hid.mk' hp1; clear hp1)
            | (go_at_call_of 7 (Value.int IntKind.i64 5); refine (a5.out _ hq2.out).mono ?_; rintro e w3 ⟨rfl, hg3⟩; have hq3 := Hid.mk' (K.out _ _ hq2.out hg3))
            | (go_at_call_of 7 (Value.int IntKind.i64 3); refine (a3.out _ hq3.out).mono ?_; rintro e w4 ⟨rfl, hg4⟩)
            | (go_at_call_of 7 (Value.int IntKind.i64 4); refine (a4.out _ hq1.out).mono ?_; rintro e w2 ⟨rfl, hg2⟩; have hq2 := Hid.mk' (K.out _ _ hq1.out hg2)))
          go_ret
          exact ⟨rfl, gt (gt (gt hg1 hg2) hg3) hg4⟩
end Go.Proofs.Ythdkialncnfflaa.C15

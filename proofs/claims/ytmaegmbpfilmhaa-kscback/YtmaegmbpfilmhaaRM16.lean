/- KscParts, KscHangul: the walks over the program's contracts. -/
import Derived.Test.YtmaegmbpfilmhaaRK16
import Derived.Test.YtmaegmbpfilmhaaRE16
namespace Go.Proofs.Ytmaegmbpfilmhaa.C16
open Go.ChangeShapes Go.WideShapes Go.ChangeAt Go.RowKit Go.Proofs.Ytmaegmbpfilmhaa.Mem
set_option linter.unusedVariables false
set_option linter.unusedSimpArgs false

structure ConS (P : World → Prop) : Prop where
  keep : ∀ {w w' : World}, P w → w.grownBy w' none → P w'
  syl_yes : ∀ (f m l : Int) (h : In3 f m l) (w : World), P w → Calls Try.prog 16 #[.int .i64 f, .int .i64 m, .int .i64 l] w fun e w' => e = .returned (.tuple #[.int .i32 (syV f m l), .bool true]) ∧ w.grownBy w' none
  syl_no : ∀ (f m l : Int) (hf : I64 f) (hm : I64 m) (hl : I64 l) (h : ¬ In3 f m l) (w : World), P w → Calls Try.prog 16 #[.int .i64 f, .int .i64 m, .int .i64 l] w fun e w' => e = .returned (.tuple #[.int .i32 0, .bool false]) ∧ w.grownBy w' none
  parts_yes : ∀ (u : Int) (h : InS u) (w : World), P w → Calls Try.prog 18 #[.int .i32 u] w fun e w' => e = .returned (.tuple #[.int .i64 ((u - 44032) / 588), .int .i64 ((u - 44032) % 588 / 28), .int .i64 ((u - 44032) % 28), .bool true]) ∧ w.grownBy w' none
  parts_no : ∀ (u : Int) (hu : I32 u) (h : ¬ InS u) (w : World), P w → Calls Try.prog 18 #[.int .i32 u] w fun e w' => e = .returned (.tuple #[.int .i64 0, .int .i64 0, .int .i64 0, .bool false]) ∧ w.grownBy w' none
/-- What Syllable answers, one way or the other. -/
theorem syl_any {P : World → Prop} (C : ConS P) (f m l : Int) (hf : I64 f) (hm : I64 m) (hl : I64 l) : ∃ (z : Int) (b : Bool), Hid (∀ w, P w → Calls Try.prog 16 #[.int .i64 f, .int .i64 m, .int .i64 l] w fun e w' => e = .returned (.tuple #[.int .i32 z, .bool b]) ∧ w.grownBy w' none) ∧ Hid (∀ w, Calls Try.prog 17 #[.int .i64 f, .int .i64 m, .int .i64 l] w fun e w' => e = .returned (.tuple #[.int .i32 z, .bool b]) ∧ w' = w) ∧ (b = true → In3 f m l ∧ z = syV f m l) := by
  by_cases h : In3 f m l
  · exact ⟨_, true, Hid.mk' (fun w hw => C.syl_yes f m l h w hw), Hid.mk' (fun w => refSyl_yes f m l h w), fun _ => ⟨h, rfl⟩⟩
  · exact ⟨_, false, Hid.mk' (fun w hw => C.syl_no f m l hf hm hl h w hw), Hid.mk' (fun w => refSyl_no f m l h w), fun e => by cases e⟩
theorem parts_any {P : World → Prop} (C : ConS P) (u : Int) (hu : I32 u) : ∃ (a b c : Int) (ok : Bool), Hid (∀ w, P w → Calls Try.prog 18 #[.int .i32 u] w fun e w' => e = .returned (.tuple #[.int .i64 a, .int .i64 b, .int .i64 c, .bool ok]) ∧ w.grownBy w' none) ∧ Hid (∀ w, Calls Try.prog 19 #[.int .i32 u] w fun e w' => e = .returned (.tuple #[.int .i64 a, .int .i64 b, .int .i64 c, .bool ok]) ∧ w' = w) ∧ In3 a b c ∧ (ok = true → syV a b c = u) := by
  by_cases h : InS u
  · obtain ⟨h1, h2⟩ := of_parts h
    exact ⟨_, _, _, true, Hid.mk' (fun w hw => C.parts_yes u h w hw), Hid.mk' (fun w => refParts_yes u h w), h1, fun _ => h2⟩
  · exact ⟨_, _, _, false, Hid.mk' (fun w hw => C.parts_no u hu h w hw), Hid.mk' (fun w => refParts_no u h w), by unfold In3; omega, fun e => by cases e⟩
theorem parts_back {P : World → Prop} (C : ConS P) {f m l : Int} (h : In3 f m l) : Hid (∀ w, P w → Calls Try.prog 18 #[.int .i32 (syV f m l)] w fun e w' => e = .returned (.tuple #[.int .i64 f, .int .i64 m, .int .i64 l, .bool true]) ∧ w.grownBy w' none) := Hid.mk' (fun w hw => by
  have := C.parts_yes (syV f m l) (syV_in h) w hw
  obtain ⟨h1, h2, h3⟩ := parts_of h
  rw [h1, h2, h3] at this
  exact this)
set_option maxRecDepth 100000 in
set_option maxHeartbeats 1000000 in
theorem parts_walk {P : World → Prop} (C : ConS P) (f m l : Int) (hf : I64 f) (hm : I64 m) (hl : I64 l) (u : Int) (hu : I32 u) (w : World) (hw : P w) : Calls Try.prog 6 #[.int .i64 f, .int .i64 m, .int .i64 l, .int .i32 u] w fun e w' => e = .returned (.bool true) ∧ w.grownBy w' none := by
  obtain ⟨z, p, a1, a2, hz⟩ := syl_any C f m l hf hm hl
  obtain ⟨a, b, c, q, a3, a4, hin, hq3⟩ := parts_any C u hu
  have a6 := Hid.mk' (fun w hw => C.syl_yes a b c hin w hw)
  obtain ⟨y, hy⟩ : ∃ y, syV a b c = y := ⟨_, rfl⟩
  rw [hy] at a6 hq3
  have hq := Hid.mk' hw
  have K := Hid.mk' (fun (a b : World) (h : P a) (g : a.grownBy b none) => C.keep h g)
  have e1 : (z != z) = false := by simp
  have e2 : (a != a) = false := by simp
  have e3 : (b != b) = false := by simp
  have e4 : (c != c) = false := by simp
  have e5 : (u == u) = true := by simp
  have e6 : (f != f) = false := by simp
  have e7 : (m != m) = false := by simp
  have e8 : (l != l) = false := by simp
  clear hin hf hm hl hu hw hy
  cases p
  · clear hz C
    cases q
    · clear hq3
      go_enter Try.func6, Try.ntmps6
      go_upto_region 5 with (first
        | (go_at_call 16; refine (a1.out _ hq.out).mono ?_; rintro e w1 ⟨rfl, hg1⟩; have hq1 := Hid.mk' (K.out _ _ hq.out hg1))
        | (go_at_call 17; refine (a2.out _).mono ?_; rintro e w2 ⟨rfl, rfl⟩)
        | (go_at_call 18; refine (a3.out _ hq1.out).mono ?_; rintro e w3 ⟨rfl, hg3⟩; have hq3 := Hid.mk' (K.out _ _ hq1.out hg3))
        | (go_at_call 19; refine (a4.out _).mono ?_; rintro e w4 ⟨rfl, rfl⟩))
      go_wp2_with (go_at_call 16; refine (a6.out _ hq3.out).mono ?_; rintro e w5 ⟨rfl, hg5⟩)
      go_ret
      exact ⟨rfl, gt (gt hg1 hg3) hg5⟩
    · obtain rfl := hq3 rfl
      go_enter Try.func6, Try.ntmps6
      go_upto_region 5 with (first
        | (go_at_call 16; refine (a1.out _ hq.out).mono ?_; rintro e w1 ⟨rfl, hg1⟩; have hq1 := Hid.mk' (K.out _ _ hq.out hg1))
        | (go_at_call 17; refine (a2.out _).mono ?_; rintro e w2 ⟨rfl, rfl⟩)
        | (go_at_call 18; refine (a3.out _ hq1.out).mono ?_; rintro e w3 ⟨rfl, hg3⟩; have hq3 := Hid.mk' (K.out _ _ hq1.out hg3))
        | (go_at_call 19; refine (a4.out _).mono ?_; rintro e w4 ⟨rfl, rfl⟩))
      go_wp2_with (go_at_call 16; refine (a6.out _ hq3.out).mono ?_; rintro e w5 ⟨rfl, hg5⟩)
      go_ret
      exact ⟨rfl, gt (gt hg1 hg3) hg5⟩
  · obtain ⟨h3, rfl⟩ := hz rfl
    have a5 := parts_back C h3
    generalize syV f m l = z at *
    clear h3 hz C
    cases q
    · clear hq3
      go_enter Try.func6, Try.ntmps6
      go_upto_region 5 with (first
        | (go_at_call 16; refine (a1.out _ hq.out).mono ?_; rintro e w1 ⟨rfl, hg1⟩; have hq1 := Hid.mk' (K.out _ _ hq.out hg1))
        | (go_at_call 17; refine (a2.out _).mono ?_; rintro e w2 ⟨rfl, rfl⟩)
        | (go_at_call 18; refine (a3.out _ hq1.out).mono ?_; rintro e w3 ⟨rfl, hg3⟩; have hq3 := Hid.mk' (K.out _ _ hq1.out hg3))
        | (go_at_call 19; refine (a4.out _).mono ?_; rintro e w4 ⟨rfl, rfl⟩))
      go_upto_region 11 with (go_at_call 18; refine (a5.out _ hq3.out).mono ?_; rintro e w6 ⟨rfl, hg6⟩; have hq6 := Hid.mk' (K.out _ _ hq3.out hg6))
      go_wp2_with (go_at_call 16; refine (a6.out _ hq6.out).mono ?_; rintro e w5 ⟨rfl, hg5⟩)
      go_ret
      exact ⟨rfl, gt (gt (gt hg1 hg3) hg6) hg5⟩
    · obtain rfl := hq3 rfl
      go_enter Try.func6, Try.ntmps6
      go_upto_region 5 with (first
        | (go_at_call 16; refine (a1.out _ hq.out).mono ?_; rintro e w1 ⟨rfl, hg1⟩; have hq1 := Hid.mk' (K.out _ _ hq.out hg1))
        | (go_at_call 17; refine (a2.out _).mono ?_; rintro e w2 ⟨rfl, rfl⟩)
        | (go_at_call 18; refine (a3.out _ hq1.out).mono ?_; rintro e w3 ⟨rfl, hg3⟩; have hq3 := Hid.mk' (K.out _ _ hq1.out hg3))
        | (go_at_call 19; refine (a4.out _).mono ?_; rintro e w4 ⟨rfl, rfl⟩))
      go_upto_region 11 with (go_at_call 18; refine (a5.out _ hq3.out).mono ?_; rintro e w6 ⟨rfl, hg6⟩; have hq6 := Hid.mk' (K.out _ _ hq3.out hg6))
      go_wp2_with (go_at_call 16; refine (a6.out _ hq6.out).mono ?_; rintro e w5 ⟨rfl, hg5⟩)
      go_ret
      exact ⟨rfl, gt (gt (gt hg1 hg3) hg6) hg5⟩
theorem han_at : ∀ c : Nat, c < 93 → ∃ n m : Nat, scP 16 ((c : Int) + 1) = some n ∧ scP 16 ((c : Int) + 2) = some m ∧ 44032 ≤ n ∧ n ≤ 55203 ∧ n < m ∧ m ≤ 55203 := by
  have h : ∀ c : Nat, c < 93 → (match scP 16 ((c : Int) + 1), scP 16 ((c : Int) + 2) with | some n, some m => decide (44032 ≤ n ∧ n ≤ 55203 ∧ n < m ∧ m ≤ 55203) | _, _ => false) = true := by decide +kernel
  intro c hc
  have := h c hc
  cases e1 : scP 16 ((c : Int) + 1) with
  | none => rw [e1] at this; simp at this
  | some n =>
    cases e2 : scP 16 ((c : Int) + 2) with
    | none => rw [e1, e2] at this; simp at this
    | some m =>
      rw [e1, e2] at this
      exact ⟨n, m, rfl, rfl, of_decide_eq_true this⟩
set_option maxRecDepth 100000 in
set_option maxHeartbeats 4000000 in
theorem hangul_walk {P : World → Prop} (D : Con P) (C : ConS P) (a f m l : Int) (hf : I64 f) (hm : I64 m) (hl : I64 l) (w : World) (hw : P w) : Calls Try.prog 7 #[.int .i64 a, .int .i64 f, .int .i64 m, .int .i64 l] w fun e w' => e = .returned (.bool true) ∧ w.grownBy w' none := by
  obtain ⟨r, hr0, hr93⟩ := mod_fit a 93 (by omega) (by omega)
  have hr : wrap64 ((IntKind.u64.wrap a).tmod 93) = (r : Int) := hr0
  clear hr0
  obtain ⟨n1, n2, s1, s2, h1, h2, h3, h4⟩ := han_at r hr93
  have a0 := Hid.mk' (fun w hw => works_any D w hw)
  have K := Hid.mk' (fun (a b : World) (h : P a) (g : a.grownBy b none) => C.keep h g)
  have a1 : Hid (∀ w, P w → Calls Try.prog 8 #[.int .i64 16, .int .i64 (1 + (r : Int))] w fun e w' => e = .returned (.tuple #[.int .i32 (n1 : Int), .bool true]) ∧ w.grownBy w' none) := Hid.mk' (fun w hw => D.scalar 16 (by unfold I64; omega) (1 + (r : Int)) (by unfold I64; omega) w (some n1) (Hid.mk' (by rw [show 1 + (r : Int) = (r : Int) + 1 by omega]; exact s1)) hw)
  have a2 : Hid (∀ w, P w → Calls Try.prog 8 #[.int .i64 16, .int .i64 (1 + (r : Int) + 1)] w fun e w' => e = .returned (.tuple #[.int .i32 (n2 : Int), .bool true]) ∧ w.grownBy w' none) := Hid.mk' (fun w hw => D.scalar 16 (by unfold I64; omega) (1 + (r : Int) + 1) (by unfold I64; omega) w (some n2) (Hid.mk' (by rw [show 1 + (r : Int) + 1 = (r : Int) + 2 by omega]; exact s2)) hw)
  have a3 := Hid.mk' (fun w hw => C.parts_yes (n1 : Int) (by unfold InS; omega) w hw)
  have hq := Hid.mk' hw
  have hr' : (r : Int) < 93 := by omega
  have d1 : ¬ (n2 : Int) ≤ (n1 : Int) := by omega
  clear s1 s2 h1 h2 h3 h4
  obtain ⟨p1, hp1⟩ : ∃ x, ((n1 : Int) - 44032) / 588 = x := ⟨_, rfl⟩
  obtain ⟨p2, hp2⟩ : ∃ x, ((n1 : Int) - 44032) % 588 / 28 = x := ⟨_, rfl⟩
  obtain ⟨p3, hp3⟩ : ∃ x, ((n1 : Int) - 44032) % 28 = x := ⟨_, rfl⟩
  rw [hp1, hp2, hp3] at a3
  clear hp1 hp2 hp3
  obtain ⟨z, p, a4, _, hz⟩ := syl_any C f m l hf hm hl
  cases p
  · clear hz C D hw hf hm hl
    go_enter Try.func7, Try.ntmps7
    go_upto_region 5 with (first
      | (go_at_call 15; refine (a0.out _ hq.out).mono ?_; rintro e w1 ⟨rfl, hg1, hp1⟩; have hq1 := Hid.mk' hp1; clear hp1)
      | (go_at_call 8; refine (a1.out _ hq1.out).mono ?_; rintro e w2 ⟨rfl, hg2⟩; have hq2 := Hid.mk' (K.out _ _ hq1.out hg2)))
    go_wp2_with (first
      | (go_at_call 8; refine (a2.out _ hq2.out).mono ?_; rintro e w3 ⟨rfl, hg3⟩; have hq3 := Hid.mk' (K.out _ _ hq2.out hg3))
      | (go_at_call 18; refine (a3.out _ hq3.out).mono ?_; rintro e w4 ⟨rfl, hg4⟩; have hq4 := Hid.mk' (K.out _ _ hq3.out hg4))
      | (go_at_call 16; refine (a4.out _ hq4.out).mono ?_; rintro e w5 ⟨rfl, hg5⟩))
    go_ret
    exact ⟨rfl, gt (gt (gt (gt hg1 hg2) hg3) hg4) hg5⟩
  · obtain ⟨hin, rfl⟩ := hz rfl
    have hin2 := hin
    unfold In3 at hin2
    obtain ⟨⟨f0, f1⟩, ⟨m0, m1⟩, l0, l1⟩ := hin2
    obtain ⟨z1, q1, b1, _, hz1⟩ := syl_any C f m (l + 1) hf hm (by unfold I64; omega)
    obtain ⟨z2, q2, b2, _, hz2⟩ := syl_any C f (m + 1) 0 hf (by unfold I64; omega) (by unfold I64; omega)
    obtain ⟨z3, q3, b3, _, hz3⟩ := syl_any C (f + 1) 0 0 (by unfold I64; omega) (by unfold I64; omega) (by unfold I64; omega)
    obtain ⟨z, hzz⟩ : ∃ z, syV f m l = z := ⟨_, rfl⟩
    have hzb : 44032 ≤ z ∧ z ≤ 55203 := by have := syV_in hin; unfold InS at this; rw [hzz] at this; exact this
    obtain ⟨zb1, zb2⟩ := hzb
    have g1 : q1 = true → z1 = z + 1 := fun e => by rw [(hz1 e).2, ← hzz]; unfold syV; omega
    have g2 : q2 = true → z < z2 := fun e => by rw [(hz2 e).2, ← hzz]; unfold syV; omega
    have g3 : q3 = true → z < z3 := fun e => by rw [(hz3 e).2, ← hzz]; unfold syV; omega
    rw [hzz] at a4
    clear hz1 hz2 hz3 hz hzz hin hw hf hm hl C D
    cases q1 <;> cases q2 <;> cases q3
    all_goals (first | (obtain rfl := g1 rfl) | clear g1)
    all_goals (first | (have g2' := g2 rfl; clear g2) | clear g2)
    all_goals (first | (have g3' := g3 rfl; clear g3) | clear g3)
    all_goals
      go_enter Try.func7, Try.ntmps7
      go_upto_region 5 with (first
        | (go_at_call 15; refine (a0.out _ hq.out).mono ?_; rintro e w1 ⟨rfl, hg1, hp1⟩; have hq1 := Hid.mk' hp1; clear hp1)
        | (go_at_call 8; refine (a1.out _ hq1.out).mono ?_; rintro e w2 ⟨rfl, hg2⟩; have hq2 := Hid.mk' (K.out _ _ hq1.out hg2)))
      go_upto_region 12 with (first
        | (go_at_call 8; refine (a2.out _ hq2.out).mono ?_; rintro e w3 ⟨rfl, hg3⟩; have hq3 := Hid.mk' (K.out _ _ hq2.out hg3))
        | (go_at_call 18; refine (a3.out _ hq3.out).mono ?_; rintro e w4 ⟨rfl, hg4⟩; have hq4 := Hid.mk' (K.out _ _ hq3.out hg4))
        | (go_at_call 16; refine (a4.out _ hq4.out).mono ?_; rintro e w5 ⟨rfl, hg5⟩; have hq5 := Hid.mk' (K.out _ _ hq4.out hg5)))
      go_upto_region 13 with (go_at_call 16; refine (b1.out _ hq5.out).mono ?_; rintro e w6 ⟨rfl, hg6⟩; have hq6 := Hid.mk' (K.out _ _ hq5.out hg6))
      go_upto_region 14 with (go_at_call 16; refine (b2.out _ hq6.out).mono ?_; rintro e w7 ⟨rfl, hg7⟩; have hq7 := Hid.mk' (K.out _ _ hq6.out hg7))
      go_wp2_with (go_at_call 16; refine (b3.out _ hq7.out).mono ?_; rintro e w8 ⟨rfl, hg8⟩)
      go_ret
      exact ⟨rfl, gt (gt (gt (gt (gt (gt (gt hg1 hg2) hg3) hg4) hg5) hg6) hg7) hg8⟩
end Go.Proofs.Ytmaegmbpfilmhaa.C16

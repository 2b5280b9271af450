/- The small functions of ranges: walks. -/
import Derived.Test.YtdeohnnepifjaaaRp
import Derived.Test.YtdeohnnepifjaaaTells
import Derived.Laws.EntriesVeiled
import Derived.Deep.RegionHeld3
import Derived.BigQuiet
namespace Go.Proofs.Ytdeohnnepifjaaa.Rn
open Go.ChangeShapes Go.WideShapes Go.ChangeAt Go.RowKit Go.Proofs.Ytdeohnnepifjaaa.Mem Go.Proofs.Ytdeohnnepifjaaa.Ucs Go.Proofs.Ytdeohnnepifjaaa.El
set_option linter.unusedVariables false
set_option linter.unusedSimpArgs false

abbrev rV (f t a : Int) : Value := .agg #[.int .i64 f, .int .i64 t, .int .i32 a]
abbrev pV (c u : Int) : Value := .agg #[.int .i64 c, .int .i32 u]

theorem code_any (c : Int) (w : World) : Calls Try.prog 29 #[.int .i64 c] w fun e w' => e = .returned (.bool (rightC c)) ∧ w' = w := by
  by_cases h : 0 ≤ c
  · by_cases k : c ≤ 16777215
    · go_enter Try.func29, Try.ntmps29
      go_wp2
      go_ret
      exact ⟨ret_bool (by simp [rightC, h, k]), rfl⟩
    · go_enter Try.func29, Try.ntmps29
      go_wp2
      go_ret
      exact ⟨ret_bool (by simp [rightC]; omega), rfl⟩
  · go_enter Try.func29, Try.ntmps29
    go_wp2
    go_ret
    exact ⟨ret_bool (by simp [rightC]; omega), rfl⟩

theorem scalar_lit (u : Int) (b : Bool) (h : scB u = b) (w : World) : Calls Try.prog 30 #[.int .i32 u] w fun e w' => e = .returned (.bool b) ∧ w' = w := by
  subst h; exact scalar_any u w
theorem code_lit (u : Int) (b : Bool) (h : rightC u = b) (w : World) : Calls Try.prog 29 #[.int .i64 u] w fun e w' => e = .returned (.bool b) ∧ w' = w := by
  subst h; exact code_any u w

set_option maxRecDepth 100000 in
set_option maxHeartbeats 1000000 in
theorem alone_any (u n : Int) (h0 : 0 ≤ n) (h1 : n ≤ 16777215) (w : World) : Calls Try.prog 32 #[.int .i32 u, .int .i64 n] w fun e w' => e = .returned (.bool (alone u n)) ∧ w' = w := by
  cases hs : scB u
  · go_enter Try.func32, Try.ntmps32
    go_wp2_with (go_at_call 30; refine (scalar_lit _ false hs _).mono ?_; rintro e w' ⟨rfl, rfl⟩)
    go_ret
    exact ⟨ret_bool (by simp [alone, hs]), rfl⟩
  · have hb := scB_iff.1 hs
    obtain ⟨b0, b1, _⟩ := hb
    obtain ⟨s, hs2⟩ : ∃ s, Hid (scB (u + n) = s) := ⟨_, (rfl : scB (u + n) = scB (u + n))⟩
    have HA : Hid (alone u n = (s && (decide (u < 55296) == decide (u + n < 55296)))) := (by unfold alone; rw [hs, hs2.out]; rfl : alone u n = (s && (decide (u < 55296) == decide (u + n < 55296))))
    have Hs : Hid (scB u = true) := hs
    clear hs
    cases s
    · go_enter Try.func32, Try.ntmps32
      go_wp2_with (first | (go_at_call_of 30 (Value.int IntKind.i32 u); refine (scalar_lit _ true Hs.out _).mono ?_; rintro e w' ⟨rfl, rfl⟩) | (go_at_call 30; refine (scalar_lit _ false hs2.out _).mono ?_; rintro e w' ⟨rfl, rfl⟩))
      go_ret
      exact ⟨ret_bool (by rw [HA.out]; rfl), rfl⟩
    · go_enter Try.func32, Try.ntmps32
      go_wp2_with (first | (go_at_call_of 30 (Value.int IntKind.i32 u); refine (scalar_lit _ true Hs.out _).mono ?_; rintro e w' ⟨rfl, rfl⟩) | (go_at_call 30; refine (scalar_lit _ true hs2.out _).mono ?_; rintro e w' ⟨rfl, rfl⟩))
      go_ret
      exact ⟨ret_bool (by rw [HA.out]; simp), rfl⟩

theorem follows_any (c u d v : Int) (hc : c ≤ 16777215) (h0 : 0 ≤ c) (hu : u ≤ 1114111) (u0 : 0 ≤ u) (w : World) : Calls Try.prog 22 #[pV c u, pV d v] w fun e w' => e = .returned (.bool (decide (d = c + 1) && decide (v = u + 1))) ∧ w.grownBy w' none := by
  by_cases h : d = c + 1
  · go_enter Try.func22, Try.ntmps22
    go_wp2
    go_ret
    refine ⟨ret_bool ?_, ?_⟩
    · by_cases k : v = u + 1 <;> simp [h, k]
    (repeat (first | with_reducible exact grownBy_refl _ _ | (with_reducible refine gs ?_ ?_; first | omega | (simp; omega)) | with_reducible refine ga ?_ | with_reducible refine gd ?_ | with_reducible refine gdn ?_ | with_reducible refine gt ?_ (by assumption)))
  · go_enter Try.func22, Try.ntmps22
    go_wp2
    go_ret
    refine ⟨ret_bool (by simp [h]), ?_⟩
    (repeat (first | with_reducible exact grownBy_refl _ _ | (with_reducible refine gs ?_ ?_; first | omega | (simp; omega)) | with_reducible refine ga ?_ | with_reducible refine gd ?_ | with_reducible refine gdn ?_ | with_reducible refine gt ?_ (by assumption)))

set_option maxRecDepth 100000 in
theorem at_any (f t a c : Int) (hf : 0 ≤ f) (hc : f ≤ c) (hc1 : c ≤ 16777215) (ha : 0 ≤ a) (ha1 : a + (c - f) ≤ 1114111) (w : World) : Calls Try.prog 26 #[rV f t a, .int .i64 c] w fun e w' => e = .returned (.int .i32 (a + (c - f))) ∧ w.grownBy w' none := by
  go_enter Try.func26, Try.ntmps26
  go_wp2
  go_ret
  refine ⟨rfl, ?_⟩
  (repeat (first | with_reducible exact grownBy_refl _ _ | (with_reducible refine gs ?_ ?_; first | omega | (simp; omega)) | with_reducible refine ga ?_ | with_reducible refine gd ?_ | with_reducible refine gdn ?_ | with_reducible refine gt ?_ (by assumption)))
theorem alone_lit (u n : Int) (b : Bool) (h : alone u n = b) (h0 : 0 ≤ n) (h1 : n ≤ 16777215) (w : World) : Calls Try.prog 32 #[.int .i32 u, .int .i64 n] w fun e w' => e = .returned (.bool b) ∧ w' = w := by
  subst h; exact alone_any u n h0 h1 w

set_option maxRecDepth 100000 in
set_option maxHeartbeats 1000000 in
theorem range_any (f t a : Int) (w : World) : Calls Try.prog 25 #[rV f t a] w fun e w' => e = .returned (.bool (rightR (f, t, a))) ∧ w.grownBy w' none := by
  obtain ⟨R, hR⟩ : ∃ R, Hid (rightR (f, t, a) = R) := ⟨_, (rfl : rightR (f, t, a) = rightR (f, t, a))⟩
  have hR0 : Hid (rightR (f, t, a) = (rightC f && (rightC t && (decide (f ≤ t) && alone a (t - f))))) := (rfl : rightR (f, t, a) = _)
  rw [hR.out]
  rw [hR.out] at hR0
  obtain ⟨b1, h1⟩ : ∃ b, Hid (rightC f = b) := ⟨_, (rfl : rightC f = rightC f)⟩
  rw [h1.out] at hR0
  cases b1
  · have : R = false := hR0.out
    subst this
    go_enter Try.func25, Try.ntmps25
    go_wp2_with (go_at_call 29; refine (code_lit _ false h1.out _).mono ?_; rintro e w' ⟨rfl, rfl⟩)
    go_ret
    refine ⟨rfl, ?_⟩
    (repeat (first | with_reducible exact grownBy_refl _ _ | (with_reducible refine gs ?_ ?_; first | omega | (simp; omega)) | with_reducible refine ga ?_ | with_reducible refine gd ?_ | with_reducible refine gdn ?_ | with_reducible refine gt ?_ (by assumption)))
  obtain ⟨b2, h2⟩ : ∃ b, Hid (rightC t = b) := ⟨_, (rfl : rightC t = rightC t)⟩
  rw [h2.out] at hR0
  cases b2
  · have : R = false := hR0.out
    subst this
    go_enter Try.func25, Try.ntmps25
    go_wp2_with (first | (go_at_call_of 29 (Value.int IntKind.i64 f); refine (code_lit _ true h1.out _).mono ?_; rintro e w' ⟨rfl, rfl⟩) | (go_at_call_of 29 (Value.int IntKind.i64 t); refine (code_lit _ false h2.out _).mono ?_; rintro e w' ⟨rfl, rfl⟩))
    go_ret
    refine ⟨rfl, ?_⟩
    (repeat (first | with_reducible exact grownBy_refl _ _ | (with_reducible refine gs ?_ ?_; first | omega | (simp; omega)) | with_reducible refine ga ?_ | with_reducible refine gd ?_ | with_reducible refine gdn ?_ | with_reducible refine gt ?_ (by assumption)))
  have g1 := rightC_iff.1 h1.out
  have g2 := rightC_iff.1 h2.out
  obtain ⟨g11, g12⟩ := g1
  obtain ⟨g21, g22⟩ := g2
  by_cases h3 : f ≤ t
  · obtain ⟨b4, h4⟩ : ∃ b, Hid (alone a (t - f) = b) := ⟨_, (rfl : alone a (t - f) = alone a (t - f))⟩
    have : R = b4 := by rw [hR0.out, h4.out]; simp [h3]
    subst this
    clear hR0
    go_enter Try.func25, Try.ntmps25
    go_wp2_with (first | (go_at_call_of 29 (Value.int IntKind.i64 f); refine (code_lit _ true h1.out _).mono ?_; rintro e w' ⟨rfl, rfl⟩) | (go_at_call_of 29 (Value.int IntKind.i64 t); refine (code_lit _ true h2.out _).mono ?_; rintro e w' ⟨rfl, rfl⟩) | (go_at_call 32; refine (alone_lit _ _ R h4.out (by omega) (by omega) _).mono ?_; rintro e w' ⟨rfl, rfl⟩))
    go_ret
    refine ⟨rfl, ?_⟩
    (repeat (first | with_reducible exact grownBy_refl _ _ | (with_reducible refine gs ?_ ?_; first | omega | (simp; omega)) | with_reducible refine ga ?_ | with_reducible refine gd ?_ | with_reducible refine gdn ?_ | with_reducible refine gt ?_ (by assumption)))
  · have : R = false := by rw [hR0.out]; simp [h3]
    subst this
    clear hR0
    go_enter Try.func25, Try.ntmps25
    go_wp2_with (first | (go_at_call_of 29 (Value.int IntKind.i64 f); refine (code_lit _ true h1.out _).mono ?_; rintro e w' ⟨rfl, rfl⟩) | (go_at_call_of 29 (Value.int IntKind.i64 t); refine (code_lit _ true h2.out _).mono ?_; rintro e w' ⟨rfl, rfl⟩))
    go_ret
    refine ⟨rfl, ?_⟩
    (repeat (first | with_reducible exact grownBy_refl _ _ | (with_reducible refine gs ?_ ?_; first | omega | (simp; omega)) | with_reducible refine ga ?_ | with_reducible refine gd ?_ | with_reducible refine gdn ?_ | with_reducible refine gt ?_ (by assumption)))
theorem range_lit (f t a : Int) (b : Bool) (h : rightR (f, t, a) = b) (w : World) : Calls Try.prog 25 #[rV f t a] w fun e w' => e = .returned (.bool b) ∧ w.grownBy w' none := by
  subst h; exact range_any f t a w
end Go.Proofs.Ytdeohnnepifjaaa.Rn

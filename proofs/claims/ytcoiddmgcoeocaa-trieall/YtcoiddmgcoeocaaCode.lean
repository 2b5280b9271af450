/- The program's Code: a walk. -/
import Derived.Test.YtcoiddmgcoeocaaCheck
namespace Go.Proofs.Ytcoiddmgcoeocaa.Rn
open Go.ChangeShapes Go.WideShapes Go.ChangeAt Go.RowKit Go.Proofs.Ytcoiddmgcoeocaa.Mem Go.Proofs.Ytcoiddmgcoeocaa.Ucs Go.Proofs.Ytcoiddmgcoeocaa.El
set_option linter.unusedVariables false
set_option linter.unusedSimpArgs false

theorem okFrom_right {b : Int} {L : List Rg} (h : okFrom b L = true) : ∀ (i : Nat) (hi : i < L.length), rightR L[i] = true := by
  induction L generalizing b with
  | nil => intro i hi; simp at hi
  | cons r L ih =>
    obtain ⟨f, t, a⟩ := r
    obtain ⟨h1, h2, h3⟩ := okFrom_cons.1 h
    intro i hi
    match i with
    | 0 => exact h1
    | i + 1 => exact ih h3 i (by simpa using hi)
theorem ret_ib {k : IntKind} {a b : Int} {c d : Bool} (h : a = b) (g : c = d) : Ending.returned (.tuple #[.int k a, .bool c]) = .returned (.tuple #[.int k b, .bool d]) := by rw [h, g]

set_option maxRecDepth 100000 in
set_option maxHeartbeats 2000000 in
theorem code_of (ao : Option Addr) (cap : Nat) (L : List Rg) (u : Int) (w : World) (hB : RE.Rd w ao L) (hc : L.length ≤ cap) (hcm : cap ≤ 9223372036854775807) (hl : L.length ≤ 65536) (hok : Hid (okFrom (-1) L = true)) (C : Option Int) (hC : Hid (codeR L u = C)) :
    Calls Try.prog 18 #[.slice ao L.length cap, .int .i32 u] w fun e w' => e = .returned (.tuple #[.int .i64 (C.getD 0), .bool C.isSome]) ∧ w.grownBy w' none := by
  have hB0 : Hid (RE.Rd w ao L) := hB
  clear hB
  obtain ⟨c, hc0⟩ : ∃ c, Hid (C.getD 0 = c) := ⟨_, (rfl : C.getD 0 = C.getD 0)⟩
  obtain ⟨s, hs0⟩ : ∃ s, Hid (C.isSome = s) := ⟨_, (rfl : C.isSome = C.isSome)⟩
  rw [hc0.out, hs0.out]
  go_enter Try.func18, Try.ntmps18
  go_wp2
  go_loopw [10] (fun t10 wx => ∃ i : Nat, i ≤ L.length ∧ t10 = .int .i64 (i : Int) ∧ Hid (codeR (L.drop i) u = C) ∧ Hid (w.grownBy wx none)) (fun t10 _ => L.length - (intOf t10).toNat)
  case atStart => exact ⟨0, by omega, rfl, hC, grownBy_refl _ _⟩
  case round =>
    obtain ⟨i, hi, rfl, hcd, hgx⟩ := hrel
    by_cases hlt : i < L.length
    · obtain ⟨f, t, a, he⟩ : ∃ f t a, L[i] = (f, t, a) := ⟨_, _, _, rfl⟩
      have hr := okFrom_right hok.out i hlt
      rw [he] at hr
      obtain ⟨⟨r1, r2, r3⟩, r4, r5, r6⟩ := rightR_iff.1 hr
      obtain ⟨b, o, rfl, hb, x0, x1, x2⟩ := rcells (hB0.out.kept0 hgx.out) hlt he
      rw [drop_at hlt he] at hcd
      have Hcd : Hid ((if a ≤ u ∧ u ≤ a + (t - f) then some (f + (u - a)) else codeR (L.drop (i + 1)) u) = C) := hcd.out
      have hlt' : (i : Int) < (L.length : Int) := by omega
      clear he hcd hr
      by_cases h1 : a ≤ u
      · by_cases h2 : u ≤ a + (t - f)
        · have hC2 : C = some (f + (u - a)) := by rw [← Hcd.out, if_pos ⟨h1, h2⟩]
          have e1 : Hid (f + (u - a) = c) := (by rw [← hc0.out, hC2]; rfl : f + (u - a) = c)
          have e2 : s = true := by rw [← hs0.out, hC2]; rfl
          subst e2
          clear hC2
          go_wp2_with (go_at_call 33; refine (at_any f _ a t (by omega) (by omega) (by omega) (by omega) (by omega) _).mono ?_; rintro e w1 ⟨rfl, hg1⟩; have l0 := cell_at (res_cells hg1) 0 (v := .int .i64 f) rfl; have l2 := cell_at (res_cells hg1) 2 (v := .int .i32 a) rfl)
          go_ret2
          refine ⟨ret_ib e1.out rfl, ?_⟩
          have hgy := hgx.out
          (repeat (first | with_reducible exact grownBy_refl _ _ | (with_reducible refine gs ?_ ?_; first | omega | (simp; omega)) | with_reducible refine ga ?_ | with_reducible refine gd ?_ | with_reducible refine gdn ?_ | with_reducible refine gt ?_ (by assumption)))
        · have hC2 : Hid (codeR (L.drop (i + 1)) u = C) := (by rw [← Hcd.out, if_neg (by omega)] : codeR (L.drop (i + 1)) u = C)
          go_wp2_with (go_at_call 33; refine (at_any f _ a t (by omega) (by omega) (by omega) (by omega) (by omega) _).mono ?_; rintro e w1 ⟨rfl, hg1⟩; have l0 := cell_at (res_cells hg1) 0 (v := .int .i64 f) rfl; have l2 := cell_at (res_cells hg1) 2 (v := .int .i32 a) rfl)
          go_roundw
          case rel =>
            refine ⟨i + 1, by omega, by go_num, hC2, ?_⟩
            refine (?_ : w.grownBy w1 none)
            have hgy := hgx.out
            (repeat (first | with_reducible exact grownBy_refl _ _ | (with_reducible refine gs ?_ ?_; first | omega | (simp; omega)) | with_reducible refine ga ?_ | with_reducible refine gd ?_ | with_reducible refine gdn ?_ | with_reducible refine gt ?_ (by assumption)))
          case measure => simp [intOf]; omega
      · have hC2 : Hid (codeR (L.drop (i + 1)) u = C) := (by rw [← Hcd.out, if_neg (by omega)] : codeR (L.drop (i + 1)) u = C)
        go_wp2
        go_roundw
        case rel =>
          refine ⟨i + 1, by omega, by go_num, hC2, ?_⟩
          refine (?_ : w.grownBy _ none)
          have hgy := hgx.out
          (repeat (first | with_reducible exact grownBy_refl _ _ | (with_reducible refine gs ?_ ?_; first | omega | (simp; omega)) | with_reducible refine ga ?_ | with_reducible refine gd ?_ | with_reducible refine gdn ?_ | with_reducible refine gt ?_ (by assumption)))
        case measure => simp [intOf]; omega
    · obtain rfl : i = L.length := by omega
      have hC2 : C = none := by rw [← hcd.out, List.drop_length]; rfl
      have e1 : c = 0 := by rw [← hc0.out, hC2]; rfl
      have e2 : s = false := by rw [← hs0.out, hC2]; rfl
      subst e1 e2
      clear hC2
      go_wp2
      go_ret2
      exact ⟨rfl, hgx.out⟩
end Go.Proofs.Ytcoiddmgcoeocaa.Rn

/- The document's Right and scalars: walks. -/
import Derived.Test.YtdeohnnepifjaaaFind
namespace Go.Proofs.Ytdeohnnepifjaaa.Rn
open Go.ChangeShapes Go.WideShapes Go.ChangeAt Go.RowKit Go.Proofs.Ytdeohnnepifjaaa.Mem Go.Proofs.Ytdeohnnepifjaaa.Ucs Go.Proofs.Ytdeohnnepifjaaa.El
set_option linter.unusedVariables false
set_option linter.unusedSimpArgs false

theorem scalarRef_lit (u : Int) (b : Bool) (h : scB u = b) (w : World) : Calls Try.prog 31 #[.int .i32 u] w fun e w' => e = .returned (.bool b) ∧ w' = w := by
  subst h; exact scalar_ref u w

/-- scalars(u, n): n numbers from u on. -/
theorem scalars_any (u n : Int) (h0 : 1 ≤ n) (h1 : n ≤ 16777216) (w : World) : Calls Try.prog 24 #[.int .i32 u, .int .i64 n] w fun e w' => e = .returned (.bool (alone u (n - 1))) ∧ w' = w := by
  obtain ⟨R, hR⟩ : ∃ R, Hid (alone u (n - 1) = R) := ⟨_, (rfl : alone u (n - 1) = alone u (n - 1))⟩
  rw [hR.out]
  obtain ⟨s, hs⟩ : ∃ s, Hid (scB u = s) := ⟨_, (rfl : scB u = scB u)⟩
  cases s
  · have : R = false := by rw [← hR.out]; simp [alone, hs.out]
    subst this
    go_enter Try.func24, Try.ntmps24
    go_wp2_with (go_at_call 31; refine (scalarRef_lit _ false hs.out _).mono ?_; rintro e w' ⟨rfl, rfl⟩)
    go_ret
    exact ⟨rfl, rfl⟩
  · have hb := scB_iff.1 hs.out
    obtain ⟨b0, b1, b2⟩ := hb
    by_cases hlo : u < 55296
    · have hv : R = decide (n ≤ 55296 - u) := by
        rw [← hR.out]
        by_cases k : n ≤ 55296 - u
        · rw [decide_eq_true k]; exact alone_iff.2 (by omega)
        · rw [decide_eq_false k]; rw [Bool.eq_false_iff]; intro h; have := alone_iff.1 h; omega
      subst hv
      go_enter Try.func24, Try.ntmps24
      go_wp2_with (go_at_call 31; refine (scalarRef_lit _ true hs.out _).mono ?_; rintro e w' ⟨rfl, rfl⟩)
      go_ret
      exact ⟨rfl, rfl⟩
    · have hv : R = decide (n ≤ 1114112 - u) := by
        rw [← hR.out]
        by_cases k : n ≤ 1114112 - u
        · rw [decide_eq_true k]; exact alone_iff.2 (by omega)
        · rw [decide_eq_false k]; rw [Bool.eq_false_iff]; intro h; have := alone_iff.1 h; omega
      subst hv
      go_enter Try.func24, Try.ntmps24
      go_wp2_with (go_at_call 31; refine (scalarRef_lit _ true hs.out _).mono ?_; rintro e w' ⟨rfl, rfl⟩)
      go_ret
      exact ⟨rfl, rfl⟩
end Go.Proofs.Ytdeohnnepifjaaa.Rn

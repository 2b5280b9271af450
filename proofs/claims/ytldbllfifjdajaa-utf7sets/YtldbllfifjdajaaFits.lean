/- UTF-7's states: walks. -/
import Derived.Test.YtldbllfifjdajaaHas
namespace Go.Proofs.Ytldbllfifjdajaa.Sv
open Go.ChangeShapes Go.WideShapes Go.ChangeAt Go.RowKit Go.Proofs.Ytldbllfifjdajaa.Mem Go.Proofs.Ytldbllfifjdajaa.Ucs
set_option linter.unusedVariables false
set_option linter.unusedSimpArgs false
abbrev stV (md bi ac he : Int) : Value := .agg #[.int .i64 md, .int .i64 bi, .int .u32 ac, .int .i32 he]

theorem fit_zero {md bi ac he : Int} (h : md = 0 ∨ md = 2) : fitB md bi ac he = decide (bi = 0 ∧ ac = 0 ∧ he = 0) := by simp [fitB, h]
theorem fit_else {md bi ac he : Int} (h0 : md ≠ 0) (h2 : md ≠ 2) (h1 : md ≠ 1) : fitB md bi ac he = false := by simp [fitB, h0, h1, h2]
theorem fit_in {bi ac he : Int} (c : Bool) (h0 : 0 ≤ bi) (h1 : bi < 16) (h2 : (ac / 2 ^ bi.toNat == 0) = c) : fitB 1 bi ac he = (c && (decide (he = 0) || hiB he)) := by
  subst h2
  by_cases h : ac / 2 ^ bi.toNat = 0 <;> simp [fitB, h0, h1, h]
theorem fit_out {bi ac he : Int} (h : bi < 0 ∨ 16 ≤ bi) : fitB 1 bi ac he = false := by
  have : ¬ (0 ≤ bi ∧ bi < 16 ∧ ac / 2 ^ bi.toNat = 0) := fun h' => by omega
  simp [fitB, this]

set_option maxRecDepth 100000 in
set_option maxHeartbeats 1000000 in
theorem fits_zero (md bi ac he : Int) (h : md = 0 ∨ md = 2) (w : World) : Calls Try.prog 21 #[stV md bi ac he] w fun e w' => e = .returned (.bool (fitB md bi ac he)) ∧ w.grownBy w' none := by
  have Hf := Hid.mk' (fit_zero (md := md) (bi := bi) (ac := ac) (he := he) h)
  generalize fitB md bi ac he = t at *
  rcases h with rfl | rfl
  · go_enter Try.func21, Try.ntmps21
    go_wp2
    all_goals go_ret
    all_goals refine ⟨ret_bool ?_, ga (grownBy_refl _ _)⟩
    all_goals rw [Hf.out]
    all_goals (first | (simp_all; done) | (simp; omega) | skip)
  · go_enter Try.func21, Try.ntmps21
    go_wp2
    all_goals go_ret
    all_goals refine ⟨ret_bool ?_, ga (grownBy_refl _ _)⟩
    all_goals rw [Hf.out]
    all_goals (first | (simp_all; done) | (simp; omega) | skip)
set_option maxRecDepth 100000 in
set_option maxHeartbeats 1000000 in
theorem fits_else (md bi ac he : Int) (h0 : md ≠ 0) (h2 : md ≠ 2) (h1 : md ≠ 1) (w : World) : Calls Try.prog 21 #[stV md bi ac he] w fun e w' => e = .returned (.bool (fitB md bi ac he)) ∧ w.grownBy w' none := by
  rw [fit_else h0 h2 h1]
  have e0 : (md == 0) = false := by simpa using h0
  have e1 : (md == 1) = false := by simpa using h1
  have e2 : (md == 2) = false := by simpa using h2
  clear h0 h1 h2
  go_enter Try.func21, Try.ntmps21
  go_wp2
  go_ret
  exact ⟨rfl, ga (grownBy_refl _ _)⟩

set_option maxRecDepth 100000 in
set_option maxHeartbeats 1000000 in
theorem fitsR_zero (md bi ac he : Int) (h : md = 0 ∨ md = 2) (w : World) : Calls Try.prog 22 #[stV md bi ac he] w fun e w' => e = .returned (.bool (fitB md bi ac he)) ∧ w.grownBy w' none := by
  have Hf := Hid.mk' (fit_zero (md := md) (bi := bi) (ac := ac) (he := he) h)
  generalize fitB md bi ac he = t at *
  rcases h with rfl | rfl
  · go_enter Try.func22, Try.ntmps22
    go_wp2
    all_goals go_ret
    all_goals refine ⟨ret_bool ?_, ga (grownBy_refl _ _)⟩
    all_goals rw [Hf.out]
    all_goals (first | (simp_all; done) | (simp; omega) | skip)
  · go_enter Try.func22, Try.ntmps22
    go_wp2
    all_goals go_ret
    all_goals refine ⟨ret_bool ?_, ga (grownBy_refl _ _)⟩
    all_goals rw [Hf.out]
    all_goals (first | (simp_all; done) | (simp; omega) | skip)
set_option maxRecDepth 100000 in
set_option maxHeartbeats 1000000 in
theorem fitsR_else (md bi ac he : Int) (h0 : md ≠ 0) (h2 : md ≠ 2) (h1 : md ≠ 1) (w : World) : Calls Try.prog 22 #[stV md bi ac he] w fun e w' => e = .returned (.bool (fitB md bi ac he)) ∧ w.grownBy w' none := by
  rw [fit_else h0 h2 h1]
  have e0 : (md == 0) = false := by simpa using h0
  have e1 : (md == 1) = false := by simpa using h1
  have e2 : (md == 2) = false := by simpa using h2
  clear h0 h1 h2
  go_enter Try.func22, Try.ntmps22
  go_wp2
  go_ret
  exact ⟨rfl, ga (grownBy_refl _ _)⟩

set_option maxRecDepth 100000 in
set_option maxHeartbeats 1000000 in
theorem fits_neg (bi ac he : Int) (h : (decide (0 ≤ bi)) = false) (w : World) : Calls Try.prog 21 #[stV 1 bi ac he] w fun e w' => e = .returned (.bool false) ∧ w.grownBy w' none := by
  go_enter Try.func21, Try.ntmps21
  go_wp2_with (go_at_call 23; refine (high_any _ _).mono ?_; rintro e w' ⟨rfl, hw⟩; obtain rfl := hw)
  go_ret
  refine ⟨rfl, ?_⟩
  (repeat (first | with_reducible exact grownBy_refl _ _ | (with_reducible refine gs ?_ ?_; first | omega | (simp; omega)) | with_reducible refine ga ?_ | with_reducible refine gd ?_ | with_reducible refine gdn ?_ | with_reducible refine gt ?_ (by assumption)))
set_option maxRecDepth 100000 in
set_option maxHeartbeats 1000000 in
theorem fits_big (bi ac he : Int) (h0 : (decide (0 ≤ bi)) = true) (h1 : (decide (bi < 16)) = false) (w : World) : Calls Try.prog 21 #[stV 1 bi ac he] w fun e w' => e = .returned (.bool false) ∧ w.grownBy w' none := by
  go_enter Try.func21, Try.ntmps21
  go_wp2_with (go_at_call 23; refine (high_any _ _).mono ?_; rintro e w' ⟨rfl, hw⟩; obtain rfl := hw)
  go_ret
  refine ⟨rfl, ?_⟩
  (repeat (first | with_reducible exact grownBy_refl _ _ | (with_reducible refine gs ?_ ?_; first | omega | (simp; omega)) | with_reducible refine ga ?_ | with_reducible refine gd ?_ | with_reducible refine gdn ?_ | with_reducible refine gt ?_ (by assumption)))
set_option maxRecDepth 100000 in
set_option maxHeartbeats 1000000 in
theorem fits_acc (bi ac he : Int) (h0 : 0 ≤ bi) (h1 : bi ≤ 15) (h0d : decide (0 ≤ bi) = true) (h1d : decide (bi < 16) = true) (hc : (ac / 2 ^ bi.toNat == 0) = false) (w : World) : Calls Try.prog 21 #[stV 1 bi ac he] w fun e w' => e = .returned (.bool false) ∧ w.grownBy w' none := by
  go_enter Try.func21, Try.ntmps21
  go_wp2_with (go_at_call 23; refine (high_any _ _).mono ?_; rintro e w' ⟨rfl, hw⟩; obtain rfl := hw)
  go_ret
  refine ⟨rfl, ?_⟩
  (repeat (first | with_reducible exact grownBy_refl _ _ | (with_reducible refine gs ?_ ?_; first | omega | (simp; omega)) | with_reducible refine ga ?_ | with_reducible refine gd ?_ | with_reducible refine gdn ?_ | with_reducible refine gt ?_ (by assumption)))
set_option maxRecDepth 100000 in
set_option maxHeartbeats 1000000 in
theorem fits_held0 (bi ac he : Int) (h0 : 0 ≤ bi) (h1 : bi ≤ 15) (h0d : decide (0 ≤ bi) = true) (h1d : decide (bi < 16) = true) (hc : (ac / 2 ^ bi.toNat == 0) = true) (hh : (he == 0) = true) (w : World) : Calls Try.prog 21 #[stV 1 bi ac he] w fun e w' => e = .returned (.bool true) ∧ w.grownBy w' none := by
  go_enter Try.func21, Try.ntmps21
  go_wp2_with (go_at_call 23; refine (high_any _ _).mono ?_; rintro e w' ⟨rfl, hw⟩; obtain rfl := hw)
  go_ret
  refine ⟨rfl, ?_⟩
  (repeat (first | with_reducible exact grownBy_refl _ _ | (with_reducible refine gs ?_ ?_; first | omega | (simp; omega)) | with_reducible refine ga ?_ | with_reducible refine gd ?_ | with_reducible refine gdn ?_ | with_reducible refine gt ?_ (by assumption)))
set_option maxRecDepth 100000 in
set_option maxHeartbeats 1000000 in
theorem fits_held (bi ac he : Int) (h0 : 0 ≤ bi) (h1 : bi ≤ 15) (h0d : decide (0 ≤ bi) = true) (h1d : decide (bi < 16) = true) (hc : (ac / 2 ^ bi.toNat == 0) = true) (hh : (he == 0) = false) (w : World) : Calls Try.prog 21 #[stV 1 bi ac he] w fun e w' => e = .returned (.bool (hiB he)) ∧ w.grownBy w' none := by
  go_enter Try.func21, Try.ntmps21
  go_wp2_with (go_at_call 23; refine (high_any _ _).mono ?_; rintro e w' ⟨rfl, hw⟩; obtain rfl := hw)
  go_ret
  refine ⟨rfl, ?_⟩
  (repeat (first | with_reducible exact grownBy_refl _ _ | (with_reducible refine gs ?_ ?_; first | omega | (simp; omega)) | with_reducible refine ga ?_ | with_reducible refine gd ?_ | with_reducible refine gdn ?_ | with_reducible refine gt ?_ (by assumption)))
set_option maxRecDepth 100000 in
set_option maxHeartbeats 1000000 in
theorem fitsR_neg (bi ac he : Int) (p : Int) (h : (decide (0 ≤ bi)) = false) (w : World) : Calls Try.prog 22 #[stV 1 bi ac he] w fun e w' => e = .returned (.bool false) ∧ w.grownBy w' none := by
  go_enter Try.func22, Try.ntmps22
  go_wp2
  go_quiet ((go_at_call 28; exact Calls.quiet_of_same (high_ref _ _)))
  go_wp2
  go_ret
  refine ⟨rfl, ?_⟩
  (repeat (first | with_reducible exact grownBy_refl _ _ | (with_reducible refine gs ?_ ?_; first | omega | (simp; omega)) | with_reducible refine ga ?_ | with_reducible refine gd ?_ | with_reducible refine gdn ?_ | with_reducible refine gt ?_ (by assumption)))
set_option maxRecDepth 100000 in
set_option maxHeartbeats 1000000 in
theorem fitsR_big (bi ac he : Int) (p : Int) (h0 : (decide (0 ≤ bi)) = true) (h1 : (decide (bi ≤ 15)) = false) (w : World) : Calls Try.prog 22 #[stV 1 bi ac he] w fun e w' => e = .returned (.bool false) ∧ w.grownBy w' none := by
  go_enter Try.func22, Try.ntmps22
  go_wp2
  go_quiet ((go_at_call 28; exact Calls.quiet_of_same (high_ref _ _)))
  go_wp2
  go_ret
  refine ⟨rfl, ?_⟩
  (repeat (first | with_reducible exact grownBy_refl _ _ | (with_reducible refine gs ?_ ?_; first | omega | (simp; omega)) | with_reducible refine ga ?_ | with_reducible refine gd ?_ | with_reducible refine gdn ?_ | with_reducible refine gt ?_ (by assumption)))
set_option maxRecDepth 100000 in
set_option maxHeartbeats 1000000 in
theorem fitsR_acc (bi ac he : Int) (p : Int) (h0 : 0 ≤ bi) (h1 : bi ≤ 15) (h0d : decide (0 ≤ bi) = true) (h1d : decide (bi ≤ 15) = true) (hp : (2 : Int) ^ bi.toNat = p) (hp0 : 1 ≤ p) (hp1 : p ≤ 32768) (hc : decide (ac < p) = false) (w : World) : Calls Try.prog 22 #[stV 1 bi ac he] w fun e w' => e = .returned (.bool false) ∧ w.grownBy w' none := by
  go_enter Try.func22, Try.ntmps22
  go_wp2
  go_quiet ((go_at_call 28; exact Calls.quiet_of_same (high_ref _ _)))
  go_wp2
  go_ret
  refine ⟨rfl, ?_⟩
  (repeat (first | with_reducible exact grownBy_refl _ _ | (with_reducible refine gs ?_ ?_; first | omega | (simp; omega)) | with_reducible refine ga ?_ | with_reducible refine gd ?_ | with_reducible refine gdn ?_ | with_reducible refine gt ?_ (by assumption)))
set_option maxRecDepth 100000 in
set_option maxHeartbeats 1000000 in
theorem fitsR_held0 (bi ac he : Int) (p : Int) (h0 : 0 ≤ bi) (h1 : bi ≤ 15) (h0d : decide (0 ≤ bi) = true) (h1d : decide (bi ≤ 15) = true) (hp : (2 : Int) ^ bi.toNat = p) (hp0 : 1 ≤ p) (hp1 : p ≤ 32768) (hc : decide (ac < p) = true) (hh : (he == 0) = true) (w : World) : Calls Try.prog 22 #[stV 1 bi ac he] w fun e w' => e = .returned (.bool true) ∧ w.grownBy w' none := by
  go_enter Try.func22, Try.ntmps22
  go_wp2
  go_quiet ((go_at_call 28; exact Calls.quiet_of_same (high_ref _ _)))
  go_wp2
  go_ret
  refine ⟨rfl, ?_⟩
  (repeat (first | with_reducible exact grownBy_refl _ _ | (with_reducible refine gs ?_ ?_; first | omega | (simp; omega)) | with_reducible refine ga ?_ | with_reducible refine gd ?_ | with_reducible refine gdn ?_ | with_reducible refine gt ?_ (by assumption)))
set_option maxRecDepth 100000 in
set_option maxHeartbeats 1000000 in
theorem fitsR_held (bi ac he : Int) (p : Int) (h0 : 0 ≤ bi) (h1 : bi ≤ 15) (h0d : decide (0 ≤ bi) = true) (h1d : decide (bi ≤ 15) = true) (hp : (2 : Int) ^ bi.toNat = p) (hp0 : 1 ≤ p) (hp1 : p ≤ 32768) (hc : decide (ac < p) = true) (hh : (he == 0) = false) (w : World) : Calls Try.prog 22 #[stV 1 bi ac he] w fun e w' => e = .returned (.bool (hiB he)) ∧ w.grownBy w' none := by
  go_enter Try.func22, Try.ntmps22
  go_wp2
  go_quiet ((go_at_call 28; exact Calls.quiet_of_same (high_ref _ _)))
  go_wp2
  go_ret
  refine ⟨rfl, ?_⟩
  (repeat (first | with_reducible exact grownBy_refl _ _ | (with_reducible refine gs ?_ ?_; first | omega | (simp; omega)) | with_reducible refine ga ?_ | with_reducible refine gd ?_ | with_reducible refine gdn ?_ | with_reducible refine gt ?_ (by assumption)))
theorem pow_bd {bi : Int} (h0 : 0 ≤ bi) (h1 : bi ≤ 15) : 1 ≤ (2 : Int) ^ bi.toNat ∧ (2 : Int) ^ bi.toNat ≤ 32768 := by
  have e : (2 : Int) ^ bi.toNat = ((2 ^ bi.toNat : Nat) : Int) := by simp
  have h2 : 2 ^ bi.toNat ≤ 2 ^ 15 := Nat.pow_le_pow_right (by omega) (by omega)
  have h3 := Nat.two_pow_pos bi.toNat
  rw [e]; omega
theorem div_zero {ac p : Int} (h : 0 ≤ ac) (hp : 1 ≤ p) : (ac / p == 0) = decide (ac < p) := by
  by_cases c : ac < p
  · rw [decide_eq_true c, Int.ediv_eq_zero_of_lt h c]; rfl
  · rw [decide_eq_false c, beq_eq_false_iff_ne]
    have : 1 ≤ ac / p := (Int.le_ediv_iff_mul_le (by omega)).2 (by omega)
    omega
theorem fits_any (md bi ac he : Int) (w : World) (t : Bool) (ht : fitB md bi ac he = t) : Calls Try.prog 21 #[stV md bi ac he] w fun e w' => e = .returned (.bool t) ∧ w.grownBy w' none := by
  subst ht
  by_cases h02 : md = 0 ∨ md = 2
  · exact fits_zero md bi ac he h02 w
  by_cases h1 : md = 1
  · subst h1
    by_cases b0 : 0 ≤ bi
    · by_cases b1 : bi < 16
      · cases hc : (ac / 2 ^ bi.toNat == 0) with
        | false => rw [fit_in false b0 b1 hc]; exact fits_acc bi ac he b0 (by omega) (by simpa using b0) (by simpa using b1) hc w
        | true =>
          rw [fit_in true b0 b1 hc]
          cases hh : (he == 0) with
          | true => rw [show (true && (decide (he = 0) || hiB he)) = true from by simp at hh; simp [hh]]; exact fits_held0 bi ac he b0 (by omega) (by simpa using b0) (by simpa using b1) hc hh w
          | false => rw [show (true && (decide (he = 0) || hiB he)) = hiB he from by simp at hh; simp [hh]]; exact fits_held bi ac he b0 (by omega) (by simpa using b0) (by simpa using b1) hc hh w
      · rw [fit_out (.inr (by omega))]; exact fits_big bi ac he (by simpa using b0) (by simp; omega) w
    · rw [fit_out (.inl (by omega))]; exact fits_neg bi ac he (by simp; omega) w
  · exact fits_else md bi ac he (by omega) (by omega) h1 w
theorem fitsR_any (md bi ac he : Int) (hac : 0 ≤ ac) (w : World) (t : Bool) (ht : fitB md bi ac he = t) : Calls Try.prog 22 #[stV md bi ac he] w fun e w' => e = .returned (.bool t) ∧ w.grownBy w' none := by
  subst ht
  by_cases h02 : md = 0 ∨ md = 2
  · exact fitsR_zero md bi ac he h02 w
  by_cases h1 : md = 1
  · subst h1
    by_cases b0 : 0 ≤ bi
    · by_cases b1 : bi < 16
      · have hp := pow_bd b0 (by omega)
        have hd := div_zero hac hp.1
        cases hc : (ac / 2 ^ bi.toNat == 0) with
        | false => rw [fit_in false b0 b1 hc]; exact fitsR_acc bi ac he _ b0 (by omega) (by simpa using b0) (by simp; omega) rfl hp.1 hp.2 (hd.symm.trans hc) w
        | true =>
          rw [fit_in true b0 b1 hc]
          cases hh : (he == 0) with
          | true => rw [show (true && (decide (he = 0) || hiB he)) = true from by simp at hh; simp [hh]]; exact fitsR_held0 bi ac he _ b0 (by omega) (by simpa using b0) (by simp; omega) rfl hp.1 hp.2 (hd.symm.trans hc) hh w
          | false => rw [show (true && (decide (he = 0) || hiB he)) = hiB he from by simp at hh; simp [hh]]; exact fitsR_held bi ac he _ b0 (by omega) (by simpa using b0) (by simp; omega) rfl hp.1 hp.2 (hd.symm.trans hc) hh w
      · rw [fit_out (.inr (by omega))]; exact fitsR_big bi ac he 0 (by simpa using b0) (by simp; omega) w
    · rw [fit_out (.inl (by omega))]; exact fitsR_neg bi ac he 0 (by simp; omega) w
  · exact fitsR_else md bi ac he (by omega) (by omega) h1 w
end Go.Proofs.Ytldbllfifjdajaa.Sv

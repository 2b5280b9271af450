/- The document's Set of layer 21, whole. -/
import Derived.Test.YtdobjijebalkkaaIV21
namespace Go.Proofs.Ytdobjijebalkkaa.C21
open Go.ChangeShapes Go.WideShapes Go.ChangeAt Go.RowKit Go.Proofs.Ytdobjijebalkkaa.Mem Go.Proofs.Ytdobjijebalkkaa.Cb Go.Proofs.Ytdobjijebalkkaa.Sp
set_option linter.unusedVariables false
set_option linter.unusedSimpArgs false

theorem kor_any (m : Nat) (hm : m < 3) (u : Int) (w : World) : Calls Try.prog 29 #[stV (m : Int) 0 0 0, .int .i32 u] w fun e w' => e = .returned (putV (sK m u)) ∧ w.grownBy w' none := by
  unfold sK
  cases ep : C16.plT u with
  | mk A q =>
  obtain ⟨D, ok⟩ := q
  by_cases h2 : 0 ≤ u ∧ u < 128
  · rw [if_pos h2]
    obtain ⟨n, rfl⟩ : ∃ n : Nat, u = (n : Int) := ⟨u.toNat, by omega⟩
    rw [Int.toNat_natCast]
    by_cases h0 : m = 0
    · subst h0
      have := k_pl0 n (by omega) A D ok (Hid.mk' ep) w
      refine this.mono (fun e w' h => ⟨h.1.trans ?_, h.2⟩)
      unfold putV
      simp only
      rw [← str_app]
      rfl
    · have := k_pl1 m (by omega) hm n (by omega) A D ok (Hid.mk' ep) w
      refine this.mono (fun e w' h => ⟨h.1.trans ?_, h.2⟩)
      unfold putV hB hM
      simp only
      rw [if_neg h0, if_neg h0, ← str_app]
      rfl
  · rw [if_neg h2]
    cases ok with
    | true =>
      obtain ⟨r1, r2, c1, c2, u0, he⟩ := C16.place_back ep
      simp only
      by_cases h0 : m = 0
      · subst h0
        have := k_sp0 u (by omega) A D (Hid.mk' ep) w
        refine this.mono (fun e w' h => ⟨h.1.trans ?_, h.2⟩)
        unfold putV
        simp only
        rw [← str_app]
        rfl
      · have := k_sp1 m (by omega) hm u (by omega) A D (Hid.mk' ep) w
        refine this.mono (fun e w' h => ⟨h.1.trans ?_, h.2⟩)
        unfold putV hB hM
        simp only
        rw [if_neg h0, if_neg h0, ← str_app]
        rfl
    | false =>
      by_cases h3 : 0 ≤ u
      · exact k_nonesp m u (by omega) A D (Hid.mk' ep) w
      · exact k_nonesn m u (by omega) A D (Hid.mk' ep) w
theorem setRef_any (k md bi ac he u : Int) (w : World) : Calls Try.prog 15 #[.int .i64 k, stV md bi ac he, .int .i32 u] w fun e w' => e = .returned (putV (sE k (mo md bi ac he) u)) ∧ w.grownBy w' none := by
  unfold sE
  cases hk : has k with
  | false =>
    rw [if_pos rfl]
    exact s_kind k md bi ac he u (Hid.mk' hk) w
  | true =>
    rw [if_neg (by simp)]
    obtain ⟨m, hm⟩ : ∃ m, mo md bi ac he = m := ⟨_, rfl⟩
    have hl := mo_le md bi ac he
    rw [hm] at hl ⊢
    by_cases h3 : m = 3
    · subst h3
      rw [if_pos (by omega)]
      exact s_no k md bi ac he u (Hid.mk' hk) (Hid.mk' hm) w
    · have hm3 : m < 3 := by omega
      obtain ⟨rfl, rfl, rfl, rfl⟩ := mo_fit hm hm3
      rw [if_neg (by omega)]
      rcases has_yes hk with rfl | rfl
      · by_cases h27 : u = 27
        · rw [if_pos (.inl h27)]
          exact s_esc83 m hm3 u h27 w
        · rw [if_neg (by omega), if_neg (by omega)]
          unfold sJ
          by_cases h2 : 0 ≤ u ∧ u < 128
          · rw [if_pos h2]
            obtain ⟨n, rfl⟩ : ∃ n : Nat, u = (n : Int) := ⟨u.toNat, by omega⟩
            rw [Int.toNat_natCast]
            exact j_low m hm3 n (by omega) (by omega) w
          · rw [if_neg h2]
            by_cases h5 : u = 165
            · rw [if_pos h5]
              exact j_y m hm3 u h5 w
            · rw [if_neg h5]
              by_cases h6 : u = 8254
              · rw [if_pos h6]
                exact j_o m hm3 u h6 w
              · rw [if_neg h6]
                cases ep : C14.plT u with
                | mk A q =>
                obtain ⟨D, ok⟩ := q
                cases ok with
                | true =>
                  obtain ⟨r1, r2, c1, c2, u0, he⟩ := C14.place_back ep
                  exact j_place m hm3 u (by omega) h5 h6 A D r2 c2 (Hid.mk' ep) w
                | false =>
                  by_cases h7 : 0 ≤ u
                  · exact j_nonep m hm3 u (by omega) h5 h6 A D (Hid.mk' ep) w
                  · exact j_nonen m hm3 u (by omega) h5 h6 A D (Hid.mk' ep) w
      · by_cases h27 : u = 27
        · rw [if_pos (.inl h27)]
          exact s_esc88 m hm3 u h27 w
        · by_cases h14 : u = 14
          · rw [if_pos (.inr ⟨rfl, .inl h14⟩)]
            exact s_so14 m hm3 u h14 w
          · by_cases h15 : u = 15
            · rw [if_pos (.inr ⟨rfl, .inr h15⟩)]
              exact s_so15 m hm3 u h15 w
            · rw [if_neg (by omega), if_pos rfl]
              exact s_kr m hm3 u h27 h14 h15 _ _ _ w (Hid.mk' (fun wx => kor_any m hm3 u wx))
end Go.Proofs.Ytdobjijebalkkaa.C21

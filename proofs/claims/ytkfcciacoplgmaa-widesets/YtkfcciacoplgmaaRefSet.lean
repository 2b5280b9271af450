/- The document's step that puts out a scalar: all kinds, states and numbers. -/
import Derived.Test.YtkfcciacoplgmaaRefSet1
import Derived.Test.YtkfcciacoplgmaaRefSet2
import Derived.Test.YtkfcciacoplgmaaRefSet3
import Derived.Test.YtkfcciacoplgmaaRefSet4
import Derived.Test.YtkfcciacoplgmaaRefSet5
import Derived.Test.YtkfcciacoplgmaaRefSet6
import Derived.Test.YtkfcciacoplgmaaRefSet7
namespace Go.Proofs.Ytkfcciacoplgmaa.Wd
open Go.ChangeShapes Go.WideShapes Go.ChangeAt Go.RowKit Go.Proofs.Ytkfcciacoplgmaa.Mem Go.Proofs.Ytkfcciacoplgmaa.Ucs
set_option linter.unusedVariables false
set_option linter.unusedSimpArgs false

theorem str_empty (s : ByteArray) : (⟨#[]⟩ : ByteArray) ++ s = s := by
  apply ByteArray.ext
  simp
theorem str_four (low : Bool) (n u : Nat) (h : n ≤ 4) : (str (unitB low n u)).size ≤ 4 := str_small low n u h
theorem setRef_any (k md bi ac he u : Int) (w : World) (R : Pt) (hR : setR k md bi ac he u = R) (s : ByteArray) (hs : str R.L = s) :
    Calls Try.prog 14 #[.int .i64 k, .agg #[.int .i64 md, .int .i64 bi, .int .u32 ac, .int .i32 he], .int .i32 u] w fun e w' => e = .returned (putS R.e s R.md) ∧ w.grownBy w' none := by
  subst hs hR
  cases hf : fm k with
  | none =>
    have e : setR k md bi ac he u = ⟨5, [], 0⟩ := by simp only [setR, hf]
    rw [e]
    exact setR_none k md bi ac he (fm_none hf) u w
  | some f =>
    obtain ⟨n, p, m, low⟩ := f
    have ff := fm_facts hf
    have hn := ff.2.2.1
    by_cases hfit : fitB m md bi ac he = false
    · have e : setR k md bi ac he u = ⟨7, [], 0⟩ := by simp only [setR, hf, hfit, if_true]
      rw [e]
      exact setR_bad k md bi ac he n p m low hf hfit u w
    · have hfit' : fitB m md bi ac he = true := by simpa using hfit
      by_cases hs : scB u = false
      · have hb : bytesR p (low || decide (md = 2)) n u = none := by unfold bytesR; rw [if_pos hs]
        have e : setR k md bi ac he u = ⟨11, [], 0⟩ := by simp only [setR, hf]; rw [if_neg hfit]; simp only [hb]
        rw [e]
        exact setR_nosc k md bi ac he n p m low hf hfit' u hs w
      · have hs' : scB u = true := by simpa using hs
        obtain ⟨rfl, rfl, rfl, h0, h2, hm0⟩ := fit_zero hfit'
        have hub := scB_iff.1 hs'
        obtain ⟨x, rfl⟩ := Int.eq_ofNat_of_zero_le hub.1
        by_cases hx : x ≤ 65535
        · obtain ⟨hsp, hsa, hsb⟩ := split_no (u := (x : Int)) (.inl (by omega))
          obtain ⟨B, hBe⟩ : ∃ B, unitB (low || decide (md = 2)) n x = B := ⟨_, rfl⟩
          have hb : bytesR p (low || decide (md = 2)) n (x : Int) = some B := by
            unfold bytesR
            rw [if_neg hs, if_pos (by omega), Int.toNat_natCast, hBe]
          rcases hn with rfl | rfl
          · cases m with
            | false =>
              have e : setR k md 0 0 0 (x : Int) = ⟨0, B, md⟩ := by simp only [setR, hf]; rw [if_neg hfit]; simp [hb]
              rw [e, ← hBe]
              have := setR_n2_0 k md p low hf hfit' x hs' _ _ _ rfl rfl hsp w hx rfl _ rfl _ rfl (str_four _ _ _ (by omega))
              rwa [str_empty] at this
            | true =>
              by_cases c0 : md = 0
              · subst c0
                have hlow : low = false := ff.2.2.2.2 rfl
                subst hlow
                have hb2 : bytesR p false 2 (x : Int) = some B := by simpa using hb
                have e : setR k 0 0 0 0 (x : Int) = ⟨0, unitB false 2 65279 ++ B, 1⟩ := by simp only [setR, hf]; rw [if_neg hfit]; simp [hb2]
                rw [e, ← hBe]
                have := setR_n2_1 k 0 p false hf hfit' x hs' _ _ _ rfl rfl hsp w hx rfl _ rfl _ rfl (str_four _ _ _ (by omega)) rfl _ rfl (str_four _ _ _ (by omega))
                rwa [str_append] at this
              · have e : setR k md 0 0 0 (x : Int) = ⟨0, B, md⟩ := by simp only [setR, hf]; rw [if_neg hfit]; simp [hb, c0]
                rw [e, ← hBe]
                have := setR_n2_2 k md p low hf hfit' x hs' _ _ _ rfl rfl hsp w hx rfl _ rfl (by simpa using c0) _ rfl (str_four _ _ _ (by omega))
                rwa [str_empty] at this
          · cases m with
            | false =>
              have e : setR k md 0 0 0 (x : Int) = ⟨0, B, md⟩ := by simp only [setR, hf]; rw [if_neg hfit]; simp [hb]
              rw [e, ← hBe]
              have := setR_n4s_0 k md p low hf hfit' x hs' _ _ _ rfl rfl hsp w hx _ rfl _ rfl (str_four _ _ _ (by omega))
              rwa [str_empty] at this
            | true =>
              by_cases c0 : md = 0
              · subst c0
                have hlow : low = false := ff.2.2.2.2 rfl
                subst hlow
                have hb2 : bytesR p false 4 (x : Int) = some B := by simpa using hb
                have e : setR k 0 0 0 0 (x : Int) = ⟨0, unitB false 4 65279 ++ B, 1⟩ := by simp only [setR, hf]; rw [if_neg hfit]; simp [hb2]
                rw [e, ← hBe]
                have := setR_n4s_1 k 0 p false hf hfit' x hs' _ _ _ rfl rfl hsp w hx _ rfl _ rfl (str_four _ _ _ (by omega)) rfl _ rfl (str_four _ _ _ (by omega))
                rwa [str_append] at this
              · have e : setR k md 0 0 0 (x : Int) = ⟨0, B, md⟩ := by simp only [setR, hf]; rw [if_neg hfit]; simp [hb, c0]
                rw [e, ← hBe]
                have := setR_n4s_2 k md p low hf hfit' x hs' _ _ _ rfl rfl hsp w hx _ rfl (by simpa using c0) _ rfl (str_four _ _ _ (by omega))
                rwa [str_empty] at this
        · obtain ⟨hsp, aN, bN, ha, hb', a1, a2, b1, b2, _⟩ := split_nat hs' (by omega)
          rcases hn with rfl | rfl
          · cases p with
            | false =>
              have hb : bytesR false (low || decide (md = 2)) 2 (x : Int) = none := by
                unfold bytesR
                rw [if_neg hs, if_neg (by omega)]
                simp
              have e : setR k md 0 0 0 (x : Int) = ⟨11, [], 0⟩ := by simp only [setR, hf]; rw [if_neg hfit]; simp only [hb]
              rw [e]
              rcases kind_is hf with rfl | rfl
              · exact setR_no9 9 md 0 0 0 2 false m low rfl hf hfit' (x : Int) hs' (by omega) w
              · exact setR_no10 10 md 0 0 0 2 false m low rfl hf hfit' (x : Int) hs' (by omega) w
            | true =>
              obtain ⟨B, hBe⟩ : ∃ B, unitB (low || decide (md = 2)) 2 aN ++ unitB (low || decide (md = 2)) 2 bN = B := ⟨_, rfl⟩
              have hb : bytesR true (low || decide (md = 2)) 2 (x : Int) = some B := by
                unfold bytesR
                rw [if_neg hs, if_neg (by omega), if_pos rfl, ha, hb', Int.toNat_natCast, Int.toNat_natCast, hBe]
              have hk := kind_ucs hf (.inl rfl)
              cases m with
              | false =>
                have e : setR k md 0 0 0 (x : Int) = ⟨0, B, md⟩ := by simp only [setR, hf]; rw [if_neg hfit]; simp [hb]
                rw [e, ← hBe]
                have := setR_pair_0 k md true low hf hfit' x hs' _ _ _ ha hb' hsp w (by omega) rfl hk.1 hk.2 _ rfl aN bN rfl rfl (by omega) (by omega) (by omega) (by omega) (by omega) (by omega) _ _ rfl rfl (str_four _ _ _ (by omega)) (str_four _ _ _ (by omega))
                rwa [str_empty, str_append] at this
              | true =>
                by_cases c0 : md = 0
                · subst c0
                  have hlow : low = false := ff.2.2.2.2 rfl
                  subst hlow
                  have hb2 : bytesR true false 2 (x : Int) = some B := by simpa using hb
                  have e : setR k 0 0 0 0 (x : Int) = ⟨0, unitB false 2 65279 ++ B, 1⟩ := by simp only [setR, hf]; rw [if_neg hfit]; simp [hb2]
                  rw [e, ← hBe]
                  have := setR_pair_1 k 0 true false hf hfit' x hs' _ _ _ ha hb' hsp w (by omega) rfl hk.1 hk.2 _ rfl _ rfl (str_four _ _ _ (by omega)) rfl aN bN rfl rfl (by omega) (by omega) (by omega) (by omega) (by omega) (by omega) _ _ rfl rfl (str_four _ _ _ (by omega)) (str_four _ _ _ (by omega))
                  rwa [str_append, str_append, List.append_assoc] at this
                · have e : setR k md 0 0 0 (x : Int) = ⟨0, B, md⟩ := by simp only [setR, hf]; rw [if_neg hfit]; simp [hb, c0]
                  rw [e, ← hBe]
                  have := setR_pair_2 k md true low hf hfit' x hs' _ _ _ ha hb' hsp w (by omega) rfl hk.1 hk.2 _ rfl (by simpa using c0) aN bN rfl rfl (by omega) (by omega) (by omega) (by omega) (by omega) (by omega) _ _ rfl rfl (str_four _ _ _ (by omega)) (str_four _ _ _ (by omega))
                  rwa [str_empty, str_append] at this
          · obtain ⟨B, hBe⟩ : ∃ B, unitB (low || decide (md = 2)) 4 x = B := ⟨_, rfl⟩
            have hb : bytesR p (low || decide (md = 2)) 4 (x : Int) = some B := by
              unfold bytesR
              rw [if_neg hs, if_pos (by omega), Int.toNat_natCast, hBe]
            have hk := kind_ucs hf (.inr rfl)
            cases m with
            | false =>
              have e : setR k md 0 0 0 (x : Int) = ⟨0, B, md⟩ := by simp only [setR, hf]; rw [if_neg hfit]; simp [hb]
              rw [e, ← hBe]
              have := setR_n4l_0 k md p low hf hfit' x hs' _ _ _ rfl rfl hsp w (by omega) hk.1 hk.2 _ rfl _ rfl (str_four _ _ _ (by omega))
              rwa [str_empty] at this
            | true =>
              by_cases c0 : md = 0
              · subst c0
                have hlow : low = false := ff.2.2.2.2 rfl
                subst hlow
                have hb2 : bytesR p false 4 (x : Int) = some B := by simpa using hb
                have e : setR k 0 0 0 0 (x : Int) = ⟨0, unitB false 4 65279 ++ B, 1⟩ := by simp only [setR, hf]; rw [if_neg hfit]; simp [hb2]
                rw [e, ← hBe]
                have := setR_n4l_1 k 0 p false hf hfit' x hs' _ _ _ rfl rfl hsp w (by omega) hk.1 hk.2 _ rfl _ rfl (str_four _ _ _ (by omega)) rfl _ rfl (str_four _ _ _ (by omega))
                rwa [str_append] at this
              · have e : setR k md 0 0 0 (x : Int) = ⟨0, B, md⟩ := by simp only [setR, hf]; rw [if_neg hfit]; simp [hb, c0]
                rw [e, ← hBe]
                have := setR_n4l_2 k md p low hf hfit' x hs' _ _ _ rfl rfl hsp w (by omega) hk.1 hk.2 _ rfl (by simpa using c0) _ rfl (str_four _ _ _ (by omega))
                rwa [str_empty] at this
end Go.Proofs.Ytkfcciacoplgmaa.Wd

/- The document's step that gets a scalar: all kinds, states and bytes. -/
import Derived.Test.YtkfcciacoplgmaaRefGet2
import Derived.Test.YtkfcciacoplgmaaRefGet3
namespace Go.Proofs.Ytkfcciacoplgmaa.Wd
open Go.ChangeShapes Go.WideShapes Go.ChangeAt Go.RowKit Go.Proofs.Ytkfcciacoplgmaa.Mem Go.Proofs.Ytkfcciacoplgmaa.Ucs
set_option linter.unusedVariables false
set_option linter.unusedSimpArgs false
theorem getRef_any (k md bi ac he : Int) (ao : Option Addr) (len cap : Nat) (L : List UInt8) (w : World) (hB : Bytes w ao L) (hlen : L.length = len) (hx : len ≤ 140737488355328) (hcap : len ≤ cap) (hcm : cap ≤ 9223372036854775807) (R : Gt) (hR : getR k md bi ac he L = R) :
    Calls Try.prog 10 #[.int .i64 k, .agg #[.int .i64 md, .int .i64 bi, .int .u32 ac, .int .i32 he], .slice ao len cap] w fun e w' => e = .returned (gotS R.e R.n R.k R.a R.md) ∧ w.grownBy w' none := by
  subst hR
  cases hf : fm k with
  | none =>
    have e : getR k md bi ac he L = ⟨5, 0, 0, 0, 0⟩ := by simp only [getR, hf]
    rw [e]
    exact getW_none k md bi ac he (fm_none hf) ao len cap w
  | some f =>
    obtain ⟨n, p, m, low⟩ := f
    have ff := fm_facts hf
    have hn := ff.2.2.1
    by_cases hfit : fitB m md bi ac he = false
    · have e : getR k md bi ac he L = ⟨7, 0, 0, 0, 0⟩ := by simp only [getR, hf, hfit, if_true]
      rw [e]
      exact getW_bad k md bi ac he n p m low hf hfit ao len cap w
    · have hfit' : fitB m md bi ac he = true := by simpa using hfit
      obtain ⟨rfl, rfl, rfl, h0, h2, hm0⟩ := fit_zero hfit'
      have e : getR k md 0 0 0 L = if (m && decide (md = 0)) = true then
          (if L.length < n then more else if num false n L = 65279 then ⟨0, n, 0, 0, 1⟩ else if num true n L = 65279 then ⟨0, n, 0, 0, 2⟩ else plainR p false n L 1)
        else plainR p (low || decide (md = 2)) n L md := by simp only [getR, hf]; rw [if_neg hfit]
      rw [e]
      clear e
      by_cases hmm : m = true ∧ md = 0
      · obtain ⟨rfl, rfl⟩ := hmm
        have hlow : low = false := ff.2.2.2.2 rfl
        subst hlow
        rw [if_pos (by simp)]
        by_cases hl : len < n
        · rw [if_pos (by omega)]
          exact getW_mmore k 0 n p false hf hfit' hn ao len cap L w hB hlen hx hcap hcm hl rfl
        · have hl' : n ≤ len := by omega
          rw [if_neg (by omega)]
          by_cases c1 : num false n L = 65279
          · rw [if_pos c1]
            exact getW_m1 k 0 n p false hf hfit' hn ao len cap L w hB hlen hx hcap hcm hl' rfl (show (num false n L : Int) = 65279 by omega)
          · rw [if_neg c1]
            have d1 : ((num false n L : Int) == 65279) = false := by simp; omega
            by_cases c2 : num true n L = 65279
            · rw [if_pos c2]
              exact getW_m2 k 0 n p false hf hfit' hn ao len cap L w hB hlen hx hcap hcm hl' rfl _ rfl d1 (show (num true n L : Int) = 65279 by omega)
            · rw [if_neg c2]
              have d2 : ((num true n L : Int) == 65279) = false := by simp; omega
              obtain ⟨R, hR⟩ : ∃ R, plainR p false n L 0 = R := ⟨_, rfl⟩
              have hmd := plainR_md p false n L 1 R hR
              by_cases c3 : R.e = 1
              · rw [hmd.1 c3]
                exact getW_p1more k 0 n p false hf hfit' hn ao len cap L w hB hlen hx hcap hcm hl' rfl _ _ rfl d1 rfl d2 false rfl R hR (by simpa using c3)
              · rw [hmd.2 c3]
                exact getW_p1 k 0 n p false hf hfit' hn ao len cap L w hB hlen hx hcap hcm hl' rfl _ _ rfl d1 rfl d2 false rfl R hR (by simpa using c3)
      · rw [if_neg (by simpa using hmm)]
        obtain ⟨R, hR⟩ : ∃ R, plainR p (low || decide (md = 2)) n L 0 = R := ⟨_, rfl⟩
        have hmd := plainR_md p (low || decide (md = 2)) n L md R hR
        by_cases c3 : R.e = 1
        · rw [hmd.1 c3]
          cases m with
          | false => exact getW_p0more k md n p low hf hfit' hn ao len cap L w hB hlen hx hcap hcm _ rfl R hR (by simpa using c3)
          | true => exact getW_p2more k md n p low hf hfit' hn ao len cap L w hB hlen hx hcap hcm (by simpa using hmm) _ rfl R hR (by simpa using c3)
        · rw [hmd.2 c3]
          cases m with
          | false => exact getW_p0 k md n p low hf hfit' hn ao len cap L w hB hlen hx hcap hcm _ rfl R hR (by simpa using c3)
          | true => exact getW_p2 k md n p low hf hfit' hn ao len cap L w hB hlen hx hcap hcm (by simpa using hmm) _ rfl R hR (by simpa using c3)
end Go.Proofs.Ytkfcciacoplgmaa.Wd

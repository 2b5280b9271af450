/- The program's step that gets a scalar: all kinds, states and bytes. -/
import Derived.Test.YtkfcciacoplgmaaGet2
import Derived.Deep.RegionHeld3
import Derived.BigQuiet
namespace Go.Proofs.Ytkfcciacoplgmaa.Wd
open Go.ChangeShapes Go.WideShapes Go.ChangeAt Go.RowKit Go.Proofs.Ytkfcciacoplgmaa.Mem Go.Proofs.Ytkfcciacoplgmaa.Ucs
set_option linter.unusedVariables false
set_option linter.unusedSimpArgs false

set_option maxRecDepth 100000 in
set_option maxHeartbeats 4000000 in
theorem get_none (k md bi ac he : Int) (h : Hid (k < 3 ∨ 10 < k)) (ao : Option Addr) (len cap : Nat) (w : World) :
    Calls Try.prog 9 #[.int .i64 k, .agg #[.int .i64 md, .int .i64 bi, .int .u32 ac, .int .i32 he], .slice ao len cap] w fun e w' => e = .returned (gotS 5 0 0 0 0) ∧ w.grownBy w' none := by
  go_enter Try.func9, Try.ntmps9
  go_wp2_with (go_at_call 17; refine (formIn_none k h.out md bi ac he _).mono ?_; rintro e w1 ⟨rfl, hg1⟩; have rb := res_alloc (two_second hg1) (.cells #[.int .i64 0, .bool false, .bool false, .nilFunc] 45); have r0 := cell_at rb 0 rfl; have r1 := cell_at rb 1 rfl; have r2 := cell_at rb 2 rfl; have r3 := cell_at rb 3 rfl; have r4 := cell_at rb 4 rfl; have r5 := cell_at rb 5 rfl; have r6 := cell_at rb 6 rfl; have r7 := cell_at rb 7 rfl; have r8 := cell_at rb 8 rfl; have fz := froz_at rb; clear rb)
  refine bodyPost_ret (v := gotS 5 0 0 0 0) (by simp [results, Try.results9, go_sem, r0, r1, r2, r3, r4, r5, r6, r7, r8]) rfl ⟨rfl, ?_⟩
  (repeat (first | with_reducible exact grownBy_refl _ _ | (with_reducible refine gs ?_ ?_; first | omega | (simp; omega)) | with_reducible refine ga ?_ | with_reducible refine gd ?_ | with_reducible refine gdn ?_ | with_reducible refine gt ?_ (by assumption)))

set_option maxRecDepth 100000 in
set_option maxHeartbeats 4000000 in
theorem get_bad (k md bi ac he : Int) (n : Nat) (p m low : Bool) (h : Hid (fm k = some (n, p, m, low))) (hfit : Hid (fitB m md bi ac he = false)) (ao : Option Addr) (len cap : Nat) (w : World) :
    Calls Try.prog 9 #[.int .i64 k, .agg #[.int .i64 md, .int .i64 bi, .int .u32 ac, .int .i32 he], .slice ao len cap] w fun e w' => e = .returned (gotS 7 0 0 0 0) ∧ w.grownBy w' none := by
  go_enter Try.func9, Try.ntmps9
  go_wp2_with (go_at_call 17; refine (formIn_bad k n p m low h md bi ac he hfit _).mono ?_; rintro e w1 ⟨rfl, hg1⟩; have rb := res_alloc (two_second hg1) (.cells #[.int .i64 0, .bool false, .bool false, .nilFunc] 45); have r0 := cell_at rb 0 rfl; have r1 := cell_at rb 1 rfl; have r2 := cell_at rb 2 rfl; have r3 := cell_at rb 3 rfl; have r4 := cell_at rb 4 rfl; have r5 := cell_at rb 5 rfl; have r6 := cell_at rb 6 rfl; have r7 := cell_at rb 7 rfl; have r8 := cell_at rb 8 rfl; have fz := froz_at rb; clear rb)
  refine bodyPost_ret (v := gotS 7 0 0 0 0) (by simp [results, Try.results9, go_sem, r0, r1, r2, r3, r4, r5, r6, r7, r8]) rfl ⟨rfl, ?_⟩
  (repeat (first | with_reducible exact grownBy_refl _ _ | (with_reducible refine gs ?_ ?_; first | omega | (simp; omega)) | with_reducible refine ga ?_ | with_reducible refine gd ?_ | with_reducible refine gdn ?_ | with_reducible refine gt ?_ (by assumption)))

theorem plainR_md (p low : Bool) (n : Nat) (L : List UInt8) (md : Int) (R : Gt) (h : plainR p low n L 0 = R) : (R.e = 1 → plainR p low n L md = ⟨R.e, R.n, R.k, R.a, 0⟩) ∧ (R.e ≠ 1 → plainR p low n L md = ⟨R.e, R.n, R.k, R.a, md⟩) := by
  subst h
  unfold plainR
  split
  · exact ⟨fun _ => rfl, fun h => absurd rfl h⟩
  · split
    · split
      · exact ⟨fun _ => rfl, fun h => absurd rfl h⟩
      · split
        · exact ⟨fun h => absurd h (by simp [ok]), fun _ => rfl⟩
        · exact ⟨fun h => absurd h (by simp [ill]), fun _ => rfl⟩
    · split
      · exact ⟨fun h => absurd h (by simp [ok]), fun _ => rfl⟩
      · exact ⟨fun h => absurd h (by simp [ill]), fun _ => rfl⟩
theorem wrap_mark (x : Nat) (h : x < 4294967296) : (wrap32 (x : Int) == 65279) = decide (x = 65279) := by
  rw [Bool.eq_iff_iff]; simp; unfold wrap32; omega
theorem num_small (low : Bool) (n : Nat) (hn : n = 2 ∨ n = 4) (L : List UInt8) : num low n L < 4294967296 := by
  have := num_lt low n L
  rcases hn with rfl | rfl <;> omega
theorem fit_zero {m : Bool} {md bi ac he : Int} (h : fitB m md bi ac he = true) : bi = 0 ∧ ac = 0 ∧ he = 0 ∧ 0 ≤ md ∧ md ≤ 2 ∧ (m = false → md = 0) := by
  unfold fitB at h
  cases m <;> simp at h <;> simp <;> omega

theorem get_any (k md bi ac he : Int) (ao : Option Addr) (len cap : Nat) (L : List UInt8) (w : World) (hB : Bytes w ao L) (hlen : L.length = len) (hx : len ≤ 140737488355328) (hcap : len ≤ cap) (hcm : cap ≤ 9223372036854775807) (R : Gt) (hR : getR k md bi ac he L = R) :
    Calls Try.prog 9 #[.int .i64 k, .agg #[.int .i64 md, .int .i64 bi, .int .u32 ac, .int .i32 he], .slice ao len cap] w fun e w' => e = .returned (gotS R.e R.n R.k R.a R.md) ∧ w.grownBy w' none := by
  subst hR
  cases hf : fm k with
  | none =>
    have e : getR k md bi ac he L = ⟨5, 0, 0, 0, 0⟩ := by simp only [getR, hf]
    rw [e]
    exact get_none k md bi ac he (fm_none hf) ao len cap w
  | some f =>
    obtain ⟨n, p, m, low⟩ := f
    have ff := fm_facts hf
    have hn := ff.2.2.1
    by_cases hfit : fitB m md bi ac he = false
    · have e : getR k md bi ac he L = ⟨7, 0, 0, 0, 0⟩ := by simp only [getR, hf, hfit, if_true]
      rw [e]
      exact get_bad k md bi ac he n p m low hf hfit ao len cap w
    · have hfit' : fitB m md bi ac he = true := by simpa using hfit
      obtain ⟨rfl, rfl, rfl, h0, h2, hm0⟩ := fit_zero hfit'
      have e : getR k md 0 0 0 L = if (m && decide (md = 0)) = true then
          (if L.length < n then more else if num false n L = 65279 then ⟨0, n, 0, 0, 1⟩ else if num true n L = 65279 then ⟨0, n, 0, 0, 2⟩ else plainR p false n L 1)
        else plainR p (low || decide (md = 2)) n L md := by simp only [getR, hf]; rw [if_neg hfit]
      rw [e]
      clear e
      obtain ⟨q, hq⟩ : ∃ q, fnOf (low || decide (md = 2)) = q := ⟨_, rfl⟩
      by_cases hl : len < n
      · have e : (if (m && decide (md = 0)) = true then
          (if L.length < n then more else if num false n L = 65279 then ⟨0, n, 0, 0, 1⟩ else if num true n L = 65279 then ⟨0, n, 0, 0, 2⟩ else plainR p false n L 1)
        else plainR p (low || decide (md = 2)) n L md) = more := by
          split
          · rw [if_pos (by omega)]
          · unfold plainR; rw [if_pos (by omega)]
        rw [e]
        exact get_more k md n p m low hf hfit' q hq ao len cap L w hB hlen hx hcap hcm hl
      · have hl' : n ≤ len := by omega
        have hLn : ¬ L.length < n := by omega
        cases he : (m && decide (md = 0)) with
        | true =>
          rw [if_pos rfl, if_neg hLn]
          have hme : m = true ∧ md = 0 := by simpa using he
          have hlow : low = false := ff.2.2.2.2 hme.1
          have hll : (low || decide (md = 2)) = false := by rw [hlow, hme.2]; rfl
          have s1 := num_small false n hn L
          have s2 := num_small true n hn L
          by_cases c1 : num false n L = 65279
          · rw [if_pos c1]
            exact get_mark1 k md n p m low hf hfit' q hq ao len cap L w hB hlen hx hcap hcm he hl' (show wrap32 (num false n L : Int) = 65279 by rw [c1]; exact wrap32_nat 65279 (by omega))
          · rw [if_neg c1]
            have d1 : (wrap32 (num false n L : Int) == 65279) = false := by rw [wrap_mark _ s1]; simpa using c1
            by_cases c2 : num true n L = 65279
            · rw [if_pos c2]
              exact get_mark2 k md n p m low hf hfit' q hq ao len cap L w hB hlen hx hcap hcm he hl' _ rfl d1 (show wrap32 (num true n L : Int) = 65279 by rw [c2]; exact wrap32_nat 65279 (by omega))
            · rw [if_neg c2]
              have d2 : (wrap32 (num true n L : Int) == 65279) = false := by rw [wrap_mark _ s2]; simpa using c2
              obtain ⟨R, hR⟩ : ∃ R, plainR p (low || decide (md = 2)) n L 0 = R := ⟨_, rfl⟩
              have hR2 := hR
              rw [hll] at hR2
              have hmd := plainR_md p false n L 1 R hR2
              by_cases c3 : R.e = 1
              · rw [hmd.1 c3]
                exact get_s0more k md n p m low hf hfit' q hq ao len cap L w hB hlen hx hcap hcm he hl' _ _ rfl d1 rfl d2 R hR (by simpa using c3)
              · rw [hmd.2 c3]
                exact get_s0 k md n p m low hf hfit' q hq ao len cap L w hB hlen hx hcap hcm he hl' _ _ rfl d1 rfl d2 R hR (by simpa using c3)
        | false =>
          rw [if_neg (by simp)]
          obtain ⟨R, hR⟩ : ∃ R, plainR p (low || decide (md = 2)) n L 0 = R := ⟨_, rfl⟩
          have hmd := plainR_md p (low || decide (md = 2)) n L md R hR
          by_cases c3 : R.e = 1
          · rw [hmd.1 c3]
            exact get_s1more k md n p m low hf hfit' q hq ao len cap L w hB hlen hx hcap hcm he hl' R hR (by simpa using c3)
          · rw [hmd.2 c3]
            exact get_s1 k md n p m low hf hfit' q hq ao len cap L w hB hlen hx hcap hcm he hl' R hR (by simpa using c3)
end Go.Proofs.Ytkfcciacoplgmaa.Wd

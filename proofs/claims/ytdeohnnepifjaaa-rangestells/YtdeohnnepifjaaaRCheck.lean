/- The document's Check: a walk. -/
import Derived.Test.YtdeohnnepifjaaaRRight
namespace Go.Proofs.Ytdeohnnepifjaaa.Rn
open Go.ChangeShapes Go.WideShapes Go.ChangeAt Go.RowKit Go.Proofs.Ytdeohnnepifjaaa.Mem Go.Proofs.Ytdeohnnepifjaaa.Ucs Go.Proofs.Ytdeohnnepifjaaa.El
set_option linter.unusedVariables false
set_option linter.unusedSimpArgs false

/-- The end of the range ahead of place i. -/
def CInv (L : List Rg) (i : Nat) (bf : Int) : Prop := (i = 0 ∧ bf = -1) ∨ ∃ j f a, i = j + 1 ∧ L[j]? = some (f, bf, a)
theorem CInv.next {L : List Rg} {i : Nat} (hi : i < L.length) {f t a : Int} (he : L[i] = (f, t, a)) : CInv L (i + 1) t := .inr ⟨i, f, a, rfl, by rw [List.getElem?_eq_getElem hi, he]⟩
theorem scalarsRef_lit (u n : Int) (b : Bool) (h : alone u (n - 1) = b) (h0 : 1 ≤ n) (h1 : n ≤ 16777216) (w : World) : Calls Try.prog 24 #[.int .i32 u, .int .i64 n] w fun e w' => e = .returned (.bool b) ∧ w' = w := by
  subst h; exact scalars_any u n h0 h1 w
theorem rightR_eq (f t a : Int) : rightR (f, t, a) = (rightC f && (rightC t && (decide (f ≤ t) && alone a (t - f)))) := rfl

set_option maxRecDepth 100000 in
set_option maxHeartbeats 8000000 in
theorem checkRef_any (ao : Option Addr) (cap : Nat) (L : List Rg) (w : World) (hB : RE.Rd w ao L) (hc : L.length ≤ cap) (hcm : cap ≤ 9223372036854775807) (E : Int) (hE : Hid (checkR L = E)) :
    Calls Try.prog 12 #[.slice ao L.length cap] w fun e w' => e = .returned (.int .i64 E) ∧ w.grownBy w' none := by
  have hB0 : Hid (RE.Rd w ao L) := hB
  clear hB
  by_cases hl : 65536 < L.length
  · have : E = 8 := by rw [← hE.out]; simp [checkR, hl]
    subst this
    have hl' : (65536 : Int) < (L.length : Int) := by omega
    go_enter Try.func12, Try.ntmps12
    go_wp2
    go_ret
    exact ⟨rfl, grownBy_refl _ _⟩
  have hl' : (L.length : Int) ≤ 65536 := by omega
  have hE2 : Hid (E = if okFrom (-1) L = true then (if 65536 < total L then 8 else 0) else 3) := (by rw [← hE.out]; simp [checkR, hl] : E = _)
  clear hE hl
  go_enter Try.func12, Try.ntmps12
  go_wp2
  go_loopw [3, 4] (fun t3 t4 wx => ∃ (i : Nat) (n cd bf : Int), i ≤ L.length ∧ t4 = .int .i64 (i : Int) ∧ t3 = .int .i64 n ∧ 0 ≤ n ∧ n ≤ 33554432 ∧ 0 ≤ cd ∧ Hid ((n ≤ 65536 → n = cd) ∧ (65536 < n → 65536 < cd)) ∧ Hid (CInv L i bf) ∧ Hid (okFrom (-1) L = okFrom bf (L.drop i)) ∧ Hid (total L = cd + total (L.drop i)) ∧ Hid (w.grownBy wx none)) (fun _ t4 _ => L.length - (intOf t4).toNat)
  case atStart => exact ⟨0, 0, 0, -1, by omega, rfl, rfl, by omega, by omega, by omega, ⟨fun _ => rfl, fun h => by omega⟩, .inl ⟨rfl, rfl⟩, (rfl : okFrom (-1) L = _), (by simp : total L = _), grownBy_refl _ _⟩
  case round =>
    obtain ⟨i, n, cd, bf, hi, rfl, rfl, n0, n1, cd0, hn, hbf, ho, ht, hgx⟩ := hrel
    by_cases hlt : i < L.length
    · obtain ⟨f, t, a, he⟩ : ∃ f t a, L[i] = (f, t, a) := ⟨_, _, _, rfl⟩
      obtain ⟨b, o, rfl, hb, x0, x1, x2⟩ := rcells (hB0.out.kept0 hgx.out) hlt he
      have hd := drop_at hlt he
      rw [hd] at ho ht
      have Ho : Hid (okFrom (-1) L = (rightR (f, t, a) && (decide (bf < f) && okFrom t (L.drop (i + 1))))) := ho.out
      have Ht : Hid (total L = cd + ((t - f + 1) + total (L.drop (i + 1)))) := ht.out
      have HN : Hid (CInv L (i + 1) t) := CInv.next hlt he
      have hlt' : (i : Int) < (L.length : Int) := by omega
      have hi0 : (0 : Int) ≤ (i : Int) := by omega
      clear ho ht hd he
      obtain ⟨wA, rfl⟩ : ∃ z, z = wr := ⟨_, rfl⟩
      have hE3 : Hid (okFrom (-1) L = false → E = 3) := (fun h => by rw [hE2.out, h]; rfl : okFrom (-1) L = false → E = 3)
      by_cases c0 : f < 0
      · have d0 : decide (f < 0) = true := by simpa using c0
        have : E = 3 := hE3.out (by rw [Ho.out, rightR_eq]; simp [rightC]; omega)
        subst this
        go_wp2
        go_quiet (fail)
        go_wp2
        go_ret
        refine ⟨rfl, ?_⟩
        have hgy := hgx.out
        (repeat (first | with_reducible exact grownBy_refl _ _ | (with_reducible refine gs ?_ ?_; first | omega | (simp; omega)) | with_reducible refine ga ?_ | with_reducible refine gd ?_ | with_reducible refine gdn ?_ | with_reducible refine gt ?_ (by assumption)))
      have d0 : decide (f < 0) = false := by simpa using c0
      by_cases c1 : 16777215 < t
      · have d1 : decide (16777215 < t) = true := by simpa using c1
        have : E = 3 := hE3.out (by rw [Ho.out, rightR_eq]; simp [rightC]; omega)
        subst this
        go_wp2
        go_quiet (fail)
        go_wp2
        go_ret
        refine ⟨rfl, ?_⟩
        have hgy := hgx.out
        (repeat (first | with_reducible exact grownBy_refl _ _ | (with_reducible refine gs ?_ ?_; first | omega | (simp; omega)) | with_reducible refine ga ?_ | with_reducible refine gd ?_ | with_reducible refine gdn ?_ | with_reducible refine gt ?_ (by assumption)))
      have d1 : decide (16777215 < t) = false := by simpa using c1
      by_cases c2 : t < f
      · have d2 : decide (t < f) = true := by simpa using c2
        have : E = 3 := hE3.out (by rw [Ho.out, rightR_eq]; simp; omega)
        subst this
        go_wp2
        go_quiet (fail)
        go_wp2
        go_ret
        refine ⟨rfl, ?_⟩
        have hgy := hgx.out
        (repeat (first | with_reducible exact grownBy_refl _ _ | (with_reducible refine gs ?_ ?_; first | omega | (simp; omega)) | with_reducible refine ga ?_ | with_reducible refine gd ?_ | with_reducible refine gdn ?_ | with_reducible refine gt ?_ (by assumption)))
      have d2 : decide (t < f) = false := by simpa using c2
      have r1 : 0 ≤ f := by omega
      have r2 : f ≤ t := by omega
      have r3 : t ≤ 16777215 := by omega
      have hw1 : IntKind.i64.wrap (t - f) = t - f := by rw [IntKind.wrap_i64]; omega
      have hw2 : IntKind.i64.wrap (t - f + 1) = t - f + 1 := by rw [IntKind.wrap_i64]; omega
      obtain ⟨T, hT⟩ : ∃ T, Hid (alone a (t - f + 1 - 1) = T) := ⟨_, (rfl : alone a (t - f + 1 - 1) = alone a (t - f + 1 - 1))⟩
      have hR : rightR (f, t, a) = T := by
        have e1 : rightC f = true := rightC_iff.2 (by omega)
        have e2 : rightC t = true := rightC_iff.2 (by omega)
        rw [rightR_eq, e1, e2, decide_eq_true r2, ← hT.out, Int.add_sub_cancel]; rfl
      have Ho2 : Hid (okFrom (-1) L = (T && (decide (bf < f) && okFrom t (L.drop (i + 1))))) := (by rw [Ho.out, hR] : okFrom (-1) L = _)
      clear Ho hR c0 c1 c2
      rcases hbf.out with ⟨rfl, rfl⟩ | ⟨j, f', a', hij, hLj⟩
      · simp only [Nat.zero_mul, Nat.add_zero] at x0 x1 x2
        cases T
        · have : E = 3 := hE3.out (by rw [Ho2.out]; rfl)
          subst this
          go_wp2
          go_quiet ((go_at_call 24; exact Calls.quiet_of_same (scalarsRef_lit _ _ false hT.out (by omega) (by omega) _)))
          go_wp2
          go_ret
          refine ⟨rfl, ?_⟩
          have hgy := hgx.out
          (repeat (first | with_reducible exact grownBy_refl _ _ | (with_reducible refine gs ?_ ?_; first | omega | (simp; omega)) | with_reducible refine ga ?_ | with_reducible refine gd ?_ | with_reducible refine gdn ?_ | with_reducible refine gt ?_ (by assumption)))
        · have HO : Hid (okFrom (-1) L = okFrom t (L.drop (0 + 1))) := (by rw [Ho2.out]; simp; omega : okFrom (-1) L = _)
          clear Ho2
          by_cases hn2 : n ≤ 65536
          · have hm : min n 65536 = n := by omega
            go_wp2
            go_quiet ((go_at_call 24; exact Calls.quiet_of_same (scalarsRef_lit _ _ true hT.out (by omega) (by omega) _)))
            go_wp2
            go_roundw
            case rel =>
              have hgy := hgx.out
              exact ⟨0 + 1, n + t - f + 1, cd + (t - f + 1), t, by omega, by go_num, by go_num, by omega, by omega, by omega, ⟨fun _ => by have := hn.out.1 hn2; omega, fun _ => by have := hn.out.1 hn2; omega⟩, HN, HO, (by rw [Ht.out]; omega : total L = _), (by (repeat (first | with_reducible exact grownBy_refl _ _ | (with_reducible refine gs ?_ ?_; first | omega | (simp; omega)) | with_reducible refine ga ?_ | with_reducible refine gd ?_ | with_reducible refine gdn ?_ | with_reducible refine gt ?_ (by assumption))) : w.grownBy _ none)⟩
            case measure => simp [intOf]; omega
          · have hm : min n 65536 = 65536 := by omega
            go_wp2
            go_quiet ((go_at_call 24; exact Calls.quiet_of_same (scalarsRef_lit _ _ true hT.out (by omega) (by omega) _)))
            go_wp2
            go_roundw
            case rel =>
              have hgy := hgx.out
              exact ⟨0 + 1, 65536 + t - f + 1, cd + (t - f + 1), t, by omega, by go_num, by go_num, by omega, by omega, by omega, ⟨fun _ => by omega, fun _ => by have := hn.out.2 (by omega); omega⟩, HN, HO, (by rw [Ht.out]; omega : total L = _), (by (repeat (first | with_reducible exact grownBy_refl _ _ | (with_reducible refine gs ?_ ?_; first | omega | (simp; omega)) | with_reducible refine ga ?_ | with_reducible refine gd ?_ | with_reducible refine gdn ?_ | with_reducible refine gt ?_ (by assumption))) : w.grownBy _ none)⟩
            case measure => simp [intOf]; omega
      · have hj : j < L.length := by omega
        have hLj' : L[j] = (f', bf, a') := by rw [List.getElem?_eq_getElem hj] at hLj; exact Option.some.inj hLj
        obtain ⟨b', o', eb, _, y0, y1, y2⟩ := rcells (hB0.out.kept0 hgx.out) hj hLj'
        cases eb
        have hi1 : (i : Int) - 1 = (j : Int) := by omega
        have hi3 : decide (0 < i) = true := by simp; omega
        have hi4 : IntKind.i64.wrap (j : Int) = (j : Int) := by rw [IntKind.wrap_i64]; omega
        have hj0 : (0 : Int) ≤ (j : Int) := by omega
        have hj1 : (j : Int) < (L.length : Int) := by omega
        clear hLj hLj' hij hbf y0 y2
        by_cases hcb : f ≤ bf
        · have d3 : decide (f ≤ bf) = true := by simpa using hcb
          have : E = 3 := hE3.out (by rw [Ho2.out]; simp; omega)
          subst this
          go_wp2
          go_quiet (fail)
          go_wp2
          go_ret
          refine ⟨rfl, ?_⟩
          have hgy := hgx.out
          (repeat (first | with_reducible exact grownBy_refl _ _ | (with_reducible refine gs ?_ ?_; first | omega | (simp; omega)) | with_reducible refine ga ?_ | with_reducible refine gd ?_ | with_reducible refine gdn ?_ | with_reducible refine gt ?_ (by assumption)))
        have d3 : decide (f ≤ bf) = false := by simpa using hcb
        have d4 : bf < f := by omega
        cases T
        · have : E = 3 := hE3.out (by rw [Ho2.out]; rfl)
          subst this
          go_wp2
          go_quiet ((go_at_call 24; exact Calls.quiet_of_same (scalarsRef_lit _ _ false hT.out (by omega) (by omega) _)))
          go_wp2
          go_ret
          refine ⟨rfl, ?_⟩
          have hgy := hgx.out
          (repeat (first | with_reducible exact grownBy_refl _ _ | (with_reducible refine gs ?_ ?_; first | omega | (simp; omega)) | with_reducible refine ga ?_ | with_reducible refine gd ?_ | with_reducible refine gdn ?_ | with_reducible refine gt ?_ (by assumption)))
        · have HO : Hid (okFrom (-1) L = okFrom t (L.drop (i + 1))) := (by rw [Ho2.out]; simp [d4] : okFrom (-1) L = _)
          clear Ho2 d4
          by_cases hn2 : n ≤ 65536
          · have hm : min n 65536 = n := by omega
            go_wp2
            go_quiet ((go_at_call 24; exact Calls.quiet_of_same (scalarsRef_lit _ _ true hT.out (by omega) (by omega) _)))
            go_wp2
            go_roundw
            case rel =>
              have hgy := hgx.out
              exact ⟨i + 1, n + t - f + 1, cd + (t - f + 1), t, by omega, by go_num, by go_num, by omega, by omega, by omega, ⟨fun _ => by have := hn.out.1 hn2; omega, fun _ => by have := hn.out.1 hn2; omega⟩, HN, HO, (by rw [Ht.out]; omega : total L = _), (by (repeat (first | with_reducible exact grownBy_refl _ _ | (with_reducible refine gs ?_ ?_; first | omega | (simp; omega)) | with_reducible refine ga ?_ | with_reducible refine gd ?_ | with_reducible refine gdn ?_ | with_reducible refine gt ?_ (by assumption))) : w.grownBy _ none)⟩
            case measure => simp [intOf]; omega
          · have hm : min n 65536 = 65536 := by omega
            go_wp2
            go_quiet ((go_at_call 24; exact Calls.quiet_of_same (scalarsRef_lit _ _ true hT.out (by omega) (by omega) _)))
            go_wp2
            go_roundw
            case rel =>
              have hgy := hgx.out
              exact ⟨i + 1, 65536 + t - f + 1, cd + (t - f + 1), t, by omega, by go_num, by go_num, by omega, by omega, by omega, ⟨fun _ => by omega, fun _ => by have := hn.out.2 (by omega); omega⟩, HN, HO, (by rw [Ht.out]; omega : total L = _), (by (repeat (first | with_reducible exact grownBy_refl _ _ | (with_reducible refine gs ?_ ?_; first | omega | (simp; omega)) | with_reducible refine ga ?_ | with_reducible refine gd ?_ | with_reducible refine gdn ?_ | with_reducible refine gt ?_ (by assumption))) : w.grownBy _ none)⟩
            case measure => simp [intOf]; omega
    · obtain rfl : i = L.length := by omega
      have Ho : okFrom (-1) L = true := by rw [ho.out, List.drop_length]; rfl
      have Ht : total L = cd := by rw [ht.out, List.drop_length]; simp [total]
      by_cases hcd : 65536 < n
      · have : E = 8 := by rw [hE2.out, if_pos Ho, if_pos (by have := hn.out.2 hcd; omega)]
        subst this
        clear Ho Ht
        go_wp2
        go_ret
        exact ⟨rfl, hgx.out⟩
      · have : E = 0 := by rw [hE2.out, if_pos Ho, if_neg (by have := hn.out.1 (by omega); omega)]
        subst this
        clear Ho Ht
        go_wp2
        go_ret
        exact ⟨rfl, hgx.out⟩
end Go.Proofs.Ytdeohnnepifjaaa.Rn

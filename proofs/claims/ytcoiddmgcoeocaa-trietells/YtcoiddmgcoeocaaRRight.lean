/- The document's Right: a walk. -/
import Derived.Test.YtcoiddmgcoeocaaRefRight
namespace Go.Proofs.Ytcoiddmgcoeocaa.Rn
open Go.ChangeShapes Go.WideShapes Go.ChangeAt Go.RowKit Go.Proofs.Ytcoiddmgcoeocaa.Mem Go.Proofs.Ytcoiddmgcoeocaa.Ucs Go.Proofs.Ytcoiddmgcoeocaa.El
set_option linter.unusedVariables false
set_option linter.unusedSimpArgs false

/-- The code ahead of place i. -/
def BInv (L : List Pr) (i : Nat) (bf : Int) : Prop := (i = 0 ∧ bf = -1) ∨ ∃ j u, i = j + 1 ∧ L[j]? = some (bf, u)
theorem BInv.next {L : List Pr} {i : Nat} (hi : i < L.length) {c u : Int} (he : L[i] = (c, u)) : BInv L (i + 1) c := .inr ⟨i, u, rfl, by rw [List.getElem?_eq_getElem hi, he]⟩

set_option maxRecDepth 100000 in
set_option maxHeartbeats 8000000 in
theorem rightRef_any (ao : Option Addr) (cap : Nat) (L : List Pr) (w : World) (hB : PE.Rd w ao L) (hc : L.length ≤ cap) (hcm : cap ≤ 9223372036854775807) (E : Int) (hE : Hid (rightE L = E)) :
    Calls Try.prog 8 #[.slice ao L.length cap] w fun e w' => e = .returned (.int .i64 E) ∧ w.grownBy w' none := by
  have hB0 : Hid (PE.Rd w ao L) := hB
  clear hB
  by_cases hl : 65536 < L.length
  · have : E = 8 := by rw [← hE.out]; simp [rightE, hl]
    subst this
    have hl' : (65536 : Int) < (L.length : Int) := by omega
    go_enter Try.func8, Try.ntmps8
    go_wp2
    go_ret
    exact ⟨rfl, grownBy_refl _ _⟩
  have hl' : (L.length : Int) ≤ 65536 := by omega
  have hE2 : Hid (E = if okP (-1) L = true then 0 else 3) := (by rw [← hE.out]; simp [rightE, hl] : E = _)
  clear hE hl
  go_enter Try.func8, Try.ntmps8
  go_wp2
  go_loopw [3] (fun t3 wx => ∃ (i : Nat) (bf : Int), i ≤ L.length ∧ t3 = .int .i64 (i : Int) ∧ Hid (BInv L i bf) ∧ Hid (okP (-1) L = okP bf (L.drop i)) ∧ Hid (w.grownBy wx none)) (fun t3 _ => L.length - (intOf t3).toNat)
  case atStart => exact ⟨0, -1, by omega, rfl, .inl ⟨rfl, rfl⟩, (rfl : okP (-1) L = _), grownBy_refl _ _⟩
  case round =>
    obtain ⟨i, bf, hi, rfl, hbf, ho, hgx⟩ := hrel
    by_cases hlt : i < L.length
    · obtain ⟨c, u, he⟩ : ∃ c u, L[i] = (c, u) := ⟨_, _, rfl⟩
      obtain ⟨b, o, rfl, hb, x0, x1⟩ := pcells (hB0.out.kept0 hgx.out) hlt he
      rw [drop_at hlt he] at ho
      have Ho : Hid (okP (-1) L = (rightC c && (decide (bf < c) && (scB u && okP c (L.drop (i + 1)))))) := ho.out
      have HN : Hid (BInv L (i + 1) c) := BInv.next hlt he
      have hlt' : (i : Int) < (L.length : Int) := by omega
      have hi0 : (0 : Int) ≤ (i : Int) := by omega
      clear ho he
      by_cases c0 : c < 0
      · have d0 : decide (c < 0) = true := by simpa using c0
        have : E = 3 := by rw [hE2.out, Ho.out, if_neg]; simp [rightC]; omega
        subst this
        go_wp2
        go_quiet (fail)
        go_wp2
        go_ret
        exact ⟨rfl, gdn hgx.out⟩
      have d0 : decide (c < 0) = false := by simpa using c0
      by_cases c1 : 16777215 < c
      · have d1 : decide (16777215 < c) = true := by simpa using c1
        have : E = 3 := by rw [hE2.out, Ho.out, if_neg]; simp [rightC]; omega
        subst this
        go_wp2
        go_quiet (fail)
        go_wp2
        go_ret
        exact ⟨rfl, gdn hgx.out⟩
      have d1 : decide (16777215 < c) = false := by simpa using c1
      have hR : rightC c = true := rightC_iff.2 (by omega)
      have Ho2 : Hid (okP (-1) L = (decide (bf < c) && (scB u && okP c (L.drop (i + 1))))) := (by rw [Ho.out, hR]; rfl : okP (-1) L = _)
      obtain ⟨T, hT⟩ : ∃ T, Hid (scB u = T) := ⟨_, (rfl : scB u = scB u)⟩
      clear Ho hR c0 c1
      rcases hbf.out with ⟨rfl, rfl⟩ | ⟨j, v, hij, hLj⟩
      · simp only [Nat.zero_mul, Nat.add_zero] at x0 x1
        have hc0 : 0 ≤ c := by simpa using d0
        cases T
        · have : E = 3 := by rw [hE2.out, Ho2.out, hT.out, if_neg]; simp
          subst this
          go_wp2
          go_quiet ((go_at_call 23; exact Calls.quiet_of_same (scalarRef_lit _ false hT.out _)))
          go_wp2
          go_ret
          exact ⟨rfl, gdn hgx.out⟩
        · have HO : Hid (okP (-1) L = okP c (L.drop (0 + 1))) := (by rw [Ho2.out, hT.out]; simp; omega : okP (-1) L = _)
          clear Ho2
          go_wp2
          go_quiet ((go_at_call 23; exact Calls.quiet_of_same (scalarRef_lit _ true hT.out _)))
          go_wp2
          go_roundw
          case rel => exact ⟨1, c, by omega, by go_num, HN, HO, gdn hgx.out⟩
          case measure => simp [intOf]; omega
      · have hj : j < L.length := by omega
        have hLj' : L[j] = (bf, v) := by rw [List.getElem?_eq_getElem hj] at hLj; exact Option.some.inj hLj
        obtain ⟨b', o', eb, _, y0, y1⟩ := pcells (hB0.out.kept0 hgx.out) hj hLj'
        cases eb
        have hi1 : (i : Int) - 1 = (j : Int) := by omega
        have hi3 : decide (0 < i) = true := by simp; omega
        have hi4 : IntKind.i64.wrap (j : Int) = (j : Int) := by rw [IntKind.wrap_i64]; omega
        have hj0 : (0 : Int) ≤ (j : Int) := by omega
        have hj1 : (j : Int) < (L.length : Int) := by omega
        clear hLj hLj' hij hbf
        by_cases hcb : c ≤ bf
        · have d2 : decide (c ≤ bf) = true := by simpa using hcb
          have : E = 3 := by rw [hE2.out, Ho2.out, if_neg]; simp; omega
          subst this
          go_wp2
          go_quiet (fail)
          go_wp2
          go_ret
          exact ⟨rfl, gdn hgx.out⟩
        have d2 : decide (c ≤ bf) = false := by simpa using hcb
        have d3 : bf < c := by omega
        cases T
        · have : E = 3 := by rw [hE2.out, Ho2.out, hT.out, if_neg]; simp
          subst this
          go_wp2
          go_quiet ((go_at_call 23; exact Calls.quiet_of_same (scalarRef_lit _ false hT.out _)))
          go_wp2
          go_ret
          exact ⟨rfl, gdn hgx.out⟩
        · have HO : Hid (okP (-1) L = okP c (L.drop (i + 1))) := (by rw [Ho2.out, hT.out]; simp [d3] : okP (-1) L = _)
          clear Ho2 d3
          go_wp2
          go_quiet ((go_at_call 23; exact Calls.quiet_of_same (scalarRef_lit _ true hT.out _)))
          go_wp2
          go_roundw
          case rel => exact ⟨i + 1, c, by omega, by go_num, HN, HO, gdn hgx.out⟩
          case measure => simp [intOf]; omega
    · obtain rfl : i = L.length := by omega
      have : E = 0 := by rw [hE2.out, ho.out, List.drop_length]; rfl
      subst this
      go_wp2
      go_ret
      exact ⟨rfl, hgx.out⟩
end Go.Proofs.Ytcoiddmgcoeocaa.Rn

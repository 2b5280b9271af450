/- The program's Check: a walk. -/
import Derived.Test.YtdeohnnepifjaaaSmall
namespace Go.Proofs.Ytdeohnnepifjaaa.Rn
open Go.ChangeShapes Go.WideShapes Go.ChangeAt Go.RowKit Go.Proofs.Ytdeohnnepifjaaa.Mem Go.Proofs.Ytdeohnnepifjaaa.Ucs Go.Proofs.Ytdeohnnepifjaaa.El
set_option linter.unusedVariables false
set_option linter.unusedSimpArgs false

/-- The cells of a range of a table. -/
theorem rcells {w : World} {ao : Option Addr} {L : List Rg} (h : RE.Rd w ao L) {i : Nat} (hi : i < L.length) {f t a : Int} (he : L[i] = (f, t, a)) :
    ∃ b o, ao = some ⟨b, o, none⟩ ∧ b < w.heap.size ∧ w.cell? ⟨b, o + i * 3, none⟩ = some (.int .i64 f) ∧ w.cell? ⟨b, o + i * 3 + 1, none⟩ = some (.int .i64 t) ∧ w.cell? ⟨b, o + i * 3 + 2, none⟩ = some (.int .i32 a) := by
  obtain ⟨b, o, rfl, hb, hc⟩ := h.at (List.ne_nil_of_length_pos (by omega)) (by decide)
  have e : RE.enc L[i] = [.int .i64 f, .int .i64 t, .int .i32 a] := by rw [he]; rfl
  refine ⟨b, o, rfl, hb, ?_, ?_, ?_⟩
  · exact hc i hi 0 _ (by rw [e]; rfl)
  · exact hc i hi 1 _ (by rw [e]; rfl)
  · exact hc i hi 2 _ (by rw [e]; rfl)
theorem drop_at {α : Type} {L : List α} {i : Nat} (hi : i < L.length) {x : α} (he : L[i] = x) : L.drop i = x :: L.drop (i + 1) := by
  rw [← he]; exact List.drop_eq_getElem_cons hi

set_option maxRecDepth 100000 in
set_option maxHeartbeats 2000000 in
theorem check_any (ao : Option Addr) (cap : Nat) (L : List Rg) (w : World) (hB : RE.Rd w ao L) (hc : L.length ≤ cap) (hcm : cap ≤ 9223372036854775807) (E : Int) (hE : Hid (checkR L = E)) :
    Calls Try.prog 13 #[.slice ao L.length cap] w fun e w' => e = .returned (.int .i64 E) ∧ w.grownBy w' none := by
  have hB0 : Hid (RE.Rd w ao L) := hB
  clear hB
  by_cases hl : 65536 < L.length
  · have : E = 8 := by rw [← hE.out]; simp [checkR, hl]
    subst this
    have hl' : (65536 : Int) < (L.length : Int) := by omega
    go_enter Try.func13, Try.ntmps13
    go_wp2
    go_ret
    refine ⟨rfl, ?_⟩
    (repeat (first | with_reducible exact grownBy_refl _ _ | (with_reducible refine gs ?_ ?_; first | omega | (simp; omega)) | with_reducible refine ga ?_ | with_reducible refine gd ?_ | with_reducible refine gdn ?_ | with_reducible refine gt ?_ (by assumption)))
  have hl' : (L.length : Int) ≤ 65536 := by omega
  have hE2 : Hid (E = if okFrom (-1) L = true then (if 65536 < total L then 8 else 0) else 3) := (by rw [← hE.out]; simp [checkR, hl] : E = _)
  clear hE hl
  go_enter Try.func13, Try.ntmps13
  go_wp2
  go_loopw [3, 4, 12] (fun t3 t4 t12 wx => ∃ (i : Nat) (cd bf : Int), i ≤ L.length ∧ t12 = .int .i64 (i : Int) ∧ t3 = .int .i64 cd ∧ t4 = .int .i64 bf ∧ 0 ≤ cd ∧ cd ≤ (i : Int) * 16777216 ∧ Hid (okFrom (-1) L = okFrom bf (L.drop i)) ∧ Hid (total L = cd + total (L.drop i)) ∧ Hid (w.grownBy wx none)) (fun _ _ t12 _ => L.length - (intOf t12).toNat)
  case atStart => exact ⟨0, 0, -1, by omega, rfl, rfl, rfl, by omega, by omega, (rfl : okFrom (-1) L = _), (by simp : total L = _), grownBy_refl _ _⟩
  case round =>
    obtain ⟨i, cd, bf, hi, rfl, rfl, rfl, c0, c1, ho, ht, hgx⟩ := hrel
    by_cases hlt : i < L.length
    · obtain ⟨f, t, a, he⟩ : ∃ f t a, L[i] = (f, t, a) := ⟨_, _, _, rfl⟩
      obtain ⟨b, o, rfl, hb, x0, x1, x2⟩ := rcells (hB0.out.kept0 hgx.out) hlt he
      have hd := drop_at hlt he
      rw [hd] at ho ht
      have Ho : Hid (okFrom (-1) L = (rightR (f, t, a) && (decide (bf < f) && okFrom t (L.drop (i + 1))))) := ho.out
      have Ht : Hid (total L = cd + ((t - f + 1) + total (L.drop (i + 1)))) := ht.out
      have hlt' : (i : Int) < (L.length : Int) := by omega
      clear ho ht hd he
      obtain ⟨R, hR⟩ : ∃ R, Hid (rightR (f, t, a) = R) := ⟨_, (rfl : rightR (f, t, a) = rightR (f, t, a))⟩
      cases R
      · have : E = 3 := by rw [hE2.out, Ho.out, hR.out]; rfl
        subst this
        go_wp2_with (go_at_call 25; refine (range_lit _ _ _ false hR.out _).mono ?_; rintro e w1 ⟨rfl, hg1⟩)
        go_ret
        refine ⟨rfl, ?_⟩
        have hgy := hgx.out
        (repeat (first | with_reducible exact grownBy_refl _ _ | (with_reducible refine gs ?_ ?_; first | omega | (simp; omega)) | with_reducible refine ga ?_ | with_reducible refine gd ?_ | with_reducible refine gdn ?_ | with_reducible refine gt ?_ (by assumption)))
      · have g := rightR_iff.1 hR.out
        obtain ⟨⟨g1, g2, g3⟩, g4⟩ := g
        by_cases hbf : bf < f
        · go_wp2_with (go_at_call 25; refine (range_lit _ _ _ true hR.out _).mono ?_; rintro e w1 ⟨rfl, hg1⟩; have l0 := cell_at (res_cells hg1) 0 (v := .int .i64 f) rfl; have l1 := cell_at (res_cells hg1) 1 (v := .int .i64 t) rfl)
          go_roundw
          case rel =>
            refine ⟨i + 1, cd + (t - f + 1), t, by omega, by go_num, by go_num, rfl, by omega, by omega, ?_, ?_, ?_⟩
            · refine (?_ : okFrom (-1) L = okFrom t (L.drop (i + 1)))
              rw [Ho.out, hR.out]; simp [hbf]
            · refine (?_ : total L = cd + (t - f + 1) + total (L.drop (i + 1)))
              rw [Ht.out]; omega
            · refine (?_ : w.grownBy w1 none)
              have hgy := hgx.out
              (repeat (first | with_reducible exact grownBy_refl _ _ | (with_reducible refine gs ?_ ?_; first | omega | (simp; omega)) | with_reducible refine ga ?_ | with_reducible refine gd ?_ | with_reducible refine gdn ?_ | with_reducible refine gt ?_ (by assumption)))
          case measure => simp [intOf]; omega
        · have : E = 3 := by rw [hE2.out, Ho.out, hR.out]; simp [hbf]
          subst this
          go_wp2_with (go_at_call 25; refine (range_lit _ _ _ true hR.out _).mono ?_; rintro e w1 ⟨rfl, hg1⟩; have l0 := cell_at (res_cells hg1) 0 (v := .int .i64 f) rfl; have l1 := cell_at (res_cells hg1) 1 (v := .int .i64 t) rfl)
          go_ret
          refine ⟨rfl, ?_⟩
          have hgy := hgx.out
          (repeat (first | with_reducible exact grownBy_refl _ _ | (with_reducible refine gs ?_ ?_; first | omega | (simp; omega)) | with_reducible refine ga ?_ | with_reducible refine gd ?_ | with_reducible refine gdn ?_ | with_reducible refine gt ?_ (by assumption)))
    · obtain rfl : i = L.length := by omega
      have Ho : okFrom (-1) L = true := by rw [ho.out, List.drop_length]; rfl
      have Ht : total L = cd := by rw [ht.out, List.drop_length]; simp [total]
      have hE3 : Hid (E = if 65536 < cd then 8 else 0) := (by rw [hE2.out, if_pos Ho, Ht] : E = _)
      clear Ho Ht ho ht hE2
      by_cases hcd : 65536 < cd
      · have : E = 8 := by rw [hE3.out, if_pos hcd]
        subst this
        go_wp2
        go_ret
        exact ⟨rfl, hgx.out⟩
      · have : E = 0 := by rw [hE3.out, if_neg hcd]
        subst this
        go_wp2
        go_ret
        exact ⟨rfl, hgx.out⟩
end Go.Proofs.Ytdeohnnepifjaaa.Rn

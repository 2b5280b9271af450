/- The program's rightPairs: a walk. -/
import Derived.Test.YtcoiddmgcoeocaaCheck
namespace Go.Proofs.Ytcoiddmgcoeocaa.Rn
open Go.ChangeShapes Go.WideShapes Go.ChangeAt Go.RowKit Go.Proofs.Ytcoiddmgcoeocaa.Mem Go.Proofs.Ytcoiddmgcoeocaa.Ucs Go.Proofs.Ytcoiddmgcoeocaa.El
set_option linter.unusedVariables false
set_option linter.unusedSimpArgs false

/-- The cells of a pair of a list. -/
theorem pcells {w : World} {ao : Option Addr} {L : List Pr} (h : PE.Rd w ao L) {i : Nat} (hi : i < L.length) {c u : Int} (he : L[i] = (c, u)) :
    ∃ b o, ao = some ⟨b, o, none⟩ ∧ b < w.heap.size ∧ w.cell? ⟨b, o + i * 2, none⟩ = some (.int .i64 c) ∧ w.cell? ⟨b, o + i * 2 + 1, none⟩ = some (.int .i32 u) := by
  obtain ⟨b, o, rfl, hb, hc⟩ := h.at (List.ne_nil_of_length_pos (by omega)) (by decide)
  have e : PE.enc L[i] = [.int .i64 c, .int .i32 u] := by rw [he]; rfl
  refine ⟨b, o, rfl, hb, ?_, ?_⟩
  · exact hc i hi 0 _ (by rw [e]; rfl)
  · exact hc i hi 1 _ (by rw [e]; rfl)

set_option maxRecDepth 100000 in
set_option maxHeartbeats 2000000 in
theorem rightPairs_any (ao : Option Addr) (cap : Nat) (L : List Pr) (w : World) (hB : PE.Rd w ao L) (hc : L.length ≤ cap) (hcm : cap ≤ 9223372036854775807) (hl : L.length ≤ 65536) (E : Bool) (hE : Hid (okP (-1) L = E)) :
    Calls Try.prog 31 #[.slice ao L.length cap] w fun e w' => e = .returned (.bool E) ∧ w.grownBy w' none := by
  have hB0 : Hid (PE.Rd w ao L) := hB
  clear hB
  go_enter Try.func31, Try.ntmps31
  go_wp2
  go_loopw [3, 8] (fun t3 t8 wx => ∃ (i : Nat) (bf : Int), i ≤ L.length ∧ t8 = .int .i64 (i : Int) ∧ t3 = .int .i64 bf ∧ Hid (okP bf (L.drop i) = E) ∧ Hid (w.grownBy wx none)) (fun _ t8 _ => L.length - (intOf t8).toNat)
  case atStart => exact ⟨0, -1, by omega, rfl, rfl, hE, grownBy_refl _ _⟩
  case round =>
    obtain ⟨i, bf, hi, rfl, rfl, ho, hgx⟩ := hrel
    by_cases hlt : i < L.length
    · obtain ⟨c, u, he⟩ : ∃ c u, L[i] = (c, u) := ⟨_, _, rfl⟩
      obtain ⟨b, o, rfl, hb, x0, x1⟩ := pcells (hB0.out.kept0 hgx.out) hlt he
      rw [drop_at hlt he] at ho
      have Ho : Hid ((rightC c && (decide (bf < c) && (scB u && okP c (L.drop (i + 1))))) = E) := ho.out
      have hlt' : (i : Int) < (L.length : Int) := by omega
      clear ho he
      obtain ⟨R, hR⟩ : ∃ R, Hid (rightC c = R) := ⟨_, (rfl : rightC c = rightC c)⟩
      cases R
      · have : E = false := by rw [← Ho.out, hR.out]; rfl
        subst this
        go_wp2_with (go_at_call 45; refine (code_lit _ false hR.out _).mono ?_; rintro e w1 ⟨rfl, rfl⟩)
        go_ret
        refine ⟨rfl, ?_⟩
        have hgy := hgx.out
        (repeat (first | with_reducible exact grownBy_refl _ _ | (with_reducible refine gs ?_ ?_; first | omega | (simp; omega)) | with_reducible refine ga ?_ | with_reducible refine gd ?_ | with_reducible refine gdn ?_ | with_reducible refine gt ?_ (by assumption)))
      · by_cases hbf : bf < c
        · obtain ⟨T, hT⟩ : ∃ T, Hid (scB u = T) := ⟨_, (rfl : scB u = scB u)⟩
          cases T
          · have : E = false := by rw [← Ho.out, hR.out, hT.out]; simp
            subst this
            go_wp2_with (first | (go_at_call 45; refine (code_lit _ true hR.out _).mono ?_; rintro e w1 ⟨rfl, rfl⟩) | (go_at_call 46; refine (scalar_lit _ false hT.out _).mono ?_; rintro e w1 ⟨rfl, rfl⟩))
            go_ret
            refine ⟨rfl, ?_⟩
            have hgy := hgx.out
            (repeat (first | with_reducible exact grownBy_refl _ _ | (with_reducible refine gs ?_ ?_; first | omega | (simp; omega)) | with_reducible refine ga ?_ | with_reducible refine gd ?_ | with_reducible refine gdn ?_ | with_reducible refine gt ?_ (by assumption)))
          · have hE2 : Hid (okP c (L.drop (i + 1)) = E) := (by rw [← Ho.out, hR.out, hT.out]; simp [hbf] : okP c (L.drop (i + 1)) = E)
            go_wp2_with (first | (go_at_call 45; refine (code_lit _ true hR.out _).mono ?_; rintro e w1 ⟨rfl, rfl⟩) | (go_at_call 46; refine (scalar_lit _ true hT.out _).mono ?_; rintro e w1 ⟨rfl, rfl⟩))
            go_roundw
            case rel =>
              refine ⟨i + 1, c, by omega, by go_num, rfl, hE2, ?_⟩
              refine (?_ : w.grownBy _ none)
              have hgy := hgx.out
              (repeat (first | with_reducible exact grownBy_refl _ _ | (with_reducible refine gs ?_ ?_; first | omega | (simp; omega)) | with_reducible refine ga ?_ | with_reducible refine gd ?_ | with_reducible refine gdn ?_ | with_reducible refine gt ?_ (by assumption)))
            case measure => simp [intOf]; omega
        · have : E = false := by rw [← Ho.out, hR.out]; simp [hbf]
          subst this
          go_wp2_with (go_at_call 45; refine (code_lit _ true hR.out _).mono ?_; rintro e w1 ⟨rfl, rfl⟩)
          go_ret
          refine ⟨rfl, ?_⟩
          have hgy := hgx.out
          (repeat (first | with_reducible exact grownBy_refl _ _ | (with_reducible refine gs ?_ ?_; first | omega | (simp; omega)) | with_reducible refine ga ?_ | with_reducible refine gd ?_ | with_reducible refine gdn ?_ | with_reducible refine gt ?_ (by assumption)))
    · obtain rfl : i = L.length := by omega
      have : E = true := by rw [← ho.out, List.drop_length]; rfl
      subst this
      go_wp2
      go_ret
      exact ⟨rfl, hgx.out⟩
end Go.Proofs.Ytcoiddmgcoeocaa.Rn

/- The document's Get and Set of layer 17, whole. -/
import Derived.Test.YtcbjkamjkaiofaaEH17
import Derived.Test.YtcbjkamjkaiofaaET17
namespace Go.Proofs.Ytcbjkamjkaiofaa.C17
open Go.ChangeShapes Go.WideShapes Go.ChangeAt Go.RowKit Go.Proofs.Ytcbjkamjkaiofaa.Mem Go.Proofs.Ytcbjkamjkaiofaa.Cb Go.Proofs.Ytcbjkamjkaiofaa.Sp
set_option linter.unusedVariables false
set_option linter.unusedSimpArgs false

theorem setRef_any (k u : Int) (w : World) : Calls Try.prog 13 #[.int .i64 k, .int .i32 u] w fun e w' => e = .returned (putV (sE k u)) ∧ w.grownBy w' none := by
  unfold sE
  cases hk : has k with
  | false =>
    rw [if_pos rfl]
    exact s_kind k u (Hid.mk' hk) w
  | true =>
    rw [if_neg (by simp)]
    by_cases h1 : 0 ≤ u ∧ u < 128
    · rw [if_pos h1]
      obtain ⟨n, rfl⟩ : ∃ n : Nat, u = (n : Int) := ⟨u.toNat, by omega⟩
      rw [Int.toNat_natCast]
      exact s_low k (Hid.mk' hk) n (by omega) w
    · rw [if_neg h1]
      cases ep : epl k u with
      | mk A q =>
      obtain ⟨B, ok⟩ := q
      cases ok with
      | true =>
        obtain ⟨r1, r2, c1, c2, u0, he⟩ := epl_back ep
        exact s_place k (Hid.mk' hk) u (by omega) A B r2 c2 (Hid.mk' ep) (A + 160) (B + 160) rfl rfl w
      | false =>
        simp only
        by_cases h2 : k = 81
        · subst h2
          by_cases h3 : u < 0
          · rw [if_neg (by omega)]
            exact s_nonec u h3 A B (Hid.mk' ep) w
          · by_cases h4 : u < 65377
            · rw [if_neg (by omega)]
              exact s_noned u (by omega) h4 A B (Hid.mk' ep) w
            · by_cases h5 : 65439 < u
              · rw [if_neg (by omega)]
                exact s_nonee u h5 A B (Hid.mk' ep) w
              · rw [if_pos ⟨rfl, by omega, by omega⟩]
                exact s_half u (by omega) (by omega) A B (Hid.mk' ep) _ (by omega) (Hid.mk' (hbR_kana (by omega) (by omega))) w
        · have h2' : (k == 81) = false := by simpa using h2
          rw [if_neg (fun h => h2 h.1)]
          by_cases h3 : u < 0
          · exact s_nonea k (Hid.mk' hk) h2' u h3 A B (Hid.mk' ep) w
          · exact s_noneb k (Hid.mk' hk) h2' u (by omega) A B (Hid.mk' ep) w
theorem getRef_any (k : Int) (ao : Option Addr) (cap : Nat) (L : List UInt8) (n : Nat) (hn : L.length = n) (w : World) (hB : Bytes w ao L) (hc : n ≤ cap) (hcm : cap ≤ 9223372036854775807) : Calls Try.prog 9 #[.int .i64 k, .slice ao n cap] w fun e w' => e = .returned (gotV (gE k L)) ∧ w.grownBy w' none := by
  subst hn
  unfold gE
  cases hk : has k with
  | false =>
    rw [if_pos rfl]
    exact g_kind k (Hid.mk' hk) ao _ cap w
  | true =>
    rw [if_neg (by simp)]
    have hk0 := Hid.mk' hk
    cases L with
    | nil => exact g_more k hk0 ao cap w
    | cons b r =>
      obtain ⟨g, o, rfl, hy0⟩ := first_cell hB
      have hy := Hid.mk' hy0
      have hb := b.toNat_lt
      simp only
      have hl1 : 0 < (b :: r).length := by simp
      have hl4 : (((b :: r).length : Int) == 0) = false := by simp; omega
      by_cases h1 : b.toNat < 128
      · rw [if_pos h1]
        exact g_low w k hk0 g o _ hy _ cap hl1 hc hcm hl4 h1
      · rw [if_neg h1]
        by_cases hA : b.toNat = 142 ∧ k = 81
        · obtain ⟨hA1, rfl⟩ := hA
          rw [if_neg (fun h => h.1 ⟨hA1, rfl⟩)]
          cases r with
          | nil => exact g_oneA w g o _ hy cap hc hcm hA1
          | cons c r =>
            have hy1 := Hid.mk' (second_cell hB)
            have hcc := c.toNat_lt
            have hl5 : 1 < (b :: c :: r).length := by simp
            have hl6 : (((b :: c :: r).length : Int) == 1) = false := by simp; omega
            simp only
            unfold gE2
            by_cases h5 : c.toNat < 161
            · rw [if_pos (.inl h5)]
              exact g_illAa w g o _ hy _ hy1 _ cap hl1 hc hcm hl4 hl5 hl6 hA1 h5
            · by_cases h6 : 254 < c.toNat
              · rw [if_pos (.inr (.inl h6))]
                exact g_illAb w g o _ hy _ hy1 _ cap hl1 hc hcm hl4 hl5 hl6 hA1 h6
              · by_cases h7 : 223 < c.toNat
                · rw [if_pos (.inr (.inr ⟨⟨hA1, rfl⟩, h7⟩))]
                  exact g_illAc w g o _ hy _ hy1 _ cap hl1 hc hcm hl4 hl5 hl6 hA1 h7 (by omega)
                · rw [if_neg (by omega)]
                  have e : two 81 b.toNat c.toNat = some (65377 + (c.toNat - 161)) := by
                    unfold two
                    rw [if_pos ⟨hA1, rfl⟩]
                    exact haR_kana (n := 0) (by omega) (by omega)
                  rw [e]
                  exact g_okA w g o _ hy _ hy1 _ cap hl1 hc hcm hl4 hl5 hl6 hA1 (by omega) (by omega) _ (Hid.mk' (haR_kana (n := 0) (by omega) (by omega)))
        · by_cases h2 : b.toNat < 161 ∨ 254 < b.toNat
          · rw [if_pos ⟨hA, h2⟩]
            by_cases h3 : 254 < b.toNat
            · exact g_badD w k hk0 g o _ hy _ cap hl1 hc hcm hl4 h3
            · by_cases h4 : b.toNat = 142
              · exact g_badB w k hk0 g o _ hy _ cap hl1 hc hcm hl4 h4 (by simpa using fun e => hA ⟨h4, e⟩)
              · exact g_badC w k hk0 g o _ hy _ cap hl1 hc hcm hl4 (by omega) (by simp; omega) (by omega)
          · rw [if_neg (fun h => h2 h.2)]
            cases r with
            | nil => exact g_oneC w k hk0 g o _ hy cap hc hcm (by omega) (by omega)
            | cons c r =>
              have hy1 := Hid.mk' (second_cell hB)
              have hcc := c.toNat_lt
              have hl5 : 1 < (b :: c :: r).length := by simp
              have hl6 : (((b :: c :: r).length : Int) == 1) = false := by simp; omega
              simp only
              unfold gE2
              by_cases h5 : c.toNat < 161
              · rw [if_pos (.inl h5)]
                exact g_illCa w k hk0 g o _ hy _ hy1 _ cap hl1 hc hcm hl4 hl5 hl6 (by omega) (by omega) h5
              · by_cases h6 : 254 < c.toNat
                · rw [if_pos (.inr (.inl h6))]
                  exact g_illCb w k hk0 g o _ hy _ hy1 _ cap hl1 hc hcm hl4 hl5 hl6 (by omega) (by omega) h6
                · rw [if_neg (fun h => by rcases h with h | h | h; exact h5 h; exact h6 h; exact hA h.1)]
                  have e : two k b.toNat c.toNat = esc k ((b.toNat : Int) - 160) ((c.toNat : Int) - 160) := by
                    unfold two
                    rw [if_neg hA]
                  rw [e]
                  cases he : esc k ((b.toNat : Int) - 160) ((c.toNat : Int) - 160) with
                  | none => exact g_none w k hk0 g o _ hy _ hy1 _ cap hl1 hc hcm hl4 hl5 hl6 (by omega) (by omega) (by omega) (by omega) _ _ rfl rfl 0 (Hid.mk' he)
                  | some m => exact g_some w k hk0 g o _ hy _ hy1 _ cap hl1 hc hcm hl4 hl5 hl6 (by omega) (by omega) (by omega) (by omega) _ _ rfl rfl m (Hid.mk' he)
end Go.Proofs.Ytcbjkamjkaiofaa.C17

/- The document's korean of layer 21, whole. -/
import Derived.Test.YtdobjijebalkkaaIK021
import Derived.Test.YtdobjijebalkkaaIK121
import Derived.Test.YtdobjijebalkkaaIK221
import Derived.Test.YtdobjijebalkkaaIA21
namespace Go.Proofs.Ytdobjijebalkkaa.C21
open Go.ChangeShapes Go.WideShapes Go.ChangeAt Go.RowKit Go.Proofs.Ytdobjijebalkkaa.Mem Go.Proofs.Ytdobjijebalkkaa.Cb Go.Proofs.Ytdobjijebalkkaa.Sp
set_option linter.unusedVariables false
set_option linter.unusedSimpArgs false

theorem korean_0 (g o cap : Nat) (b : UInt8) (r L : List UInt8) (hL : L = b :: r) (w : World) (hB : Bytes w (some ⟨g, o, none⟩) L) (hc : L.length ≤ cap) (hcm : cap ≤ 9223372036854775807) : Calls Try.prog 26 #[stV 0 0 0 0, .slice (some ⟨g, o, none⟩) L.length cap] w fun e w' => e = .returned (gotV (gK 0 L)) ∧ w.grownBy w' none := by
  have hb := b.toNat_lt
  have hl1 : 0 < L.length := by rw [hL]; simp
  have hyc : Hid (∀ wx, w.grownBy wx none → (convert 25 9 (.slice (some ⟨g, o, none⟩) L.length cap)).run Try.prog wx = .ok (.string (str L)) wx) := Hid.mk' (fun wx hg => conv (hB.kept0 hg) 25 9 cap Try.underlying25 Try.underlying5 Try.underlying9)
  have hy0 : Hid (∀ wx, w.grownBy wx none → wx.cell? ⟨g, o, none⟩ = some (.int .u8 (b.toNat : Int))) := Hid.mk' (fun wx hg => by
    have h2 := hB
    rw [hL] at h2
    obtain ⟨g2, o2, e, hy⟩ := first_cell h2
    cases e
    exact hy wx hg)
  have hBP : Hid (∀ wx, w.grownBy wx none → Bytes wx (some ⟨g, o, none⟩) (b :: r)) := Hid.mk' (fun wx hg => by rw [← hL]; exact hB.kept0 hg)
  have hLl : (b :: r).length = L.length := by rw [hL]
  have hG : gK 0 L = (if bgn L hd = true then (0, 4, 0, 0, ((max 1 0 : Nat) : Int)) else if L.length < 4 ∧ bgn hd L = true then (1, 0, 0, 0, 0) else kC 0 b.toNat r) := by subst hL; rfl
  rw [hG]
  cases h1 : bgn L hd with
  | true =>
    rw [if_pos rfl]
    exact k_head0 w g o _ cap _ hl1 hc hcm hyc (Hid.mk' (fun wx => beginsRef L hd true (Hid.mk' h1) (by decide) wx))
  | false =>
    have aB1 : Hid (∀ wx, Calls Try.prog 41 #[.string (str L), .string ⟨#[27, 36, 41, 67]⟩] wx fun e w' => e = .returned (.bool false) ∧ wx.grownBy w' none) := Hid.mk' (fun wx => beginsRef L hd false (Hid.mk' h1) (by decide) wx)
    rw [if_neg (by simp)]
    by_cases h2 : L.length < 4 ∧ bgn hd L = true
    · rw [if_pos h2]
      exact k_more0 w g o _ cap _ hl1 hc hcm hyc h2.1 aB1 (Hid.mk' (fun wx => beginsRef hd L true (Hid.mk' h2.2) (by omega) wx))
    · rw [if_neg h2]
      have aB2 : L.length < 4 → Hid (∀ wx, Calls Try.prog 41 #[.string ⟨#[27, 36, 41, 67]⟩, .string (str L)] wx fun e w' => e = .returned (.bool false) ∧ wx.grownBy w' none) := fun h4 => Hid.mk' (fun wx => beginsRef hd L false (Hid.mk' (by cases h5 : bgn hd L with | false => rfl | true => exact absurd ⟨h4, h5⟩ h2)) (by omega) wx)
      clear hG h2 hB
      unfold kC
      by_cases h27 : b.toNat = 27
      · rw [if_pos (.inl h27)]
        exact (if h4 : L.length < 4 then k_i270b w g o _ cap _ hl1 hc hcm hyc _ h27 hy0 aB1 h4 (aB2 h4) else k_i270a w g o _ cap _ hl1 hc hcm hyc _ h27 hy0 aB1 h4)
      · by_cases h8 : 128 ≤ b.toNat
        · rw [if_pos (.inr (.inl h8))]
          exact (if h4 : L.length < 4 then k_i80b w g o _ cap _ hl1 hc hcm hyc _ h8 hy0 aB1 h4 (aB2 h4) else k_i80a w g o _ cap _ hl1 hc hcm hyc _ h8 hy0 aB1 h4)
        · by_cases h14 : b.toNat = 14
          · rw [if_pos (.inr (.inr ⟨rfl, .inl h14⟩))]
            exact (if h4 : L.length < 4 then k_i140b w g o _ cap _ hl1 hc hcm hyc _ h14 hy0 aB1 h4 (aB2 h4) else k_i140a w g o _ cap _ hl1 hc hcm hyc _ h14 hy0 aB1 h4)
          · by_cases h15 : b.toNat = 15
            · rw [if_pos (.inr (.inr ⟨rfl, .inr h15⟩))]
              exact (if h4 : L.length < 4 then k_i150b w g o _ cap _ hl1 hc hcm hyc _ h15 hy0 aB1 h4 (aB2 h4) else k_i150a w g o _ cap _ hl1 hc hcm hyc _ h15 hy0 aB1 h4)
            · rw [if_neg (by omega), if_pos rfl]
              exact (if h4 : L.length < 4 then k_ch0b w g o _ cap _ hl1 hc hcm hyc _ h27 (by omega) h14 h15 hy0 aB1 h4 (aB2 h4) else k_ch0a w g o _ cap _ hl1 hc hcm hyc _ h27 (by omega) h14 h15 hy0 aB1 h4)
theorem korean_1 (g o cap : Nat) (b : UInt8) (r L : List UInt8) (hL : L = b :: r) (w : World) (hB : Bytes w (some ⟨g, o, none⟩) L) (hc : L.length ≤ cap) (hcm : cap ≤ 9223372036854775807) : Calls Try.prog 26 #[stV 1 0 0 0, .slice (some ⟨g, o, none⟩) L.length cap] w fun e w' => e = .returned (gotV (gK 1 L)) ∧ w.grownBy w' none := by
  have hb := b.toNat_lt
  have hl1 : 0 < L.length := by rw [hL]; simp
  have hyc : Hid (∀ wx, w.grownBy wx none → (convert 25 9 (.slice (some ⟨g, o, none⟩) L.length cap)).run Try.prog wx = .ok (.string (str L)) wx) := Hid.mk' (fun wx hg => conv (hB.kept0 hg) 25 9 cap Try.underlying25 Try.underlying5 Try.underlying9)
  have hy0 : Hid (∀ wx, w.grownBy wx none → wx.cell? ⟨g, o, none⟩ = some (.int .u8 (b.toNat : Int))) := Hid.mk' (fun wx hg => by
    have h2 := hB
    rw [hL] at h2
    obtain ⟨g2, o2, e, hy⟩ := first_cell h2
    cases e
    exact hy wx hg)
  have hBP : Hid (∀ wx, w.grownBy wx none → Bytes wx (some ⟨g, o, none⟩) (b :: r)) := Hid.mk' (fun wx hg => by rw [← hL]; exact hB.kept0 hg)
  have hLl : (b :: r).length = L.length := by rw [hL]
  have hG : gK 1 L = (if bgn L hd = true then (0, 4, 0, 0, ((max 1 1 : Nat) : Int)) else if L.length < 4 ∧ bgn hd L = true then (1, 0, 0, 0, 0) else kC 1 b.toNat r) := by subst hL; rfl
  rw [hG]
  cases h1 : bgn L hd with
  | true =>
    rw [if_pos rfl]
    exact k_head1 w g o _ cap _ hl1 hc hcm hyc (Hid.mk' (fun wx => beginsRef L hd true (Hid.mk' h1) (by decide) wx))
  | false =>
    have aB1 : Hid (∀ wx, Calls Try.prog 41 #[.string (str L), .string ⟨#[27, 36, 41, 67]⟩] wx fun e w' => e = .returned (.bool false) ∧ wx.grownBy w' none) := Hid.mk' (fun wx => beginsRef L hd false (Hid.mk' h1) (by decide) wx)
    rw [if_neg (by simp)]
    by_cases h2 : L.length < 4 ∧ bgn hd L = true
    · rw [if_pos h2]
      exact k_more1 w g o _ cap _ hl1 hc hcm hyc h2.1 aB1 (Hid.mk' (fun wx => beginsRef hd L true (Hid.mk' h2.2) (by omega) wx))
    · rw [if_neg h2]
      have aB2 : L.length < 4 → Hid (∀ wx, Calls Try.prog 41 #[.string ⟨#[27, 36, 41, 67]⟩, .string (str L)] wx fun e w' => e = .returned (.bool false) ∧ wx.grownBy w' none) := fun h4 => Hid.mk' (fun wx => beginsRef hd L false (Hid.mk' (by cases h5 : bgn hd L with | false => rfl | true => exact absurd ⟨h4, h5⟩ h2)) (by omega) wx)
      clear hG h2 hB
      unfold kC
      by_cases h27 : b.toNat = 27
      · rw [if_pos (.inl h27)]
        exact (if h4 : L.length < 4 then k_i271b w g o _ cap _ hl1 hc hcm hyc _ h27 hy0 aB1 h4 (aB2 h4) else k_i271a w g o _ cap _ hl1 hc hcm hyc _ h27 hy0 aB1 h4)
      · by_cases h8 : 128 ≤ b.toNat
        · rw [if_pos (.inr (.inl h8))]
          exact (if h4 : L.length < 4 then k_i81b w g o _ cap _ hl1 hc hcm hyc _ h8 hy0 aB1 h4 (aB2 h4) else k_i81a w g o _ cap _ hl1 hc hcm hyc _ h8 hy0 aB1 h4)
        · by_cases h14 : b.toNat = 14
          · rw [if_neg (by omega), if_neg (by omega), if_pos h14]
            exact (if h4 : L.length < 4 then k_s141b w g o _ cap _ hl1 hc hcm hyc _ h14 hy0 aB1 h4 (aB2 h4) else k_s141a w g o _ cap _ hl1 hc hcm hyc _ h14 hy0 aB1 h4)
          · by_cases h15 : b.toNat = 15
            · rw [if_neg (by omega), if_neg (by omega), if_neg h14, if_pos h15]
              exact (if h4 : L.length < 4 then k_s151b w g o _ cap _ hl1 hc hcm hyc _ h15 hy0 aB1 h4 (aB2 h4) else k_s151a w g o _ cap _ hl1 hc hcm hyc _ h15 hy0 aB1 h4)
            · rw [if_neg (by omega), if_neg (by omega), if_neg h14, if_neg h15, if_pos (.inl rfl)]
              exact (if h4 : L.length < 4 then k_ch1b w g o _ cap _ hl1 hc hcm hyc _ h27 (by omega) h14 h15 hy0 aB1 h4 (aB2 h4) else k_ch1a w g o _ cap _ hl1 hc hcm hyc _ h27 (by omega) h14 h15 hy0 aB1 h4)
theorem korean_2 (g o cap : Nat) (b : UInt8) (r L : List UInt8) (hL : L = b :: r) (w : World) (hB : Bytes w (some ⟨g, o, none⟩) L) (hc : L.length ≤ cap) (hcm : cap ≤ 9223372036854775807) : Calls Try.prog 26 #[stV 2 0 0 0, .slice (some ⟨g, o, none⟩) L.length cap] w fun e w' => e = .returned (gotV (gK 2 L)) ∧ w.grownBy w' none := by
  have hb := b.toNat_lt
  have hl1 : 0 < L.length := by rw [hL]; simp
  have hyc : Hid (∀ wx, w.grownBy wx none → (convert 25 9 (.slice (some ⟨g, o, none⟩) L.length cap)).run Try.prog wx = .ok (.string (str L)) wx) := Hid.mk' (fun wx hg => conv (hB.kept0 hg) 25 9 cap Try.underlying25 Try.underlying5 Try.underlying9)
  have hy0 : Hid (∀ wx, w.grownBy wx none → wx.cell? ⟨g, o, none⟩ = some (.int .u8 (b.toNat : Int))) := Hid.mk' (fun wx hg => by
    have h2 := hB
    rw [hL] at h2
    obtain ⟨g2, o2, e, hy⟩ := first_cell h2
    cases e
    exact hy wx hg)
  have hBP : Hid (∀ wx, w.grownBy wx none → Bytes wx (some ⟨g, o, none⟩) (b :: r)) := Hid.mk' (fun wx hg => by rw [← hL]; exact hB.kept0 hg)
  have hLl : (b :: r).length = L.length := by rw [hL]
  have hG : gK 2 L = (if bgn L hd = true then (0, 4, 0, 0, ((max 1 2 : Nat) : Int)) else if L.length < 4 ∧ bgn hd L = true then (1, 0, 0, 0, 0) else kC 2 b.toNat r) := by subst hL; rfl
  rw [hG]
  cases h1 : bgn L hd with
  | true =>
    rw [if_pos rfl]
    exact k_head2 w g o _ cap _ hl1 hc hcm hyc (Hid.mk' (fun wx => beginsRef L hd true (Hid.mk' h1) (by decide) wx))
  | false =>
    have aB1 : Hid (∀ wx, Calls Try.prog 41 #[.string (str L), .string ⟨#[27, 36, 41, 67]⟩] wx fun e w' => e = .returned (.bool false) ∧ wx.grownBy w' none) := Hid.mk' (fun wx => beginsRef L hd false (Hid.mk' h1) (by decide) wx)
    rw [if_neg (by simp)]
    by_cases h2 : L.length < 4 ∧ bgn hd L = true
    · rw [if_pos h2]
      exact k_more2 w g o _ cap _ hl1 hc hcm hyc h2.1 aB1 (Hid.mk' (fun wx => beginsRef hd L true (Hid.mk' h2.2) (by omega) wx))
    · rw [if_neg h2]
      have aB2 : L.length < 4 → Hid (∀ wx, Calls Try.prog 41 #[.string ⟨#[27, 36, 41, 67]⟩, .string (str L)] wx fun e w' => e = .returned (.bool false) ∧ wx.grownBy w' none) := fun h4 => Hid.mk' (fun wx => beginsRef hd L false (Hid.mk' (by cases h5 : bgn hd L with | false => rfl | true => exact absurd ⟨h4, h5⟩ h2)) (by omega) wx)
      clear hG h2 hB
      unfold kC
      by_cases h27 : b.toNat = 27
      · rw [if_pos (.inl h27)]
        exact (if h4 : L.length < 4 then k_i272b w g o _ cap _ hl1 hc hcm hyc _ h27 hy0 aB1 h4 (aB2 h4) else k_i272a w g o _ cap _ hl1 hc hcm hyc _ h27 hy0 aB1 h4)
      · by_cases h8 : 128 ≤ b.toNat
        · rw [if_pos (.inr (.inl h8))]
          exact (if h4 : L.length < 4 then k_i82b w g o _ cap _ hl1 hc hcm hyc _ h8 hy0 aB1 h4 (aB2 h4) else k_i82a w g o _ cap _ hl1 hc hcm hyc _ h8 hy0 aB1 h4)
        · by_cases h14 : b.toNat = 14
          · rw [if_neg (by omega), if_neg (by omega), if_pos h14]
            exact (if h4 : L.length < 4 then k_s142b w g o _ cap _ hl1 hc hcm hyc _ h14 hy0 aB1 h4 (aB2 h4) else k_s142a w g o _ cap _ hl1 hc hcm hyc _ h14 hy0 aB1 h4)
          · by_cases h15 : b.toNat = 15
            · rw [if_neg (by omega), if_neg (by omega), if_neg h14, if_pos h15]
              exact (if h4 : L.length < 4 then k_s152b w g o _ cap _ hl1 hc hcm hyc _ h15 hy0 aB1 h4 (aB2 h4) else k_s152a w g o _ cap _ hl1 hc hcm hyc _ h15 hy0 aB1 h4)
            · rw [if_neg (by omega), if_neg (by omega), if_neg h14, if_neg h15]
              by_cases h32 : b.toNat ≤ 32
              · rw [if_pos (.inr (.inl h32))]
                exact (if h4 : L.length < 4 then k_lo2b w g o _ cap _ hl1 hc hcm hyc _ h27 (by omega) h14 h15 h32 hy0 aB1 h4 (aB2 h4) else k_lo2a w g o _ cap _ hl1 hc hcm hyc _ h27 (by omega) h14 h15 h32 hy0 aB1 h4)
              · by_cases h127 : b.toNat = 127
                · rw [if_pos (.inr (.inr h127))]
                  exact (if h4 : L.length < 4 then k_del2b w g o _ cap _ hl1 hc hcm hyc _ h127 hy0 aB1 h4 (aB2 h4) else k_del2a w g o _ cap _ hl1 hc hcm hyc _ h127 hy0 aB1 h4)
                · rw [if_neg (by omega)]
                  have aP := Hid.mk' (fun (wx : World) (hg : w.grownBy wx none) => pairRef 88 (.inr rfl) 2 (some ⟨g, o, none⟩) cap b r L.length hLl wx (hBP.out wx hg) hc hcm)
                  exact (if h4 : L.length < 4 then k_pr2b w g o _ cap _ hl1 hc hcm hyc _ h27 (by omega) h14 h15 (by omega) h127 _ _ _ _ _ aP hy0 aB1 h4 (aB2 h4) else k_pr2a w g o _ cap _ hl1 hc hcm hyc _ h27 (by omega) h14 h15 (by omega) h127 _ _ _ _ _ aP hy0 aB1 h4)
end Go.Proofs.Ytdobjijebalkkaa.C21

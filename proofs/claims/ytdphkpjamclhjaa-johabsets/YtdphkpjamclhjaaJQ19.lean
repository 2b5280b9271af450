/- The program's Get and Set of layer 19, whole; the contracts. -/
import Derived.Test.YtdphkpjamclhjaaJO19
namespace Go.Proofs.Ytdphkpjamclhjaa.C19
open Go.ChangeShapes Go.WideShapes Go.ChangeAt Go.RowKit Go.Proofs.Ytdphkpjamclhjaa.Mem Go.Proofs.Ytdphkpjamclhjaa.Cb Go.Proofs.Ytdphkpjamclhjaa.Sp
set_option linter.unusedVariables false
set_option linter.unusedSimpArgs false

theorem set_any (u : Int) (w : World) : Calls Try.prog 11 #[.int .i32 u] w fun e w' => e = .returned (putV (sE u)) ∧ w.grownBy w' none := by
  unfold sE
  by_cases h1 : u = 8361
  · subst h1
    exact ps_won w
  · rw [if_neg h1]
    by_cases h2 : u = 92
    · subst h2
      rw [if_neg (by omega), if_neg (by unfold C16.InS; omega)]
      exact ps_back w
    · by_cases h3 : 0 ≤ u ∧ u < 128
      · rw [if_pos ⟨h3.1, h3.2, h2⟩]
        obtain ⟨b, rfl⟩ : ∃ b : Nat, u = (b : Int) := ⟨u.toNat, by omega⟩
        rw [Int.toNat_natCast]
        exact ps_low b (by omega) (by omega) w
      · rw [if_neg (fun h => h3 ⟨h.1, h.2.1⟩)]
        by_cases hS : C16.InS u
        · rw [if_pos hS]
          have hS2 := hS
          unfold C16.InS at hS2
          obtain ⟨n, hn⟩ : ∃ n : Nat, u - 44032 = (n : Int) := ⟨(u - 44032).toNat, by omega⟩
          have hn1 : n ≤ 11171 := by omega
          rw [hn, Int.toNat_natCast]
          obtain ⟨k1, k2, _⟩ := cdN_is hn1
          have hK : pkT ((n / 588 : Nat) : Int) ((n % 588 / 28 : Nat) : Int) ((n % 28 : Nat) : Int) = ((cdN n : Int), true) := by
            unfold pkT
            rw [if_pos (nat_in3 (by omega) (by omega) (by omega))]
            simp only [Int.toNat_natCast]
            rfl
          refine ps_syl u h1 h2 (by omega) hS _ _ _ (Hid.mk' ⟨?_, ?_, ?_⟩) (cdN n) (Hid.mk' hK) (cdN n / 256) (cdN n / 256) (cdN n % 256) (by omega) ?_ ?_ (by omega) (by omega) w
          · rw [hn]; omega
          · rw [hn]; omega
          · rw [hn]; omega
          · rw [IntKind.wrap_u8]; omega
          · rw [IntKind.wrap_u8]; omega
        · rw [if_neg hS]
          by_cases h4 : u < 0
          · exact ps_nonea u h1 h2 h4 hS w
          · exact ps_noneb u h1 h2 (by omega) hS w
theorem pair_any (b c : UInt8) (w : World) : Hid (∀ w1, w.grownBy w1 none → Calls Try.prog 19 #[.int .u8 (b.toNat : Int), .int .u8 (c.toNat : Int)] w1 fun e w2 => e = .returned (gotV (gE2 b.toNat c.toNat)) ∧ w1.grownBy w2 none) := Hid.mk' (fun w1 _ => by
  have hb := b.toNat_lt
  have hc := c.toNat_lt
  have o1 : bits .or .i64 ((b.toNat * 256 : Nat) : Int) (c.toNat : Int) = ((b.toNat * 256 + c.toNat : Nat) : Int) := or_64 8 _ _ (by omega) (by omega) (by omega) (by omega)
  unfold gE2
  cases e : upT ((b.toNat * 256 + c.toNat : Nat) : Int) with
  | mk x q =>
  obtain ⟨y, z, ok⟩ := q
  cases ok with
  | false => exact pp_no w1 _ _ (b.toNat * 256) _ hb hc (by omega) o1 x y z (Hid.mk' e)
  | true =>
    obtain ⟨a, m, d, rfl, rfl, rfl, k1, k2, k3, _⟩ := of_up e
    exact pp_yes w1 _ _ (b.toNat * 256) _ hb hc (by omega) o1 _ _ _ _ (Hid.mk' e) (nat_in3 k1 k2 k3) (Hid.mk' rfl))
theorem get_any (ao : Option Addr) (cap : Nat) (L : List UInt8) (n : Nat) (hn : L.length = n) (w : World) (hB : Bytes w ao L) (hc : n ≤ cap) (hcm : cap ≤ 9223372036854775807) : Calls Try.prog 9 #[.slice ao n cap] w fun e w' => e = .returned (gotV (gE L)) ∧ w.grownBy w' none := by
  subst hn
  cases L with
  | nil => exact pg_more w ao cap
  | cons b r =>
    have hB0 := hB
    obtain ⟨g, o, rfl, hy0⟩ := first_cell hB
    have hb := b.toNat_lt
    have hl1 : 0 < (b :: r).length := by simp
    have hl4 : (((b :: r).length : Int) == 0) = false := by simp; omega
    unfold gE
    simp only
    by_cases h92 : b.toNat = 92
    · rw [if_pos h92]
      rw [h92] at hy0
      exact pg_won w g o (Hid.mk' hy0) _ cap hc hcm hl1 hl4
    · rw [if_neg h92]
      have hy := Hid.mk' hy0
      by_cases h128 : b.toNat < 128
      · rw [if_pos h128]
        exact pg_low w g o _ hy _ cap hc hcm hl1 hl4 h128 h92
      · rw [if_neg h128]
        cases hH : bgR b.toNat with
        | false =>
          rw [if_pos rfl]
          exact pg_bad w g o _ hy _ cap hc hcm hl1 hl4 (by omega) hb (Hid.mk' hH)
        | true =>
          rw [if_neg (by simp)]
          cases r with
          | nil => exact pg_one w g o _ hy cap hc hcm (by omega) hb (Hid.mk' hH)
          | cons c r =>
            have hy1 := second_cell hB0
            have hl5 : (((b :: c :: r).length : Int) == 1) = false := by simp; omega
            exact pg_pair w g o _ hy _ (Hid.mk' hy1) _ cap hc hcm (by simp) hl4 hl5 (by omega) hb (Hid.mk' hH) _ _ _ _ (pair_any b c w)
theorem con : Con (fun _ => True) where
  keep _ _ := trivial
  get ao cap L n hn w hB hc hcm _ := get_any ao cap L n hn w hB hc hcm
  set u hu w _ := set_any u w
  pack f m l hf hm hl c ok hP w _ := pPack f m l c ok hP w
  unpack c hc x y z ok hU w _ := pUnpack c x y z ok hU w
end Go.Proofs.Ytdphkpjamclhjaa.C19

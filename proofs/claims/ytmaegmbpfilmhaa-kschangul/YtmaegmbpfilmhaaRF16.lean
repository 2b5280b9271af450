/- KscRows: the walk. -/
import Derived.Test.YtmaegmbpfilmhaaRE16
namespace Go.Proofs.Ytmaegmbpfilmhaa.C16
open Go.ChangeShapes Go.WideShapes Go.ChangeAt Go.RowKit Go.Proofs.Ytmaegmbpfilmhaa.Mem Go.Proofs.Ytmaegmbpfilmhaa.El Go.Proofs.Ytmaegmbpfilmhaa.Ru
set_option linter.unusedVariables false
set_option linter.unusedSimpArgs false

theorem flat_step {w wx : World} {ro so : Option Addr} {rc : Nat} {L F : List Int} (hA : RuE.Own wx ro rc L) (hB : RuE.Rd wx so F) (hG : w.grownBy wx none) (i : Nat) (hiL : i < L.length) (hne : ∀ g, blk ro = some g → w.heap.size ≤ g ∧ (blk so = none ∨ blk so ≠ some g)) :
    ∃ (g : Nat) (z : Int), ro = some ⟨g, 0, none⟩ ∧ (∀ j, wx.frozen? ⟨g, j, none⟩ = false) ∧ wx.cell? ⟨g, i, none⟩ = some (.int .i32 z) ∧ Hid (RuE.Own (wx.setCell ⟨g, i, none⟩ (.int .i32 7)) (some ⟨g, 0, none⟩) rc (L.set i 7)) ∧ Hid (RuE.Rd (wx.setCell ⟨g, i, none⟩ (.int .i32 7)) so F) ∧ Hid (w.grownBy (wx.setCell ⟨g, i, none⟩ (.int .i32 7)) none) := by
  obtain ⟨g, hro, hgl, fz, hc⟩ := hA.at (List.ne_nil_of_length_pos (by omega))
  subst hro
  obtain ⟨hgw, hso⟩ := hne g rfl
  have e : i * RuE.size + 0 = i := Nat.mul_one i
  refine ⟨g, L[i], rfl, fz, ?_, Hid.mk' ?_, Hid.mk' (hB.kept (grownBy_setCell _ _ _) hso), Hid.mk' (gs hgw hG)⟩
  · have := hc i hiL 0 (.int .i32 L[i]) rfl
    rwa [e] at this
  · have := hA.set i hiL 0 (by decide) (.int .i32 7) 7 rfl
    rwa [e] at this

set_option maxRecDepth 100000 in
set_option maxHeartbeats 1000000 in
theorem rows_walk {P : World → Prop} (C : Con P) (k : Int) (hk : I64 k) (w : World) (hw : P w) : Calls Try.prog 4 #[.int .i64 k] w fun e w' => e = .returned (.bool true) ∧ w.grownBy w' none := by
  obtain ⟨F, hF⟩ : ∃ F, Hid (rowR k = F) := ⟨_, Hid.mk' rfl⟩
  obtain ⟨n, hn⟩ : ∃ n, F.length = n := ⟨_, rfl⟩
  have a1 := Hid.mk' (fun w hw => C.row k hk w F hF hw)
  have a2 := Hid.mk' (fun w => refRow_any k w F hF)
  rw [hn] at a1 a2
  have hn0 := Hid.mk' hn
  have hq := Hid.mk' hw
  have K := Hid.mk' (fun (a b : World) (h : P a) (g : a.grownBy b none) => C.keep h g)
  clear hF hk hw C hn
  go_enter Try.func4, Try.ntmps4
  go_upto_region 2 with (first
    | (go_at_call 12; refine (a1.out _ hq.out).mono ?_; rintro e w1 ⟨ro, rc, rfl, hO1, hg1, hb1⟩)
    | (go_at_call 13; refine (a2.out _).mono ?_; rintro e w2 ⟨so, sc, rfl, hO2, hg2, hb2⟩))
  have hc1 : n ≤ rc := by have := hO1.cap_le; rw [hn0.out] at this; exact this
  have hc2 : n ≤ sc := by have := hO2.cap_le; rw [hn0.out] at this; exact this
  have hm1 := hO1.cap_max
  have hm2 := hO2.cap_max
  have hA := Hid.mk' (hO1.kept0 hg2)
  have hB := Hid.mk' hO2.rd
  have hne : Hid (∀ g, blk ro = some g → w.heap.size ≤ g ∧ (blk so = none ∨ blk so ≠ some g)) := Hid.mk' (fun g e => ⟨hb1 g e, by
    by_cases e2 : blk so = some g
    · have h1 := hO1.lt e
      have h2 := hb2 g e2
      omega
    · exact .inr e2⟩)
  have hG := Hid.mk' (gt hg1 hg2)
  clear hO1 hO2 hg1 hg2 hb1 hb2
  go_wp2_with (go_at_call 14; refine (same_runes ro so rc sc F n hn0.out _ hA.out.rd hB.out hc1 hm1 hc2 hm2).mono ?_; rintro e w3 ⟨rfl, hg3⟩)
  have hA3 := Hid.mk' (hA.out.kept0 hg3)
  have hB3 := Hid.mk' (hB.out.kept0 hg3)
  have hG3 := Hid.mk' (gt hG.out hg3)
  clear hA hB hG hg3
  go_loopw [5] (fun t5 wx => ∃ (i : Nat) (L : List Int), i ≤ n ∧ t5 = .int .i64 (i : Int) ∧ Hid (L.length = n) ∧ Hid (RuE.Own wx ro rc L) ∧ Hid (RuE.Rd wx so F) ∧ Hid (w.grownBy wx none)) (fun t5 _ => n - (intOf t5).toNat)
  case atStart => exact ⟨0, F, by omega, rfl, hn0, hA3, hB3, hG3⟩
  case round =>
    obtain ⟨i, L, hi, rfl, hL, hA, hB, hG⟩ := hrel
    by_cases hlt : i < n
    · have hiL : i < L.length := by rw [hL.out]; exact hlt
      obtain ⟨g, z, hro, fz, x0, hA', hB', hG'⟩ := flat_step hA.out hB.out hG.out i hiL hne.out
      subst hro
      have hlt' : (i : Int) < (n : Int) := by omega
      clear hA hB hG
      go_wp2
      go_roundw
      case rel => exact ⟨i + 1, L.set i 7, by omega, by go_num, Hid.mk' (by rw [List.length_set]; exact hL.out), hA', hB', hG'⟩
      case measure => simp [intOf]; omega
    · obtain rfl : i = n := by omega
      have hP := Hid.mk' (K.out _ _ hq.out hG.out)
      go_wp2_with (first
        | (go_at_call 12; refine (a1.out _ hP.out).mono ?_; rintro e w4 ⟨to, tc, rfl, hO4, hg4, hb4⟩; have hc4 : i ≤ tc := (by have := hO4.cap_le; rw [hn0.out] at this; exact this))
        | (go_at_call 14; refine (same_runes to so tc sc F i hn0.out _ hO4.rd (hB.out.kept0 hg4) hc4 hO4.cap_max hc2 hm2).mono ?_; rintro e w5 ⟨rfl, hg5⟩))
      go_ret
      exact ⟨rfl, gt (gt hG.out hg4) hg5⟩
end Go.Proofs.Ytmaegmbpfilmhaa.C16

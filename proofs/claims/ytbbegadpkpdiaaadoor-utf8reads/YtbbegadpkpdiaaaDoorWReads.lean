/- Utf8Reads: the walk. -/
import Derived.Test.YtbbegadpkpdiaaaDoorRefScalars
namespace Go.Proofs.YtbbegadpkpdiaaaDoor.U8
open Go.ChangeShapes Go.WideShapes Go.ChangeAt Go.RowKit Go.Proofs.YtbbegadpkpdiaaaDoor.Mem Go.Proofs.YtbbegadpkpdiaaaDoor.Ucs
set_option linter.unusedVariables false

theorem kept_runes {w w' : World} {ro : Option Addr} {l : List Int} (h : MemR.Bytes w ro l) (hg : w.grownBy w' none) : MemR.Bytes w' ro l := h.kept0 hg
set_option maxRecDepth 100000 in
set_option maxHeartbeats 2000000 in
theorem reads_walk (ao : Option Addr) (cap : Nat) (L : List UInt8) (w : World) (hF : Forms w) (hB : Bytes w ao L) (hc : L.length ≤ cap) (hcm : cap ≤ 140737488351232) :
    Calls Tryd.prog 5 #[.slice ao L.length cap] w fun e w' => e = .returned (.bool true) ∧ Below w.heap.size w w' := by
  by_cases hlen : 5000 < L.length
  · have hlen' : (5000 : Int) < (L.length : Int) := by omega
    go_enter Tryd.func5, Tryd.ntmps5
    go_wp2
    go_ret
    exact ⟨rfl, Below.refl _ _⟩
  · have hlen' : (L.length : Int) ≤ 5000 := by omega
    obtain ⟨U, N, E, hE⟩ : ∃ U N E, Hid (scanAll L = (U, N, E)) := ⟨_, _, _, rfl⟩
    have hsl := scan_le L.length L (Nat.le_refl _)
    rw [hE.out] at hsl
    have hUl : U.length ≤ 5000 := by have := hsl.2.1; simp only at this; omega
    have hB0 := Hid.mk' hB
    have hF0 := Hid.mk' hF
    have hn : Hid ((scanAll L).2.1 = N) := by refine (?_ : _ = _); rw [hE.out]
    have hE2 : Hid ((scanAll L).2.2 = E) := by refine (?_ : _ = _); rw [hE.out]
    clear hB hF hlen hsl
    by_cases he : E = 0
    · subst he
      have hok : Hid (decide ((scanAll L).2.2 = 0) = true) := by refine (?_ : _ = _); rw [hE.out]; rfl
      have hU : Hid (U = if (0 : Int) = 0 then (scanAll L).1 else []) := by refine (?_ : U = _); rw [if_pos rfl, hE.out]
      go_enter Tryd.func5, Tryd.ntmps5
      go_wp2_with (first | (go_at_call 13; refine (refscalars_any _ _ L _ hB0.out (by omega) hc (by omega) 0 N U hE).mono ?_; rintro e w1 ⟨r1, c1, rfl, m1, hg1⟩; have m1' := Hid.mk' m1; clear m1) | (go_at_call 14; refine (valid_any _ _ L _ (hF0.out.kept0 hg1) (hB0.out.kept0 hg1) (by omega) hc (by omega) N true hn hok).mono ?_; rintro e w2 ⟨rfl, hg2⟩) | (go_at_call 15; refine (scalars_any _ _ L _ ((hF0.out.kept0 hg1).kept0 hg2) ((hB0.out.kept0 hg1).kept0 hg2) (by omega) hc (by omega) 0 U hE2 hU).mono ?_; rintro e w3 ⟨r3, c3, rfl, m3, hg3⟩; have m3' := Hid.mk' m3; clear m3) | (go_at_call 16; refine (same_any _ _ _ _ _ (ints U) (by simp [ints]) (by omega) _ m3'.out (kept_runes (kept_runes m1'.out hg2) hg3)).mono ?_; rintro e w4 ⟨rfl, hg4⟩))
      go_ret
      exact ⟨rfl, (Below.refl _ w).grown (grownBy_trans (grownBy_trans hg1 hg2) (grownBy_trans hg3 hg4)) (Nat.le_refl _) (by simp)⟩
    · have hok : Hid (decide ((scanAll L).2.2 = 0) = false) := by refine (?_ : _ = _); rw [hE.out]; simpa using he
      have hU : Hid (([] : List Nat) = if E = 0 then (scanAll L).1 else []) := by refine (?_ : [] = _); rw [if_neg he]
      have he1 : (E == 0) = false := by simpa using he
      have he2 : (E != 0) = true := by simpa using he
      have m0 : Hid (∀ w : World, MemR.Bytes w none []) := (fun w => .inl ⟨rfl, rfl⟩ : ∀ w : World, MemR.Bytes w none [])
      go_enter Tryd.func5, Tryd.ntmps5
      go_wp2_with (first | (go_at_call 13; refine (refscalars_any _ _ L _ hB0.out (by omega) hc (by omega) E N U hE).mono ?_; rintro e w1 ⟨r1, c1, rfl, m1, hg1⟩; clear m1) | (go_at_call 14; refine (valid_any _ _ L _ (hF0.out.kept0 hg1) (hB0.out.kept0 hg1) (by omega) hc (by omega) N false hn hok).mono ?_; rintro e w2 ⟨rfl, hg2⟩) | (go_at_call 15; refine (scalars_any _ _ L _ ((hF0.out.kept0 hg1).kept0 hg2) ((hB0.out.kept0 hg1).kept0 hg2) (by omega) hc (by omega) E [] hE2 hU).mono ?_; rintro e w3 ⟨r3, c3, rfl, m3, hg3⟩; have m3' := Hid.mk' m3; clear m3) | (go_at_call 16; refine (same_any _ _ _ _ 0 [] rfl (by omega) _ m3'.out (m0.out _)).mono ?_; rintro e w4 ⟨rfl, hg4⟩))
      go_ret
      exact ⟨rfl, (Below.refl _ w).grown (grownBy_trans (grownBy_trans hg1 hg2) (grownBy_trans hg3 hg4)) (Nat.le_refl _) (by simp)⟩
end Go.Proofs.YtbbegadpkpdiaaaDoor.U8

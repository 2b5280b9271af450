/- The document's All of layer 22: a walk. -/
import Derived.Test.YtjhdepbiakekaaaTC22
import Derived.Test.YtjhdepbiakekaaaRu
namespace Go.Proofs.Ytjhdepbiakekaaa.C22
open Go.ChangeShapes Go.WideShapes Go.ChangeAt Go.RowKit Go.Proofs.Ytjhdepbiakekaaa.Mem Go.Proofs.Ytjhdepbiakekaaa.El Go.Proofs.Ytjhdepbiakekaaa.St Go.Proofs.Ytjhdepbiakekaaa.Ru
set_option linter.unusedVariables false
set_option linter.unusedSimpArgs false

def accL (i : Nat) : List Int := (allT.filter (fun n => decide (n < i))).map (fun n : Nat => (n : Int))
theorem filt_step : ∀ (L : List Nat) (i : Nat), L.Pairwise (· < ·) → L.filter (fun n => decide (n < i + 1)) = L.filter (fun n => decide (n < i)) ++ (if i ∈ L then [i] else [])
  | [], i, _ => by simp
  | a :: L, i, h => by
    obtain ⟨h1, h2⟩ := List.pairwise_cons.1 h
    have ih := filt_step L i h2
    by_cases ha : a < i
    · rw [List.filter_cons_of_pos (by simp; omega), List.filter_cons_of_pos (by simpa using ha), ih]
      by_cases hi : i ∈ L
      · rw [if_pos hi, if_pos (List.mem_cons_of_mem _ hi)]; rfl
      · rw [if_neg hi, if_neg (by intro h; rcases List.mem_cons.1 h with rfl | h; omega; exact hi h)]; rfl
    · have hn : ∀ j, j ≤ i + 1 → j ≤ a + 1 → L.filter (fun n => decide (n < j)) = [] := by
        intro j hj hj2
        rw [List.filter_eq_nil_iff]
        intro n hn2
        have := h1 n hn2
        simp; omega
      by_cases e : a = i
      · subst e
        rw [List.filter_cons_of_pos (by simp), List.filter_cons_of_neg (by simp), if_pos (by simp), hn a (by omega) (by omega), hn (a + 1) (by omega) (by omega)]
        rfl
      · rw [List.filter_cons_of_neg (by simp; omega), List.filter_cons_of_neg (by simpa using ha), hn i (by omega) (by omega), hn (i + 1) (by omega) (by omega), if_neg (by
          intro h
          rcases List.mem_cons.1 h with h | h
          · exact e h.symm
          · have := h1 i h; omega)]
        rfl
theorem acc_yes {i : Nat} (h : cands (i : Int) ≠ []) : accL i ++ [(i : Int)] = accL (i + 1) := by
  obtain ⟨n, hn, e⟩ := cands_all.1 h
  obtain rfl : n = i := by omega
  unfold accL
  rw [filt_step allT n allT_rise, if_pos hn, List.map_append]
  rfl
theorem acc_no {i : Nat} (h : cands (i : Int) = []) : accL (i + 1) = accL i := by
  unfold accL
  rw [filt_step allT i allT_rise, if_neg (fun hi => cands_all.2 ⟨i, hi, rfl⟩ h), List.append_nil]
theorem acc_zero : accL 0 = [] := by unfold accL; simp
/-- All as numbers. -/
def allI : List Int := allT.map (fun n : Nat => (n : Int))
theorem acc_all : accL 65536 = allI := by
  unfold accL allI
  rw [List.filter_eq_self.2 (fun n hn => by simpa using (allT_in n hn).1)]
theorem allI_len : allI.length = 212 := by unfold allI; rw [List.length_map, allT_len]
theorem acc_len (i : Nat) : (accL i).length ≤ 212 := by
  unfold accL
  rw [List.length_map, ← allT_len]
  exact List.length_filter_le _ _
theorem skip_none {i : Nat} (h : (511 < i ∧ i < 8192) ∨ (12544 ≤ i ∧ i < 64256)) : cands (i : Int) = [] := by
  apply Classical.byContradiction
  intro hc
  obtain ⟨n, hn, e⟩ := cands_all.1 hc
  obtain rfl : n = i := by omega
  have := allT_in n hn
  omega
set_option maxRecDepth 100000 in
set_option maxHeartbeats 1000000 in
theorem all_any (w : World) : Calls Try.prog 15 #[] w fun e w' => ∃ ao cap, e = .returned (.slice ao 212 cap) ∧ RuE.Own w' ao cap allI ∧ w.grownBy w' none ∧ ∀ g, blk ao = some g → w.heap.size ≤ g := by
  go_enter Try.func15, Try.ntmps15
  go_wp2
  go_loopw [1, 2] (fun t1 t2 wx => ∃ (i : Nat) (ao : Option Addr) (cap : Nat), i ≤ 65536 ∧ t2 = .int .i32 (i : Int) ∧ t1 = .slice ao (accL i).length cap ∧ Hid (RuE.Own wx ao cap (accL i)) ∧ Hid (∀ g, blk ao = some g → w.heap.size ≤ g) ∧ Hid (w.grownBy wx none)) (fun _ t2 _ => 65536 - (intOf t2).toNat)
  case atStart => exact ⟨0, none, 0, by omega, rfl, by rw [acc_zero]; rfl, Hid.mk' (by rw [acc_zero]; exact .inl ⟨rfl, rfl, rfl⟩), Hid.mk' (by simp [blk]), Hid.mk' (grownBy_refl _ _)⟩
  case round =>
    obtain ⟨i, ao, cap, hi, rfl, rfl, ho, hb, hG⟩ := hrel
    by_cases hlt : i < 65536
    · have hlt' : (i : Int) < 65536 := by omega
      have e0 : (i : Int) + 1 ≤ 2147483647 := by omega
      have hal := Hid.mk' (acc_len i)
      have hsp : Hid (((511 < i ∧ i < 8192) ∨ (12544 ≤ i ∧ i < 64256)) ∨ (i < 256 ∨ (256 ≤ i ∧ i ≤ 511) ∨ (8192 ≤ i ∧ i < 12544) ∨ 64256 ≤ i)) := Hid.mk' (by omega)
      obtain ⟨n, hC⟩ : ∃ n, Hid ((cands (i : Int)).length = n) := ⟨_, Hid.mk' rfl⟩
      have hcn : Hid (∀ w, Calls Try.prog 9 #[.int .i32 (i : Int)] w fun e w' => ∃ ao cap, e = .returned (.slice ao n cap) ∧ w.grownBy w' none) := Hid.mk' (fun w => (cand_any (i : Int) w).mono (fun e w' h => by
        obtain ⟨ao, cap, h1, h2, h3, h4⟩ := h
        rw [hC.out] at h1
        exact ⟨ao, cap, h1, h3⟩))
      obtain ⟨A, hA⟩ : ∃ A, Hid (accL i = A) := ⟨_, Hid.mk' rfl⟩
      obtain ⟨A2, hA2⟩ : ∃ A, Hid (accL (i + 1) = A) := ⟨_, Hid.mk' rfl⟩
      have hal2 : Hid (A.length ≤ 212) := Hid.mk' (by rw [← hA.out]; exact hal.out)
      have ho2 : Hid (RuE.Own wr ao cap A) := Hid.mk' (by rw [← hA.out]; exact ho.out)
      rw [hA.out]
      clear ho hal
      by_cases hs1 : 511 < i ∧ i < 8192
      · have f0 : decide (256 ≤ (i : Int)) = true := by simp; omega
        have f1 : decide ((i : Int) < 8192) = true := by simp; omega
        have f2 : decide (511 < (i : Int)) = true := by simp; omega
        have hno := Hid.mk' (skip_none (i := i) (by omega))
        clear hcn hC hs1
        go_wp2
        go_roundw
        case rel => exact ⟨i + 1, ao, cap, by omega, by go_num, by rw [acc_no hno.out, hA.out], Hid.mk' (by rw [acc_no hno.out, hA.out]; exact ho2.out), hb, hG⟩
        all_goals (simp [intOf]; omega)
      by_cases hs2 : 12544 ≤ i ∧ i < 64256
      · have f0 : decide (256 ≤ (i : Int)) = true := by simp; omega
        have f1 : decide ((i : Int) < 8192) = false := by simp; omega
        have f2 : decide (12544 ≤ (i : Int)) = true := by simp; omega
        have f3 : decide ((i : Int) < 64256) = true := by simp; omega
        have hno := Hid.mk' (skip_none (i := i) (by omega))
        clear hcn hC hs2
        go_wp2
        go_roundw
        case rel => exact ⟨i + 1, ao, cap, by omega, by go_num, by rw [acc_no hno.out, hA.out], Hid.mk' (by rw [acc_no hno.out, hA.out]; exact ho2.out), hb, hG⟩
        all_goals (simp [intOf]; omega)
      by_cases hk1 : i < 256
      · have f0 : decide (256 ≤ (i : Int)) = false := by simp; omega
        have f1 : decide (12544 ≤ (i : Int)) = false := by simp; omega
        clear hk1
        by_cases hc : n = 0
        · subst hc
          have hno : Hid (cands (i : Int) = []) := Hid.mk' (List.eq_nil_of_length_eq_zero hC.out)
          go_wp2_with (go_at_call 9; refine (hcn.out _).mono ?_; rintro e w1 ⟨a1, c1, rfl, g1⟩)
          go_roundw
          case rel => exact ⟨i + 1, ao, cap, by omega, by go_num, by rw [acc_no hno.out, hA.out], Hid.mk' (by rw [acc_no hno.out, hA.out]; exact ho2.out.kept0 g1), hb, Hid.mk' (gt hG.out g1)⟩
          all_goals (simp [intOf]; omega)
        · skip
          have hst : Hid (A ++ [(i : Int)] = A2) := Hid.mk' (by rw [← hA.out, ← hA2.out]; exact acc_yes (i := i) (by intro e; rw [e] at hC; exact hc hC.out.symm))
          have hA3 : Hid (A2 = accL (i + 1)) := Hid.mk' hA2.out.symm
          clear hC hA hA2
          obtain ⟨m, rfl⟩ : ∃ m, n = m + 1 := ⟨n - 1, by omega⟩
          clear hc
          go_wp2_with (first
            | (go_at_call 9; refine (hcn.out _).mono ?_; rintro e w1 ⟨a1, c1, rfl, g1⟩)
            | (at_builtin; refine wpList_rune _ rfl _ _ rfl ao cap A rfl ((ho2.out.kept0 g1).alloc _) _ rfl [(i : Int)] (src_rune1 _ _) (by have := hal2.out; simp; omega) A2 hst.out ?_; intro a2 c2 w2 o2 g2 f2))
          go_roundw
          case rel =>
            have q1 : w.grownBy (w1.alloc (.cells #[.int .i32 (i : Int)] 21)) none := gt hG.out (gt g1 (World.grownBy_alloc _ _ _))
            refine ⟨i + 1, a2, c2, by omega, by go_num, hA3.out ▸ rfl, Hid.mk' (hA3.out ▸ o2), Hid.mk' (fun g hg => ?_), Hid.mk' (grownBy_new q1 g2 (fun g hg => hb.out g hg))⟩
            rcases f2 with rfl | rfl
            · exact hb.out g hg
            · simp [blk] at hg; have := (gt hG.out g1).size; omega
          all_goals (simp [intOf]; omega)
      by_cases hk2 : 256 ≤ i ∧ i ≤ 511
      · have f0 : decide (256 ≤ (i : Int)) = true := by simp; omega
        have f1 : decide ((i : Int) < 8192) = true := by simp; omega
        have f2 : decide (511 < (i : Int)) = false := by simp; omega
        have f3 : decide (12544 ≤ (i : Int)) = false := by simp; omega
        clear hk2
        by_cases hc : n = 0
        · subst hc
          have hno : Hid (cands (i : Int) = []) := Hid.mk' (List.eq_nil_of_length_eq_zero hC.out)
          go_wp2_with (go_at_call 9; refine (hcn.out _).mono ?_; rintro e w1 ⟨a1, c1, rfl, g1⟩)
          go_roundw
          case rel => exact ⟨i + 1, ao, cap, by omega, by go_num, by rw [acc_no hno.out, hA.out], Hid.mk' (by rw [acc_no hno.out, hA.out]; exact ho2.out.kept0 g1), hb, Hid.mk' (gt hG.out g1)⟩
          all_goals (simp [intOf]; omega)
        · skip
          have hst : Hid (A ++ [(i : Int)] = A2) := Hid.mk' (by rw [← hA.out, ← hA2.out]; exact acc_yes (i := i) (by intro e; rw [e] at hC; exact hc hC.out.symm))
          have hA3 : Hid (A2 = accL (i + 1)) := Hid.mk' hA2.out.symm
          clear hC hA hA2
          obtain ⟨m, rfl⟩ : ∃ m, n = m + 1 := ⟨n - 1, by omega⟩
          clear hc
          go_wp2_with (first
            | (go_at_call 9; refine (hcn.out _).mono ?_; rintro e w1 ⟨a1, c1, rfl, g1⟩)
            | (at_builtin; refine wpList_rune _ rfl _ _ rfl ao cap A rfl ((ho2.out.kept0 g1).alloc _) _ rfl [(i : Int)] (src_rune1 _ _) (by have := hal2.out; simp; omega) A2 hst.out ?_; intro a2 c2 w2 o2 g2 f2))
          go_roundw
          case rel =>
            have q1 : w.grownBy (w1.alloc (.cells #[.int .i32 (i : Int)] 21)) none := gt hG.out (gt g1 (World.grownBy_alloc _ _ _))
            refine ⟨i + 1, a2, c2, by omega, by go_num, hA3.out ▸ rfl, Hid.mk' (hA3.out ▸ o2), Hid.mk' (fun g hg => ?_), Hid.mk' (grownBy_new q1 g2 (fun g hg => hb.out g hg))⟩
            rcases f2 with rfl | rfl
            · exact hb.out g hg
            · simp [blk] at hg; have := (gt hG.out g1).size; omega
          all_goals (simp [intOf]; omega)
      by_cases hk3 : 8192 ≤ i ∧ i < 12544
      · have f0 : decide (256 ≤ (i : Int)) = true := by simp; omega
        have f1 : decide ((i : Int) < 8192) = false := by simp; omega
        have f2 : decide (12544 ≤ (i : Int)) = false := by simp; omega
        clear hk3
        by_cases hc : n = 0
        · subst hc
          have hno : Hid (cands (i : Int) = []) := Hid.mk' (List.eq_nil_of_length_eq_zero hC.out)
          go_wp2_with (go_at_call 9; refine (hcn.out _).mono ?_; rintro e w1 ⟨a1, c1, rfl, g1⟩)
          go_roundw
          case rel => exact ⟨i + 1, ao, cap, by omega, by go_num, by rw [acc_no hno.out, hA.out], Hid.mk' (by rw [acc_no hno.out, hA.out]; exact ho2.out.kept0 g1), hb, Hid.mk' (gt hG.out g1)⟩
          all_goals (simp [intOf]; omega)
        · skip
          have hst : Hid (A ++ [(i : Int)] = A2) := Hid.mk' (by rw [← hA.out, ← hA2.out]; exact acc_yes (i := i) (by intro e; rw [e] at hC; exact hc hC.out.symm))
          have hA3 : Hid (A2 = accL (i + 1)) := Hid.mk' hA2.out.symm
          clear hC hA hA2
          obtain ⟨m, rfl⟩ : ∃ m, n = m + 1 := ⟨n - 1, by omega⟩
          clear hc
          go_wp2_with (first
            | (go_at_call 9; refine (hcn.out _).mono ?_; rintro e w1 ⟨a1, c1, rfl, g1⟩)
            | (at_builtin; refine wpList_rune _ rfl _ _ rfl ao cap A rfl ((ho2.out.kept0 g1).alloc _) _ rfl [(i : Int)] (src_rune1 _ _) (by have := hal2.out; simp; omega) A2 hst.out ?_; intro a2 c2 w2 o2 g2 f2))
          go_roundw
          case rel =>
            have q1 : w.grownBy (w1.alloc (.cells #[.int .i32 (i : Int)] 21)) none := gt hG.out (gt g1 (World.grownBy_alloc _ _ _))
            refine ⟨i + 1, a2, c2, by omega, by go_num, hA3.out ▸ rfl, Hid.mk' (hA3.out ▸ o2), Hid.mk' (fun g hg => ?_), Hid.mk' (grownBy_new q1 g2 (fun g hg => hb.out g hg))⟩
            rcases f2 with rfl | rfl
            · exact hb.out g hg
            · simp [blk] at hg; have := (gt hG.out g1).size; omega
          all_goals (simp [intOf]; omega)
      by_cases hk4 : 64256 ≤ i
      · have f0 : decide (256 ≤ (i : Int)) = true := by simp; omega
        have f1 : decide ((i : Int) < 8192) = false := by simp; omega
        have f2 : decide (12544 ≤ (i : Int)) = true := by simp; omega
        have f3 : decide ((i : Int) < 64256) = false := by simp; omega
        clear hk4
        by_cases hc : n = 0
        · subst hc
          have hno : Hid (cands (i : Int) = []) := Hid.mk' (List.eq_nil_of_length_eq_zero hC.out)
          go_wp2_with (go_at_call 9; refine (hcn.out _).mono ?_; rintro e w1 ⟨a1, c1, rfl, g1⟩)
          go_roundw
          case rel => exact ⟨i + 1, ao, cap, by omega, by go_num, by rw [acc_no hno.out, hA.out], Hid.mk' (by rw [acc_no hno.out, hA.out]; exact ho2.out.kept0 g1), hb, Hid.mk' (gt hG.out g1)⟩
          all_goals (simp [intOf]; omega)
        · skip
          have hst : Hid (A ++ [(i : Int)] = A2) := Hid.mk' (by rw [← hA.out, ← hA2.out]; exact acc_yes (i := i) (by intro e; rw [e] at hC; exact hc hC.out.symm))
          have hA3 : Hid (A2 = accL (i + 1)) := Hid.mk' hA2.out.symm
          clear hC hA hA2
          obtain ⟨m, rfl⟩ : ∃ m, n = m + 1 := ⟨n - 1, by omega⟩
          clear hc
          go_wp2_with (first
            | (go_at_call 9; refine (hcn.out _).mono ?_; rintro e w1 ⟨a1, c1, rfl, g1⟩)
            | (at_builtin; refine wpList_rune _ rfl _ _ rfl ao cap A rfl ((ho2.out.kept0 g1).alloc _) _ rfl [(i : Int)] (src_rune1 _ _) (by have := hal2.out; simp; omega) A2 hst.out ?_; intro a2 c2 w2 o2 g2 f2))
          go_roundw
          case rel =>
            have q1 : w.grownBy (w1.alloc (.cells #[.int .i32 (i : Int)] 21)) none := gt hG.out (gt g1 (World.grownBy_alloc _ _ _))
            refine ⟨i + 1, a2, c2, by omega, by go_num, hA3.out ▸ rfl, Hid.mk' (hA3.out ▸ o2), Hid.mk' (fun g hg => ?_), Hid.mk' (grownBy_new q1 g2 (fun g hg => hb.out g hg))⟩
            rcases f2 with rfl | rfl
            · exact hb.out g hg
            · simp [blk] at hg; have := (gt hG.out g1).size; omega
          all_goals (simp [intOf]; omega)
      exfalso
      omega
    · obtain rfl : i = 65536 := by omega
      have hl : (accL 65536).length = 212 := by rw [acc_all, allI_len]
      have ho2 := ho.out
      rw [acc_all] at ho2
      rw [hl]
      go_wp2
      go_ret
      exact ⟨ao, cap, rfl, ho2, hG.out, hb.out⟩
end Go.Proofs.Ytjhdepbiakekaaa.C22

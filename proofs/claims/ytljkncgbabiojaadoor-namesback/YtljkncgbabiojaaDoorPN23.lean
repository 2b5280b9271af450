/- The program's large and same of layer 23: walks. -/
import Derived.Test.YtljkncgbabiojaaDoorNL23
import Derived.Test.YtljkncgbabiojaaDoorRegion
import Derived.Deep.RegionHeld3
import Derived.BigQuiet
namespace Go.Proofs.YtljkncgbabiojaaDoor.C23
open Go.ChangeShapes Go.WideShapes Go.ChangeAt Go.RowKit Go.Proofs.YtljkncgbabiojaaDoor.Mem Go.Proofs.YtljkncgbabiojaaDoor.El Go.Proofs.YtljkncgbabiojaaDoor.St Go.Proofs.YtljkncgbabiojaaDoor.Ri Go.Proofs.YtljkncgbabiojaaDoor.Sx
set_option linter.unusedVariables false
set_option linter.unusedSimpArgs false

set_option maxRecDepth 100000 in
set_option maxHeartbeats 1000000 in
theorem pLarge (c : UInt8) (w : World) : Calls Tryd.prog 27 #[.int .u8 (c.toNat : Int)] w fun e w' => e = .returned (.int .u8 ((lg c).toNat : Int)) ∧ w' = w := by
  have hc := c.toNat_lt
  by_cases h : 97 ≤ c.toNat ∧ c.toNat ≤ 122
  · have hl : (lg c).toNat = c.toNat - 32 := by unfold lg; rw [if_pos h, UInt8.toNat_ofNat']; omega
    obtain ⟨n, hn⟩ : ∃ n, (lg c).toNat = n := ⟨_, rfl⟩
    rw [hn]
    obtain ⟨m, hm⟩ : ∃ m, c.toNat - 97 = m := ⟨_, rfl⟩
    generalize c.toNat = C at h hl hc hm ⊢
    have e1 : (C : Int) - 97 = (m : Int) := by omega
    have e2 : (m : Int) + 65 = (n : Int) := by omega
    have e3 : (n : Int) < 256 := by omega
    have e4 : (m : Int) < 256 := by omega
    have f1 : decide (97 ≤ (C : Int)) = true := by simp; omega
    have f2 : decide ((C : Int) ≤ 122) = true := by simp; omega
    have e5 : (97 : Int) ≤ (C : Int) := by omega
    have e6 : (C : Int) ≤ 122 := by omega
    clear hn hm hl h hc
    go_enter Tryd.func27, Tryd.ntmps27
    go_wp2
    go_ret
    exact ⟨rfl, rfl⟩
  · have hl : lg c = c := by unfold lg; rw [if_neg h]
    rw [hl]
    generalize c.toNat = C at h hc ⊢
    by_cases h1 : 97 ≤ C
    · have f1 : decide (97 ≤ (C : Int)) = true := by simp; omega
      have f2 : decide ((C : Int) ≤ 122) = false := by simp; omega
      have e5 : (97 : Int) ≤ (C : Int) := by omega
      have e6 : ¬ (C : Int) ≤ 122 := by omega
      clear hl h hc
      go_enter Tryd.func27, Tryd.ntmps27
      go_wp2
      go_ret
      exact ⟨rfl, rfl⟩
    · have f1 : decide (97 ≤ (C : Int)) = false := by simp; omega
      have e5 : ¬ (97 : Int) ≤ (C : Int) := by omega
      clear hl h hc
      go_enter Tryd.func27, Tryd.ntmps27
      go_wp2
      go_ret
      exact ⟨rfl, rfl⟩
theorem large_next (a b : List UInt8) (i : Nat) (ha : i < a.length) (hb : i < b.length) (h : large (a.take i) = large (b.take i)) (he : lg a[i] = lg b[i]) : large (a.take (i + 1)) = large (b.take (i + 1)) := by
  rw [← large_step a i ha, ← large_step b i hb, h, he]
theorem large_not (a b : List UInt8) (i : Nat) (ha : i < a.length) (hb : i < b.length) (he : ¬ lg a[i] = lg b[i]) : ¬ large a = large b := by
  intro h
  refine he ?_
  have h1 : (large a)[i]? = (large b)[i]? := by rw [h]
  unfold large at h1
  rw [List.getElem?_map, List.getElem?_map, List.getElem?_eq_getElem ha, List.getElem?_eq_getElem hb] at h1
  simpa using h1
set_option maxRecDepth 100000 in
set_option maxHeartbeats 2000000 in
theorem pSame (a b : List UInt8) (hla : a.length ≤ 140737488351232) (hlb : b.length ≤ 140737488351232) (R : Bool) (hR : Hid (decide (large a = large b) = R)) (w : World) : Calls Tryd.prog 17 #[.string (str a), .string (str b)] w fun e w' => e = .returned (.bool R) ∧ w.grownBy w' none := by
  obtain ⟨sa, hsa⟩ : ∃ x, Hid (str a = x) := ⟨_, Hid.mk' rfl⟩
  obtain ⟨sb, hsb⟩ : ∃ x, Hid (str b = x) := ⟨_, Hid.mk' rfl⟩
  obtain ⟨n, hn⟩ : ∃ n, Hid (a.length = n) := ⟨_, Hid.mk' rfl⟩
  obtain ⟨m, hm⟩ : ∃ n, Hid (b.length = n) := ⟨_, Hid.mk' rfl⟩
  have za : sa.size = n := by rw [← hsa.out, str_size, hn.out]
  have zb : sb.size = m := by rw [← hsb.out, str_size, hm.out]
  rw [hsa.out, hsb.out]
  rw [hn.out] at hla
  rw [hm.out] at hlb
  by_cases hnm : n = m
  · subst hnm
    go_enter Tryd.func17, Tryd.ntmps17
    go_wp2
    go_loopw [13] (fun t wx => ∃ i : Nat, i ≤ n ∧ t = .int .i64 (i : Int) ∧ Hid (large (a.take i) = large (b.take i)) ∧ Hid (w.grownBy wx none)) (fun t _ => n - (intOf t).toNat)
    case atStart => exact ⟨0, by omega, rfl, Hid.mk' rfl, Hid.mk' (grownBy_refl _ _)⟩
    case round =>
      obtain ⟨i, hi, rfl, hE, hgx⟩ := hrel
      by_cases hlt : i < n
      · have hlt' : (i : Int) < (n : Int) := by omega
        have hi0 : (0 : Int) ≤ (i : Int) := by omega
        have ia : i < a.length := by rw [hn.out]; exact hlt
        have ib : i < b.length := by rw [hm.out]; exact hlt
        obtain ⟨c, hc⟩ : ∃ c, Hid (a[i] = c) := ⟨_, Hid.mk' rfl⟩
        obtain ⟨d, hd⟩ : ∃ d, Hid (b[i] = d) := ⟨_, Hid.mk' rfl⟩
        have hixa : ∀ wx, (Instr.index 9 (.string sa) (.int .i64 (i : Int))).run Tryd.prog wx = .ok (.int .u8 (c.toNat : Int)) wx := fun wx => by rw [← hsa.out]; exact index_of (by rw [List.getElem?_eq_getElem ia, hc.out]) wx
        have hixb : ∀ wx, (Instr.index 9 (.string sb) (.int .i64 (i : Int))).run Tryd.prog wx = .ok (.int .u8 (d.toNat : Int)) wx := fun wx => by rw [← hsb.out]; exact index_of (by rw [List.getElem?_eq_getElem ib, hd.out]) wx
        have b1 := Hid.mk' (pLarge c)
        have b2 := Hid.mk' (pLarge d)
        obtain ⟨C, hC⟩ : ∃ C, Hid (((lg c).toNat : Int) = C) := ⟨_, Hid.mk' rfl⟩
        obtain ⟨D, hD⟩ : ∃ D, Hid (((lg d).toNat : Int) = D) := ⟨_, Hid.mk' rfl⟩
        rw [hC.out] at b1
        rw [hD.out] at b2
        have HY : Hid (C = D → large (a.take (i + 1)) = large (b.take (i + 1))) := Hid.mk' (fun e => large_next a b i ia ib hE.out (by rw [hc.out, hd.out]; rw [← hC.out, ← hD.out] at e; exact UInt8.toNat_inj.1 (by omega)))
        have HZ : Hid (¬ C = D → ¬ large a = large b) := Hid.mk' (fun e => large_not a b i ia ib (by rw [hc.out, hd.out]; intro e2; exact e (by rw [← hC.out, ← hD.out, e2])))
        have hgd : Hid (w.grownBy wr.drew none) := Hid.mk' (grownBy_drew hgx.out)
        clear ia ib hc hd hE hC hD
        go_upto_region 6 with fail
        refine wp_region_held_drew (S := fun _ : World => True) (by kernel_rfl) trivial (fun hHeld => ?_)
        refine wpAnyH_take (i := 0) (v := ?_) rfl (by kernel_rfl) (by kernel_rfl) (by kernel_rfl) (fun _ _ _ h => h) (Or.inl ⟨by rfl, ?_⟩) (by assumption) ?_; rotate_left
        · (intro w hSw; (try dsimp only at hSw); go_simp; try with_reducible rfl)
        try simp only [List.getElem_toArray, List.getElem_cons_zero, Act.put, List.setIfInBounds_toArray, List.set_cons_zero, List.set_cons_succ]
        refine wpAnyH_take (i := 1) (v := ?_) rfl (by kernel_rfl) (by kernel_rfl) (by kernel_rfl) (fun _ _ _ h => h) (Or.inl ⟨by rfl, ?_⟩) (by assumption) ?_; rotate_left
        · (intro w hSw; (try dsimp only at hSw); go_simp; try with_reducible rfl)
        try simp only [List.getElem_toArray, List.getElem_cons_zero, List.getElem_cons_succ, Act.put, List.setIfInBounds_toArray, List.set_cons_zero, List.set_cons_succ]
        refine wpAnyH_take (i := 2) (v := ?_) rfl (by kernel_rfl) (by kernel_rfl) (by kernel_rfl) (fun _ _ _ h => h) (Or.inl ⟨by rfl, ?_⟩) (by assumption) ?_; rotate_left
        · (intro w hSw; (try dsimp only at hSw); go_simp; try with_reducible rfl)
        try simp only [List.getElem_toArray, List.getElem_cons_zero, List.getElem_cons_succ, Act.put, List.setIfInBounds_toArray, List.set_cons_zero, List.set_cons_succ]
        refine wpAnyH_take (i := 4) (v := ?_) rfl (by kernel_rfl) (by kernel_rfl) (by kernel_rfl) (fun _ _ _ h => h) (Or.inl ⟨by rfl, ?_⟩) (by assumption) ?_; rotate_left
        · (intro w hSw; (try dsimp only at hSw); go_simp; try with_reducible rfl)
        try simp only [List.getElem_toArray, List.getElem_cons_zero, List.getElem_cons_succ, Act.put, List.setIfInBounds_toArray, List.set_cons_zero, List.set_cons_succ]
        refine wpAnyH_take (i := 5) (v := ?_) rfl (by kernel_rfl) (by kernel_rfl) (by kernel_rfl) (fun _ _ _ h => h) (Or.inl ⟨by rfl, ?_⟩) (by assumption) ?_; rotate_left
        · (intro w hSw; (try dsimp only at hSw); go_simp; try with_reducible rfl)
        try simp only [List.getElem_toArray, List.getElem_cons_zero, List.getElem_cons_succ, Act.put, List.setIfInBounds_toArray, List.set_cons_zero, List.set_cons_succ]
        refine wpAnyH_take (i := 6) (v := ?_) rfl (by kernel_rfl) (by kernel_rfl) (by kernel_rfl) (fun _ _ _ h => h) (Or.inl ⟨by rfl, ?_⟩) (by assumption) ?_; rotate_left
        · (intro w hSw; (try dsimp only at hSw); go_simp; try with_reducible rfl)
        try simp only [List.getElem_toArray, List.getElem_cons_zero, List.getElem_cons_succ, Act.put, List.setIfInBounds_toArray, List.set_cons_zero, List.set_cons_succ]
        refine wpAnyH_ready (rs := [3]) (by kernel_rfl) (by simp) ?_
        refine AllReadyH.cons rfl (fun K hK => ?_) AllReadyH.nil
        go_simp
        refine (b1.out _).mono ?_; rintro e w3 ⟨rfl, rfl⟩; try dsimp only
        refine hK.out _ _ trivial (fun hHeld => ?_)
        clear hK K
        try simp only [List.getElem_toArray, List.getElem_cons_zero, List.getElem_cons_succ, Act.put, List.setIfInBounds_toArray, List.set_cons_zero, List.set_cons_succ]
        refine wpAnyH_ready (rs := [7]) (by kernel_rfl) (by simp) ?_
        refine AllReadyH.cons rfl (fun K hK => ?_) AllReadyH.nil
        go_simp
        refine (b2.out _).mono ?_; rintro e w4 ⟨rfl, rfl⟩; try dsimp only
        refine hK.out _ _ trivial (fun hHeld => ?_)
        clear hK K
        try simp only [List.getElem_toArray, List.getElem_cons_zero, List.getElem_cons_succ, Act.put, List.setIfInBounds_toArray, List.set_cons_zero, List.set_cons_succ]
        refine wpAnyH_take (i := 8) (v := ?_) rfl (by kernel_rfl) (by kernel_rfl) (by kernel_rfl) (fun _ _ _ h => h) (Or.inl ⟨by rfl, ?_⟩) (by assumption) ?_; rotate_left
        · (intro w hSw; (try dsimp only at hSw); go_simp; try with_reducible rfl)
        try simp only [List.getElem_toArray, List.getElem_cons_zero, List.getElem_cons_succ, Act.put, List.setIfInBounds_toArray, List.set_cons_zero, List.set_cons_succ]
        refine wpAnyH_done (by kernel_rfl) ?_ _
        clear hHeld hixa hixb
        by_cases hCD : C = D
        · have f1 : (C != D) = false := by simpa using hCD
          have HE := Hid.mk' (HY.out hCD)
          clear hCD
          rw [f1]
          go_wp2
          go_roundw
          case rel => exact ⟨i + 1, by omega, by go_num, HE, hgd⟩
          all_goals (simp [intOf] <;> omega)
        · have f1 : (C != D) = true := by simpa using hCD
          have HE := Hid.mk' (HZ.out hCD)
          clear hCD
          rw [f1]
          go_wp2
          go_ret
          exact ⟨by rw [← hR.out, decide_eq_false HE.out]; rfl, hgd.out⟩
      · have hlt' : ¬ (i : Int) < (n : Int) := by omega
        have hRt : Hid (R = true) := Hid.mk' (by
          have h1 := hE.out
          rw [List.take_of_length_le (by rw [hn.out]; omega), List.take_of_length_le (by rw [hm.out]; omega)] at h1
          rw [← hR.out, decide_eq_true h1])
        clear hE
        go_wp2
        go_ret
        exact ⟨by rw [hRt.out]; rfl, hgx.out⟩
  · have k1 : ((n : Int) != (m : Int)) = true := by simp; omega
    have k2 : ¬ (n : Int) = (m : Int) := by omega
    have hRf : Hid (R = false) := Hid.mk' (by
      rw [← hR.out, decide_eq_false]
      intro e
      have := congrArg List.length e
      rw [large_len, large_len, hn.out, hm.out] at this
      exact hnm this)
    clear hnm
    go_enter Tryd.func17, Tryd.ntmps17
    go_wp2
    go_ret
    exact ⟨by rw [hRf.out]; rfl, grownBy_refl _ _⟩
end Go.Proofs.YtljkncgbabiojaaDoor.C23

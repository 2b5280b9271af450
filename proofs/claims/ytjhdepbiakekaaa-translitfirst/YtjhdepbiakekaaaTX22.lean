/- TranslitAll, TranslitShort: walks. -/
import Derived.Test.YtjhdepbiakekaaaTW22
import Derived.Test.YtjhdepbiakekaaaRegion
import Derived.Deep.RegionHeld3
import Derived.BigQuiet
namespace Go.Proofs.Ytjhdepbiakekaaa.C22
open Go.ChangeShapes Go.WideShapes Go.ChangeAt Go.RowKit Go.Proofs.Ytjhdepbiakekaaa.Mem Go.Proofs.Ytjhdepbiakekaaa.El Go.Proofs.Ytjhdepbiakekaaa.St Go.Proofs.Ytjhdepbiakekaaa.Ru Go.Proofs.Ytjhdepbiakekaaa.Cb Go.Proofs.Ytjhdepbiakekaaa.Sp
set_option linter.unusedVariables false
set_option linter.unusedSimpArgs false

theorem all_in {u : Int} : hasI allI u = decide (cands u ≠ []) := by
  have h : (hasI allI u = true) ↔ cands u ≠ [] := by
    rw [cands_all]
    unfold hasI allI
    simp
  by_cases hc : cands u = []
  · have : ¬ hasI allI u = true := fun e => (h.1 e) hc
    simpa [hc] using this
  · rw [h.2 hc]
    simp [hc]
theorem len_of {i : Nat} (h : i < allI.length) : i < allT.length := by rw [allI_len] at h; rw [allT_len]; exact h
theorem allI_at {i : Nat} (h : i < allI.length) : allI[i] = ((allT[i]'(len_of h) : Nat) : Int) := List.getElem_map _
theorem all_at {i : Nat} (h : i < allI.length) : cands allI[i] ≠ [] := by
  rw [allI_at h]
  exact cands_all.2 ⟨_, List.getElem_mem (len_of h), rfl⟩
theorem all_up {i : Nat} (h : i + 1 < allI.length) : allI[i]'(by omega) < allI[i + 1] := by
  have := List.pairwise_iff_getElem.1 allT_rise i (i + 1) (len_of (by omega)) (len_of h) (by omega)
  rw [allI_at (by omega), allI_at h]
  omega
theorem all_32 {i : Nat} (h : i < allI.length) : I32 allI[i] := by
  have := (allT_in _ (List.getElem_mem (len_of h))).1
  rw [allI_at h]
  unfold I32
  omega
set_option maxRecDepth 100000 in
set_option maxHeartbeats 3000000 in
theorem all_walk {P : World → Prop} (C : Con P) (u : Int) (hu : I32 u) (w : World) (hw : P w) : Calls Try.prog 5 #[.int .i32 u] w fun e w' => e = .returned (.bool true) ∧ w.grownBy w' none := by
  have a0 := Hid.mk' (fun w hw => works_any C w hw)
  have a1 := Hid.mk' (fun u hu w hw => C.cand u hu w hw)
  have a2 := Hid.mk' (fun w hw => C.all w hw)
  have K := Hid.mk' (fun (a b : World) (h : P a) (g : a.grownBy b none) => C.keep h g)
  have hq := Hid.mk' hw
  clear C hw
  go_enter Try.func5, Try.ntmps5
  go_upto_region 3 with (go_at_call 12; refine (a0.out _ hq.out).mono ?_; rintro e w1 ⟨rfl, hg1⟩; have hP1 := Hid.mk' (K.out _ _ hq.out hg1))
  go_upto_region 6 with (go_at_call 13; refine (a2.out _ hP1.out).mono ?_; rintro e w2 ⟨lo, lc, rfl, oL, hg2, fL⟩)
  have hP2 := Hid.mk' (K.out _ _ hP1.out hg2)
  have hG2 := Hid.mk' (gt hg1 hg2)
  obtain ⟨g, rfl, hgl, hfr, hcl⟩ := oL.at (by intro e; have h5 := congrArg List.length e; rw [allI_len] at h5; simp at h5)
  have rL := Hid.mk' oL.rd
  have hA : Hid (∀ i (h : i < allI.length) wx, w2.grownBy wx none → wx.cell? ⟨g, i, none⟩ = some (.int .i32 allI[i])) := Hid.mk' (fun i h wx hgx => by
    have := hgx.cell (hcl i h 0 _ rfl) (by simp)
    have e : i * RuE.size + 0 = i := Nat.mul_one i
    rwa [e] at this)
  have q1 : 212 ≤ lc := by have := oL.cap_le; rw [allI_len] at this; exact this
  have q2 := oL.cap_max
  clear oL hg1 hg2 fL hcl hfr hgl a2 a0
  go_loopw [4, 5] (fun t4 t5 wx => ∃ (i : Nat), i ≤ 212 ∧ t5 = .int .i64 (i : Int) ∧ t4 = .bool (hasI (allI.take i) u) ∧ Hid (w2.grownBy wx none)) (fun _ t5 _ => 212 - (intOf t5).toNat)
  case atStart => exact ⟨0, by omega, rfl, by simp [hasI], Hid.mk' (grownBy_refl _ _)⟩
  case round =>
    obtain ⟨i, hi, rfl, rfl, hgx⟩ := hrel
    by_cases hlt : i < 212
    · have hlt' : (i : Int) < 212 := by omega
      have hi0 : (0 : Int) ≤ (i : Int) := by omega
      obtain ⟨bI, hbI⟩ : ∃ b, Hid (hasI (allI.take i) u = b) := ⟨_, Hid.mk' rfl⟩
      rw [hbI.out]
      obtain ⟨z, hz⟩ : ∃ z, Hid (allI[i]'(by rw [allI_len]; exact hlt) = z) := ⟨_, Hid.mk' rfl⟩
      have hnj : Hid (hasI (allI.take (i + 1)) u = (bI || decide (z = u))) := Hid.mk' (by rw [hasI_step allI i (by rw [allI_len]; exact hlt), hbI.out, hz.out])
      clear hbI
      by_cases hi1 : i = 0
      · subst hi1
        have hz32 : I32 z := by rw [← hz.out]; exact all_32 (by rw [allI_len]; omega)
        obtain ⟨m, hm⟩ : ∃ m, Hid ((cands z).length = m + 1) := ⟨(cands z).length - 1, Hid.mk' (by have h5 : cands z ≠ [] := (by rw [← hz.out]; exact all_at (by rw [allI_len]; omega)); have := List.length_pos_iff.2 h5; omega)⟩
        have a5 : Hid (∀ wx, w2.grownBy wx none → Calls Try.prog 8 #[.int .i32 z] wx fun e w' => ∃ ao cap, e = .returned (.slice ao (m + 1) cap) ∧ wx.grownBy w' none) := Hid.mk' (fun wx hgx => (a1.out z hz32 wx (K.out _ _ hP2.out hgx)).mono (fun e w' h => by
          obtain ⟨ao, cap, h1, h2, h3, h4⟩ := h
          rw [hm.out] at h1
          exact ⟨ao, cap, h1, h3⟩))
        have hS : Hid (∀ wx, w2.grownBy wx none → (fun w' : World => w'.cell? ⟨g, 0, none⟩ = some (.int .i32 z)) wx) := Hid.mk' (fun wx hgx => by rw [← hz.out]; exact hA.out 0 (by rw [allI_len]; omega) wx hgx)
        have hgd : Hid (w2.grownBy wr.drew none) := Hid.mk' (grownBy_drew hgx.out)
        have hS0 := hS.out _ hgd.out
        clear hz hm hz32
        go_upto_region 8 with fail
        refine wp_region_held_drew (S := fun w' : World => w'.cell? ⟨g, 0, none⟩ = some (.int .i32 z)) (by kernel_rfl) hS0 (fun hHeld => ?_)
        refine wpAnyH_take (i := 0) (v := ?_) rfl (by kernel_rfl) (by kernel_rfl) (by kernel_rfl) (fun _ _ _ h => h) (Or.inl ⟨by rfl, ?_⟩) (by assumption) ?_; rotate_left
        · (intro w hSw; (try dsimp only at hSw); go_simp; try with_reducible rfl)
        try simp only [List.getElem_toArray, List.getElem_cons_zero, Act.put, List.setIfInBounds_toArray, List.set_cons_zero, List.set_cons_succ]
        refine wpAnyH_take (i := 1) (v := ?_) rfl (by kernel_rfl) (by kernel_rfl) (by kernel_rfl) (fun _ _ _ h => h) (Or.inl ⟨by rfl, ?_⟩) (by assumption) ?_; rotate_left
        · (intro w hSw; (try dsimp only at hSw); go_simp; try with_reducible rfl)
        try simp only [List.getElem_toArray, List.getElem_cons_zero, List.getElem_cons_succ, Act.put, List.setIfInBounds_toArray, List.set_cons_zero, List.set_cons_succ]
        refine wpAnyH_take (i := 2) (v := ?_) rfl (by kernel_rfl) (by kernel_rfl) (by kernel_rfl) (fun _ _ _ h => h) (Or.inl ⟨by rfl, ?_⟩) (by assumption) ?_; rotate_left
        · (intro w hSw; (try dsimp only at hSw); go_simp; try with_reducible rfl)
        try simp only [List.getElem_toArray, List.getElem_cons_zero, List.getElem_cons_succ, Act.put, List.setIfInBounds_toArray, List.set_cons_zero, List.set_cons_succ]
        refine wpAnyH_take (i := 3) (v := undef) rfl (by kernel_rfl) (by kernel_rfl) (by kernel_rfl) (fun _ _ _ h => h) (Or.inr ⟨by rfl, rfl⟩) (by assumption) ?_
        try simp only [List.getElem_toArray, List.getElem_cons_zero, List.getElem_cons_succ, Act.put, List.setIfInBounds_toArray, List.set_cons_zero, List.set_cons_succ]
        refine wpAnyH_take (i := 4) (v := undef) rfl (by kernel_rfl) (by kernel_rfl) (by kernel_rfl) (fun _ _ _ h => h) (Or.inr ⟨by rfl, rfl⟩) (by assumption) ?_
        try simp only [List.getElem_toArray, List.getElem_cons_zero, List.getElem_cons_succ, Act.put, List.setIfInBounds_toArray, List.set_cons_zero, List.set_cons_succ]
        refine wpAnyH_take (i := 5) (v := undef) rfl (by kernel_rfl) (by kernel_rfl) (by kernel_rfl) (fun _ _ _ h => h) (Or.inr ⟨by rfl, rfl⟩) (by assumption) ?_
        try simp only [List.getElem_toArray, List.getElem_cons_zero, List.getElem_cons_succ, Act.put, List.setIfInBounds_toArray, List.set_cons_zero, List.set_cons_succ]
        refine wpAnyH_take (i := 6) (v := undef) rfl (by kernel_rfl) (by kernel_rfl) (by kernel_rfl) (fun _ _ _ h => h) (Or.inr ⟨by rfl, rfl⟩) (by assumption) ?_
        try simp only [List.getElem_toArray, List.getElem_cons_zero, List.getElem_cons_succ, Act.put, List.setIfInBounds_toArray, List.set_cons_zero, List.set_cons_succ]
        refine wpAnyH_take (i := 7) (v := undef) rfl (by kernel_rfl) (by kernel_rfl) (by kernel_rfl) (fun _ _ _ h => h) (Or.inr ⟨by rfl, rfl⟩) (by assumption) ?_
        try simp only [List.getElem_toArray, List.getElem_cons_zero, List.getElem_cons_succ, Act.put, List.setIfInBounds_toArray, List.set_cons_zero, List.set_cons_succ]
        refine wpAnyH_take (i := 8) (v := undef) rfl (by kernel_rfl) (by kernel_rfl) (by kernel_rfl) (fun _ _ _ h => h) (Or.inr ⟨by rfl, rfl⟩) (by assumption) ?_
        try simp only [List.getElem_toArray, List.getElem_cons_zero, List.getElem_cons_succ, Act.put, List.setIfInBounds_toArray, List.set_cons_zero, List.set_cons_succ]
        refine wpAnyH_take (i := 9) (v := undef) rfl (by kernel_rfl) (by kernel_rfl) (by kernel_rfl) (fun _ _ _ h => h) (Or.inr ⟨by rfl, rfl⟩) (by assumption) ?_
        try simp only [List.getElem_toArray, List.getElem_cons_zero, List.getElem_cons_succ, Act.put, List.setIfInBounds_toArray, List.set_cons_zero, List.set_cons_succ]
        refine wpAnyH_take (i := 10) (v := undef) rfl (by kernel_rfl) (by kernel_rfl) (by kernel_rfl) (fun _ _ _ h => h) (Or.inr ⟨by rfl, rfl⟩) (by assumption) ?_
        try simp only [List.getElem_toArray, List.getElem_cons_zero, List.getElem_cons_succ, Act.put, List.setIfInBounds_toArray, List.set_cons_zero, List.set_cons_succ]
        refine wpAnyH_take (i := 11) (v := undef) rfl (by kernel_rfl) (by kernel_rfl) (by kernel_rfl) (fun _ _ _ h => h) (Or.inr ⟨by rfl, rfl⟩) (by assumption) ?_
        try simp only [List.getElem_toArray, List.getElem_cons_zero, List.getElem_cons_succ, Act.put, List.setIfInBounds_toArray, List.set_cons_zero, List.set_cons_succ]
        refine wpAnyH_take (i := 12) (v := undef) rfl (by kernel_rfl) (by kernel_rfl) (by kernel_rfl) (fun _ _ _ h => h) (Or.inr ⟨by rfl, rfl⟩) (by assumption) ?_
        try simp only [List.getElem_toArray, List.getElem_cons_zero, List.getElem_cons_succ, Act.put, List.setIfInBounds_toArray, List.set_cons_zero, List.set_cons_succ]
        refine wpAnyH_take (i := 13) (v := ?_) rfl (by kernel_rfl) (by kernel_rfl) (by kernel_rfl) (fun _ _ _ h => h) (Or.inl ⟨by rfl, ?_⟩) (by assumption) ?_; rotate_left
        · (intro w hSw; (try dsimp only at hSw); go_simp; try with_reducible rfl)
        try simp only [List.getElem_toArray, List.getElem_cons_zero, List.getElem_cons_succ, Act.put, List.setIfInBounds_toArray, List.set_cons_zero, List.set_cons_succ]
        refine wpAnyH_take (i := 14) (v := ?_) rfl (by kernel_rfl) (by kernel_rfl) (by kernel_rfl) (fun _ _ _ h => h) (Or.inl ⟨by rfl, ?_⟩) (by assumption) ?_; rotate_left
        · (intro w hSw; (try dsimp only at hSw); go_simp; try with_reducible rfl)
        try simp only [List.getElem_toArray, List.getElem_cons_zero, List.getElem_cons_succ, Act.put, List.setIfInBounds_toArray, List.set_cons_zero, List.set_cons_succ]
        refine wpAnyH_take (i := 15) (v := ?_) rfl (by kernel_rfl) (by kernel_rfl) (by kernel_rfl) (fun _ _ _ h => h) (Or.inl ⟨by rfl, ?_⟩) (by assumption) ?_; rotate_left
        · (intro w hSw; (try dsimp only at hSw); go_simp; try with_reducible rfl)
        try simp only [List.getElem_toArray, List.getElem_cons_zero, List.getElem_cons_succ, Act.put, List.setIfInBounds_toArray, List.set_cons_zero, List.set_cons_succ]
        refine wpAnyH_take (i := 16) (v := ?_) rfl (by kernel_rfl) (by kernel_rfl) (by kernel_rfl) (fun _ _ _ h => h) (Or.inl ⟨by rfl, ?_⟩) (by assumption) ?_; rotate_left
        · (intro w hSw; (try dsimp only at hSw); go_simp; try with_reducible rfl)
        try simp only [List.getElem_toArray, List.getElem_cons_zero, List.getElem_cons_succ, Act.put, List.setIfInBounds_toArray, List.set_cons_zero, List.set_cons_succ]
        refine wpAnyH_take (i := 17) (v := ?_) rfl (by kernel_rfl) (by kernel_rfl) (by kernel_rfl) (fun _ _ _ h => h) (Or.inl ⟨by rfl, ?_⟩) (by assumption) ?_; rotate_left
        · (intro w hSw; (try dsimp only at hSw); go_simp; try with_reducible rfl)
        try simp only [List.getElem_toArray, List.getElem_cons_zero, List.getElem_cons_succ, Act.put, List.setIfInBounds_toArray, List.set_cons_zero, List.set_cons_succ]
        refine wpAnyH_take (i := 18) (v := ?_) rfl (by kernel_rfl) (by kernel_rfl) (by kernel_rfl) (fun _ _ _ h => h) (Or.inl ⟨by rfl, ?_⟩) (by assumption) ?_; rotate_left
        · (intro w hSw; (try dsimp only at hSw); go_simp; try with_reducible rfl)
        try simp only [List.getElem_toArray, List.getElem_cons_zero, List.getElem_cons_succ, Act.put, List.setIfInBounds_toArray, List.set_cons_zero, List.set_cons_succ]
        refine wpAnyH_ready (rs := [19]) (by kernel_rfl) (by simp) ?_
        refine AllReadyH.cons rfl (fun K hK => ?_) AllReadyH.nil
        go_simp
        refine (a5.out _ hgd.out).mono ?_; rintro e w3 ⟨ao, cap, rfl, hg⟩; have hG3 : Hid (w2.grownBy w3 none) := Hid.mk' (gt hgd.out hg); try dsimp only
        refine hK.out _ _ (hS.out w3 hG3.out) (fun hHeld => ?_)
        clear hK K
        try simp only [List.getElem_toArray, List.getElem_cons_zero, List.getElem_cons_succ, Act.put, List.setIfInBounds_toArray, List.set_cons_zero, List.set_cons_succ]
        refine wpAnyH_take (i := 20) (v := ?_) rfl (by kernel_rfl) (by kernel_rfl) (by kernel_rfl) (fun _ _ _ h => h) (Or.inl ⟨by rfl, ?_⟩) (by assumption) ?_; rotate_left
        · (intro w hSw; (try dsimp only at hSw); go_simp; try with_reducible rfl)
        try simp only [List.getElem_toArray, List.getElem_cons_zero, List.getElem_cons_succ, Act.put, List.setIfInBounds_toArray, List.set_cons_zero, List.set_cons_succ]
        refine wpAnyH_take (i := 21) (v := ?_) rfl (by kernel_rfl) (by kernel_rfl) (by kernel_rfl) (fun _ _ _ h => h) (Or.inl ⟨by rfl, ?_⟩) (by assumption) ?_; rotate_left
        · (intro w hSw; (try dsimp only at hSw); go_simp; try with_reducible rfl)
        try simp only [List.getElem_toArray, List.getElem_cons_zero, List.getElem_cons_succ, Act.put, List.setIfInBounds_toArray, List.set_cons_zero, List.set_cons_succ]
        refine wpAnyH_take (i := 22) (v := ?_) rfl (by kernel_rfl) (by kernel_rfl) (by kernel_rfl) (fun _ _ _ h => h) (Or.inl ⟨by rfl, ?_⟩) (by assumption) ?_; rotate_left
        · (intro w hSw; (try dsimp only at hSw); go_simp; try with_reducible rfl)
        try simp only [List.getElem_toArray, List.getElem_cons_zero, List.getElem_cons_succ, Act.put, List.setIfInBounds_toArray, List.set_cons_zero, List.set_cons_succ]
        refine wpAnyH_done (by kernel_rfl) ?_ _
        have x0 : w3.cell? ⟨g, 0, none⟩ = some (.int .i32 z) := hHeld
        clear hHeld hS0
        cases bI with
        | true =>
          go_wp2
          go_roundw
          case rel => exact ⟨0 + 1, by omega, by go_num, by rw [hnj.out]; rfl, hG3⟩
          all_goals (simp [intOf] <;> omega)
        | false =>
          by_cases hzu : z = u
          · have hzu' : (z == u) = true := by simpa using hzu
            go_wp2
            go_roundw
            case rel => exact ⟨0 + 1, by omega, by go_num, by rw [hnj.out]; simp [hzu], hG3⟩
            all_goals (simp [intOf] <;> omega)
          · have hzu' : (z == u) = false := by simpa using hzu
            go_wp2
            go_roundw
            case rel => exact ⟨0 + 1, by omega, by go_num, by rw [hnj.out]; simp [hzu], hG3⟩
            all_goals (simp [intOf] <;> omega)
      · obtain ⟨j, hj⟩ : ∃ j, Hid (i = j + 1) := ⟨i - 1, Hid.mk' (by omega)⟩
        obtain ⟨y, hy⟩ : ∃ y, Hid (allI[j]'(by rw [allI_len]; have := hj.out; omega) = y) := ⟨_, Hid.mk' rfl⟩
        have hzy : decide (z ≤ y) = false := by
          have h5 := all_up (i := j) (by rw [allI_len]; have := hj.out; omega)
          have h6 : allI[j + 1]'(by rw [allI_len]; have := hj.out; omega) = z := by rw [← hz.out]; congr 1; exact hj.out.symm
          rw [h6, hy.out] at h5
          simp; omega
        have e1 : (i : Int) - 1 = (j : Int) := by have := hj.out; omega
        have e2 : IntKind.i64.wrap (j : Int) = (j : Int) := by rw [IntKind.wrap_i64]; have := hj.out; omega
        have e3 : (0 : Int) ≤ (j : Int) := by omega
        have e4 : (j : Int) < 212 := by have := hj.out; omega
        have e5 : decide (0 < i) = true := by simp; omega
        have e6 : decide ((0 : Int) < (i : Int)) = true := by simp; omega
        clear hi1
        have hz32 : I32 z := by rw [← hz.out]; exact all_32 (by rw [allI_len]; omega)
        obtain ⟨m, hm⟩ : ∃ m, Hid ((cands z).length = m + 1) := ⟨(cands z).length - 1, Hid.mk' (by have h5 : cands z ≠ [] := (by rw [← hz.out]; exact all_at (by rw [allI_len]; omega)); have := List.length_pos_iff.2 h5; omega)⟩
        have a5 : Hid (∀ wx, w2.grownBy wx none → Calls Try.prog 8 #[.int .i32 z] wx fun e w' => ∃ ao cap, e = .returned (.slice ao (m + 1) cap) ∧ wx.grownBy w' none) := Hid.mk' (fun wx hgx => (a1.out z hz32 wx (K.out _ _ hP2.out hgx)).mono (fun e w' h => by
          obtain ⟨ao, cap, h1, h2, h3, h4⟩ := h
          rw [hm.out] at h1
          exact ⟨ao, cap, h1, h3⟩))
        have hS : Hid (∀ wx, w2.grownBy wx none → (fun w' : World => w'.cell? ⟨g, i, none⟩ = some (.int .i32 z) ∧ w'.cell? ⟨g, j, none⟩ = some (.int .i32 y)) wx) := Hid.mk' (fun wx hgx => ⟨by rw [← hz.out]; exact hA.out i (by rw [allI_len]; omega) wx hgx, by rw [← hy.out]; exact hA.out j (by rw [allI_len]; have := hj.out; omega) wx hgx⟩)
        have hgd : Hid (w2.grownBy wr.drew none) := Hid.mk' (grownBy_drew hgx.out)
        have hS0 := hS.out _ hgd.out
        clear hz hm hz32
        go_upto_region 8 with fail
        refine wp_region_held_drew (S := fun w' : World => w'.cell? ⟨g, i, none⟩ = some (.int .i32 z) ∧ w'.cell? ⟨g, j, none⟩ = some (.int .i32 y)) (by kernel_rfl) hS0 (fun hHeld => ?_)
        refine wpAnyH_take (i := 0) (v := ?_) rfl (by kernel_rfl) (by kernel_rfl) (by kernel_rfl) (fun _ _ _ h => h) (Or.inl ⟨by rfl, ?_⟩) (by assumption) ?_; rotate_left
        · (intro w hSw; (try dsimp only at hSw); go_simp; try with_reducible rfl)
        try simp only [List.getElem_toArray, List.getElem_cons_zero, Act.put, List.setIfInBounds_toArray, List.set_cons_zero, List.set_cons_succ]
        refine wpAnyH_take (i := 1) (v := ?_) rfl (by kernel_rfl) (by kernel_rfl) (by kernel_rfl) (fun _ _ _ h => h) (Or.inl ⟨by rfl, ?_⟩) (by assumption) ?_; rotate_left
        · (intro w hSw; (try dsimp only at hSw); go_simp; try with_reducible rfl)
        try simp only [List.getElem_toArray, List.getElem_cons_zero, List.getElem_cons_succ, Act.put, List.setIfInBounds_toArray, List.set_cons_zero, List.set_cons_succ]
        refine wpAnyH_take (i := 2) (v := ?_) rfl (by kernel_rfl) (by kernel_rfl) (by kernel_rfl) (fun _ _ _ h => h) (Or.inl ⟨by rfl, ?_⟩) (by assumption) ?_; rotate_left
        · (intro w hSw; (try dsimp only at hSw); go_simp; try with_reducible rfl)
        try simp only [List.getElem_toArray, List.getElem_cons_zero, List.getElem_cons_succ, Act.put, List.setIfInBounds_toArray, List.set_cons_zero, List.set_cons_succ]
        refine wpAnyH_take (i := 3) (v := ?_) rfl (by kernel_rfl) (by kernel_rfl) (by kernel_rfl) (fun _ _ _ h => h) (Or.inl ⟨by rfl, ?_⟩) (by assumption) ?_; rotate_left
        · (intro w hSw; (try dsimp only at hSw); go_simp; try with_reducible rfl)
        try simp only [List.getElem_toArray, List.getElem_cons_zero, List.getElem_cons_succ, Act.put, List.setIfInBounds_toArray, List.set_cons_zero, List.set_cons_succ]
        refine wpAnyH_take (i := 4) (v := ?_) rfl (by kernel_rfl) (by kernel_rfl) (by kernel_rfl) (fun _ _ _ h => h) (Or.inl ⟨by rfl, ?_⟩) (by assumption) ?_; rotate_left
        · (intro w hSw; (try dsimp only at hSw); go_simp; try with_reducible rfl)
        try simp only [List.getElem_toArray, List.getElem_cons_zero, List.getElem_cons_succ, Act.put, List.setIfInBounds_toArray, List.set_cons_zero, List.set_cons_succ]
        refine wpAnyH_take (i := 5) (v := ?_) rfl (by kernel_rfl) (by kernel_rfl) (by kernel_rfl) (fun _ _ _ h => h) (Or.inl ⟨by rfl, ?_⟩) (by assumption) ?_; rotate_left
        · (intro w hSw; (try dsimp only at hSw); go_simp; try with_reducible rfl)
        try simp only [List.getElem_toArray, List.getElem_cons_zero, List.getElem_cons_succ, Act.put, List.setIfInBounds_toArray, List.set_cons_zero, List.set_cons_succ]
        refine wpAnyH_take (i := 6) (v := ?_) rfl (by kernel_rfl) (by kernel_rfl) (by kernel_rfl) (fun _ _ _ h => h) (Or.inl ⟨by rfl, ?_⟩) (by assumption) ?_; rotate_left
        · (intro w hSw; (try dsimp only at hSw); go_simp; try with_reducible rfl)
        try simp only [List.getElem_toArray, List.getElem_cons_zero, List.getElem_cons_succ, Act.put, List.setIfInBounds_toArray, List.set_cons_zero, List.set_cons_succ]
        refine wpAnyH_take (i := 7) (v := ?_) rfl (by kernel_rfl) (by kernel_rfl) (by kernel_rfl) (fun _ _ _ h => h) (Or.inl ⟨by rfl, ?_⟩) (by assumption) ?_; rotate_left
        · (intro w hSw; (try dsimp only at hSw); go_simp; try with_reducible rfl)
        try simp only [List.getElem_toArray, List.getElem_cons_zero, List.getElem_cons_succ, Act.put, List.setIfInBounds_toArray, List.set_cons_zero, List.set_cons_succ]
        refine wpAnyH_take (i := 8) (v := ?_) rfl (by kernel_rfl) (by kernel_rfl) (by kernel_rfl) (fun _ _ _ h => h) (Or.inl ⟨by rfl, ?_⟩) (by assumption) ?_; rotate_left
        · (intro w hSw; (try dsimp only at hSw); go_simp; try with_reducible rfl)
        try simp only [List.getElem_toArray, List.getElem_cons_zero, List.getElem_cons_succ, Act.put, List.setIfInBounds_toArray, List.set_cons_zero, List.set_cons_succ]
        refine wpAnyH_take (i := 9) (v := ?_) rfl (by kernel_rfl) (by kernel_rfl) (by kernel_rfl) (fun _ _ _ h => h) (Or.inl ⟨by rfl, ?_⟩) (by assumption) ?_; rotate_left
        · (intro w hSw; (try dsimp only at hSw); go_simp; try with_reducible rfl)
        try simp only [List.getElem_toArray, List.getElem_cons_zero, List.getElem_cons_succ, Act.put, List.setIfInBounds_toArray, List.set_cons_zero, List.set_cons_succ]
        refine wpAnyH_take (i := 10) (v := ?_) rfl (by kernel_rfl) (by kernel_rfl) (by kernel_rfl) (fun _ _ _ h => h) (Or.inl ⟨by rfl, ?_⟩) (by assumption) ?_; rotate_left
        · (intro w hSw; (try dsimp only at hSw); go_simp; try with_reducible rfl)
        try simp only [List.getElem_toArray, List.getElem_cons_zero, List.getElem_cons_succ, Act.put, List.setIfInBounds_toArray, List.set_cons_zero, List.set_cons_succ]
        refine wpAnyH_take (i := 11) (v := ?_) rfl (by kernel_rfl) (by kernel_rfl) (by kernel_rfl) (fun _ _ _ h => h) (Or.inl ⟨by rfl, ?_⟩) (by assumption) ?_; rotate_left
        · (intro w hSw; (try dsimp only at hSw); go_simp; try with_reducible rfl)
        try simp only [List.getElem_toArray, List.getElem_cons_zero, List.getElem_cons_succ, Act.put, List.setIfInBounds_toArray, List.set_cons_zero, List.set_cons_succ]
        refine wpAnyH_take (i := 12) (v := ?_) rfl (by kernel_rfl) (by kernel_rfl) (by kernel_rfl) (fun _ _ _ h => h) (Or.inl ⟨by rfl, ?_⟩) (by assumption) ?_; rotate_left
        · (intro w hSw; (try dsimp only at hSw); go_simp; try with_reducible rfl)
        try simp only [List.getElem_toArray, List.getElem_cons_zero, List.getElem_cons_succ, Act.put, List.setIfInBounds_toArray, List.set_cons_zero, List.set_cons_succ]
        refine wpAnyH_take (i := 13) (v := ?_) rfl (by kernel_rfl) (by kernel_rfl) (by kernel_rfl) (fun _ _ _ h => h) (Or.inl ⟨by rfl, ?_⟩) (by assumption) ?_; rotate_left
        · (intro w hSw; (try dsimp only at hSw); go_simp; try with_reducible rfl)
        try simp only [List.getElem_toArray, List.getElem_cons_zero, List.getElem_cons_succ, Act.put, List.setIfInBounds_toArray, List.set_cons_zero, List.set_cons_succ]
        refine wpAnyH_take (i := 14) (v := ?_) rfl (by kernel_rfl) (by kernel_rfl) (by kernel_rfl) (fun _ _ _ h => h) (Or.inl ⟨by rfl, ?_⟩) (by assumption) ?_; rotate_left
        · (intro w hSw; (try dsimp only at hSw); go_simp; try with_reducible rfl)
        try simp only [List.getElem_toArray, List.getElem_cons_zero, List.getElem_cons_succ, Act.put, List.setIfInBounds_toArray, List.set_cons_zero, List.set_cons_succ]
        refine wpAnyH_take (i := 15) (v := ?_) rfl (by kernel_rfl) (by kernel_rfl) (by kernel_rfl) (fun _ _ _ h => h) (Or.inl ⟨by rfl, ?_⟩) (by assumption) ?_; rotate_left
        · (intro w hSw; (try dsimp only at hSw); go_simp; try with_reducible rfl)
        try simp only [List.getElem_toArray, List.getElem_cons_zero, List.getElem_cons_succ, Act.put, List.setIfInBounds_toArray, List.set_cons_zero, List.set_cons_succ]
        refine wpAnyH_take (i := 16) (v := ?_) rfl (by kernel_rfl) (by kernel_rfl) (by kernel_rfl) (fun _ _ _ h => h) (Or.inl ⟨by rfl, ?_⟩) (by assumption) ?_; rotate_left
        · (intro w hSw; (try dsimp only at hSw); go_simp; try with_reducible rfl)
        try simp only [List.getElem_toArray, List.getElem_cons_zero, List.getElem_cons_succ, Act.put, List.setIfInBounds_toArray, List.set_cons_zero, List.set_cons_succ]
        refine wpAnyH_take (i := 17) (v := ?_) rfl (by kernel_rfl) (by kernel_rfl) (by kernel_rfl) (fun _ _ _ h => h) (Or.inl ⟨by rfl, ?_⟩) (by assumption) ?_; rotate_left
        · (intro w hSw; (try dsimp only at hSw); go_simp; try with_reducible rfl)
        try simp only [List.getElem_toArray, List.getElem_cons_zero, List.getElem_cons_succ, Act.put, List.setIfInBounds_toArray, List.set_cons_zero, List.set_cons_succ]
        refine wpAnyH_take (i := 18) (v := ?_) rfl (by kernel_rfl) (by kernel_rfl) (by kernel_rfl) (fun _ _ _ h => h) (Or.inl ⟨by rfl, ?_⟩) (by assumption) ?_; rotate_left
        · (intro w hSw; (try dsimp only at hSw); go_simp; try with_reducible rfl)
        try simp only [List.getElem_toArray, List.getElem_cons_zero, List.getElem_cons_succ, Act.put, List.setIfInBounds_toArray, List.set_cons_zero, List.set_cons_succ]
        refine wpAnyH_ready (rs := [19]) (by kernel_rfl) (by simp) ?_
        refine AllReadyH.cons rfl (fun K hK => ?_) AllReadyH.nil
        go_simp
        refine (a5.out _ hgd.out).mono ?_; rintro e w3 ⟨ao, cap, rfl, hg⟩; have hG3 : Hid (w2.grownBy w3 none) := Hid.mk' (gt hgd.out hg); try dsimp only
        refine hK.out _ _ (hS.out w3 hG3.out) (fun hHeld => ?_)
        clear hK K
        try simp only [List.getElem_toArray, List.getElem_cons_zero, List.getElem_cons_succ, Act.put, List.setIfInBounds_toArray, List.set_cons_zero, List.set_cons_succ]
        refine wpAnyH_take (i := 20) (v := ?_) rfl (by kernel_rfl) (by kernel_rfl) (by kernel_rfl) (fun _ _ _ h => h) (Or.inl ⟨by rfl, ?_⟩) (by assumption) ?_; rotate_left
        · (intro w hSw; (try dsimp only at hSw); go_simp; try with_reducible rfl)
        try simp only [List.getElem_toArray, List.getElem_cons_zero, List.getElem_cons_succ, Act.put, List.setIfInBounds_toArray, List.set_cons_zero, List.set_cons_succ]
        refine wpAnyH_take (i := 21) (v := ?_) rfl (by kernel_rfl) (by kernel_rfl) (by kernel_rfl) (fun _ _ _ h => h) (Or.inl ⟨by rfl, ?_⟩) (by assumption) ?_; rotate_left
        · (intro w hSw; (try dsimp only at hSw); go_simp; try with_reducible rfl)
        try simp only [List.getElem_toArray, List.getElem_cons_zero, List.getElem_cons_succ, Act.put, List.setIfInBounds_toArray, List.set_cons_zero, List.set_cons_succ]
        refine wpAnyH_take (i := 22) (v := ?_) rfl (by kernel_rfl) (by kernel_rfl) (by kernel_rfl) (fun _ _ _ h => h) (Or.inl ⟨by rfl, ?_⟩) (by assumption) ?_; rotate_left
        · (intro w hSw; (try dsimp only at hSw); go_simp; try with_reducible rfl)
        try simp only [List.getElem_toArray, List.getElem_cons_zero, List.getElem_cons_succ, Act.put, List.setIfInBounds_toArray, List.set_cons_zero, List.set_cons_succ]
        refine wpAnyH_done (by kernel_rfl) ?_ _
        have x0 : w3.cell? ⟨g, i, none⟩ = some (.int .i32 z) := hHeld.1
        clear hHeld hS0
        cases bI with
        | true =>
          go_wp2
          go_roundw
          case rel => exact ⟨i + 1, by omega, by go_num, by rw [hnj.out]; rfl, hG3⟩
          all_goals (simp [intOf] <;> omega)
        | false =>
          by_cases hzu : z = u
          · have hzu' : (z == u) = true := by simpa using hzu
            go_wp2
            go_roundw
            case rel => exact ⟨i + 1, by omega, by go_num, by rw [hnj.out]; simp [hzu], hG3⟩
            all_goals (simp [intOf] <;> omega)
          · have hzu' : (z == u) = false := by simpa using hzu
            go_wp2
            go_roundw
            case rel => exact ⟨i + 1, by omega, by go_num, by rw [hnj.out]; simp [hzu], hG3⟩
            all_goals (simp [intOf] <;> omega)
    · obtain rfl : i = 212 := by omega
      have e212 : allI.take 212 = allI := List.take_of_length_le (by rw [allI_len]; omega)
      rw [e212, all_in]
      have hPx := Hid.mk' (K.out _ _ hP2.out hgx.out)
      obtain ⟨n, hn⟩ : ∃ n, Hid ((cands u).length = n) := ⟨_, Hid.mk' rfl⟩
      have a6 : Hid (∀ wx, P wx → Calls Try.prog 8 #[.int .i32 u] wx fun e w' => ∃ ao cap, e = .returned (.slice ao n cap) ∧ wx.grownBy w' none) := Hid.mk' (fun wx hp => (a1.out u hu wx hp).mono (fun e w' h => by
        obtain ⟨ao, cap, h1, h2, h3, h4⟩ := h
        rw [hn.out] at h1
        exact ⟨ao, cap, h1, h3⟩))
      have a7 := Hid.mk' (fun w => all_any w)
      by_cases hc : cands u = []
      · have hc2 : decide (cands u ≠ []) = false := by simp [hc]
        have hn0 : n = 0 := by rw [← hn.out, hc]; rfl
        subst hn0
        rw [hc2]
        clear hc hc2 hn
        go_wp2_with (first
          | (go_at_call 8; refine (a6.out _ hPx.out).mono ?_; rintro e w3 ⟨ao, cap, rfl, hg3⟩)
          | (go_at_call 15; refine (a7.out _).mono ?_; rintro e w4 ⟨ro, rc, rfl, oR, hg4, fR⟩)
          | (go_at_call 14; refine (same_runes _ ro lc rc allI 212 allI_len _ (rL.out.kept0 (gt hgx.out (gt hg3 hg4))) oR.rd q1 q2 (by have := oR.cap_le; rw [allI_len] at this; exact this) oR.cap_max).mono ?_; rintro e w5 ⟨rfl, hg5⟩))
        go_ret
        exact ⟨rfl, gt hG2.out (gt hgx.out (gt hg3 (gt hg4 hg5)))⟩
      · have hc2 : decide (cands u ≠ []) = true := by simp [hc]
        obtain ⟨m, rfl⟩ : ∃ m, n = m + 1 := ⟨n - 1, by have := List.length_pos_iff.2 hc; have := hn.out; omega⟩
        rw [hc2]
        clear hc hc2 hn
        go_wp2_with (first
          | (go_at_call 8; refine (a6.out _ hPx.out).mono ?_; rintro e w3 ⟨ao, cap, rfl, hg3⟩)
          | (go_at_call 15; refine (a7.out _).mono ?_; rintro e w4 ⟨ro, rc, rfl, oR, hg4, fR⟩)
          | (go_at_call 14; refine (same_runes _ ro lc rc allI 212 allI_len _ (rL.out.kept0 (gt hgx.out (gt hg3 hg4))) oR.rd q1 q2 (by have := oR.cap_le; rw [allI_len] at this; exact this) oR.cap_max).mono ?_; rintro e w5 ⟨rfl, hg5⟩))
        go_ret
        exact ⟨rfl, gt hG2.out (gt hgx.out (gt hg3 (gt hg4 hg5)))⟩
theorem tab_scan : ∀ p ∈ tab, ∀ s ∈ p.2, (U8.scanAll s).2.2 = 0 ∧ 1 ≤ (U8.scanAll s).1.length ∧ (U8.scanAll s).1.length ≤ 4 ∧ p.1 ∉ (U8.scanAll s).1 := by decide +kernel
theorem wid_scan : ∀ n, n < 94 → U8.scanAll [UInt8.ofNat (n + 33)] = ([n + 33], 1, 0) := by decide +kernel
theorem cand_scan (u : Int) : ∀ s ∈ cands u, (U8.scanAll s).2.2 = 0 ∧ 1 ≤ (U8.scanAll s).1.length ∧ (U8.scanAll s).1.length ≤ 4 ∧ ∀ r ∈ (U8.scanAll s).1, ¬ (r : Int) = u := by
  intro s hs
  by_cases hw : 65281 ≤ u ∧ u ≤ 65374
  · rw [cands_wide hw] at hs
    simp only [List.mem_cons, List.not_mem_nil, or_false] at hs
    have e : (u - 65248).toNat = (u - 65281).toNat + 33 := by omega
    rw [hs, e, wid_scan _ (by omega)]
    refine ⟨rfl, by simp, by simp, fun r hr => ?_⟩
    simp only [List.mem_cons, List.not_mem_nil, or_false] at hr
    omega
  · by_cases hk : ∃ p ∈ tab, (p.1 : Int) = u
    · obtain ⟨p, hp, rfl⟩ := hk
      rw [(tab_cands p hp).1] at hs
      have h := tab_scan p hp s hs
      refine ⟨h.1, h.2.1, h.2.2.1, fun r hr e => ?_⟩
      obtain rfl : r = p.1 := by omega
      exact h.2.2.2 hr
    · rw [cands_none hw (fun p hp e => hk ⟨p, hp, e⟩)] at hs
      simp at hs
set_option maxRecDepth 100000 in
set_option maxHeartbeats 3000000 in
theorem short_walk {P : World → Prop} (C : Con P) (u : Int) (hu : I32 u) (w : World) (hw : P w) : Calls Try.prog 6 #[.int .i32 u] w fun e w' => e = .returned (.bool true) ∧ w.grownBy w' none := by
  obtain ⟨T, hT⟩ : ∃ T, Hid (cands u = T) := ⟨_, Hid.mk' rfl⟩
  have a0 := Hid.mk' (fun w hw => works_any C w hw)
  have a1 := Hid.mk' (fun w hw => C.cand u hu w hw)
  rw [hT.out] at a1
  have hTl : T.length ≤ 3 := by rw [← hT.out]; exact (cands_short u).1
  have hTs : Hid (∀ s ∈ T, s.length ≤ 8) := Hid.mk' (fun s hs => by rw [← hT.out] at hs; exact ((cands_short u).2.1 s hs).1)
  have hTn : Hid T.Nodup := Hid.mk' (by rw [← hT.out]; exact (cands_short u).2.2)
  have hTc : Hid (∀ s ∈ T, (U8.scanAll s).2.2 = 0 ∧ 1 ≤ (U8.scanAll s).1.length ∧ (U8.scanAll s).1.length ≤ 4 ∧ ∀ r ∈ (U8.scanAll s).1, ¬ (r : Int) = u) := Hid.mk' (by rw [← hT.out]; exact cand_scan u)
  have K := Hid.mk' (fun (a b : World) (h : P a) (g : a.grownBy b none) => C.keep h g)
  have hq := Hid.mk' hw
  clear C hw hT
  go_enter Try.func6, Try.ntmps6
  go_upto_region 3 with (go_at_call 12; refine (a0.out _ hq.out).mono ?_; rintro e w1 ⟨rfl, hg1⟩; have hP1 := Hid.mk' (K.out _ _ hq.out hg1))
  go_upto_region 5 with (go_at_call 8; refine (a1.out _ hP1.out).mono ?_; rintro e w2 ⟨co, cc, rfl, oC, hg2, fC⟩)
  have hG2 := Hid.mk' (gt hg1 hg2)
  have rC := Hid.mk' oC.rd
  have q1 := oC.cap_le
  have q2 := oC.cap_max
  clear oC hg1 hg2 fC a0 a1
  go_loopw [4] (fun t4 wx => ∃ (i : Nat), i ≤ T.length ∧ t4 = .int .i64 (i : Int) ∧ Hid (w2.grownBy wx none)) (fun t4 _ => T.length - (intOf t4).toNat)
  case atStart => exact ⟨0, by omega, rfl, Hid.mk' (grownBy_refl _ _)⟩
  case round =>
    obtain ⟨i, hi, rfl, hgx⟩ := hrel
    by_cases hlt : i < T.length
    · obtain ⟨s, hs⟩ : ∃ s, Hid (T[i] = s) := ⟨_, Hid.mk' rfl⟩
      have hsT : Hid (s ∈ T) := Hid.mk' (by rw [← hs.out]; exact List.getElem_mem hlt)
      obtain ⟨cb, cof, rfl, hcb, x0⟩ := stcell (rC.out.kept0 hgx.out) hlt
      rw [hs.out] at x0
      have hs8 : s.length ≤ 8 := hTs.out s hsT.out
      have hlt' : (i : Int) < (T.length : Int) := by omega
      have hi0 : (0 : Int) ≤ (i : Int) := by omega
      obtain ⟨c6, w6, hcv6, hB6, hg6, hc6, hd6⟩ := conv_str wr s (by omega)
      obtain ⟨⟨U, NN, EE⟩, hE⟩ : ∃ p, U8.scanAll s = p := ⟨_, rfl⟩
      have hsc := hTc.out s hsT.out
      rw [hE] at hsc
      simp only at hsc
      obtain ⟨rfl, hU1, hU4, hUu⟩ := hsc
      obtain ⟨n, hn⟩ : ∃ n, Hid (U.length = n) := ⟨_, Hid.mk' rfl⟩
      have a2 := Hid.mk' (U8.refscalars_any _ c6 s w6 hB6 (by omega) hc6 hd6 0 NN U (Hid.mk' hE))
      rw [hn.out] at a2 hU1 hU4
      have hUu' := Hid.mk' hUu
      have hg6' := Hid.mk' hg6
      have f1 : decide ((n : Int) < 1) = false := by simp; omega
      have f2 : decide (4 < (n : Int)) = false := by simp; omega
      clear hB6 hE hg6 hUu
      go_upto_region 8 with (go_at_call 16; refine a2.out.mono ?_; rintro e w7 ⟨lo, lc, rfl, hU, g7⟩)
      have hU7 := Hid.mk' hU
      have hG7 := Hid.mk' (gt hgx.out (gt hg6'.out g7))
      clear hcv6 hU g7 a2 hg6'
      go_upto_region 11 with fail
      clear f1 f2
      go_loopw [8] (fun t8 wx => ∃ k : Nat, k ≤ n ∧ t8 = .int .i64 (k : Int) ∧ Hid (w7.grownBy wx none)) (fun t8 _ => n - (intOf t8).toNat)
      case atStart => exact ⟨0, by omega, rfl, Hid.mk' (grownBy_refl _ _)⟩
      case round =>
        obtain ⟨k, hk, rfl, hg8⟩ := hrel
        by_cases hkl : k < n
        · have hkU : k < U.length := by rw [hn.out]; exact hkl
          have hkl' : (k : Int) < (n : Int) := by omega
          have hk0 : (0 : Int) ≤ (k : Int) := by omega
          obtain ⟨r, hr⟩ : ∃ r, Hid (U[k] = r) := ⟨_, Hid.mk' rfl⟩
          have hru : ((r : Int) == u) = false := by
            have := hUu'.out r (by rw [← hr.out]; exact List.getElem_mem hkU)
            simpa using this
          obtain ⟨lb, lf, rfl, hlq⟩ := U8.runes_cell hU7.out (by intro e; have h5 := congrArg List.length e; simp [U8.ints] at h5; rw [h5] at hkU; simp at hkU)
          have xr : wr.cell? ⟨lb, lf + k, none⟩ = some (.int .i32 (r : Int)) := by
            have := hg8.out.cell (hlq k (by simp [U8.ints]; exact hkU)) (by simp)
            simpa [U8.ints, hr.out] using this
          clear hlq hr hkU
          go_wp2
          go_roundw
          case rel => exact ⟨k + 1, by omega, by go_num, hg8⟩
          all_goals (simp [intOf] <;> omega)
        · obtain rfl : k = n := by omega
          have hG8 := Hid.mk' (gt hG7.out hg8.out)
          go_upto_region 16 with fail
          go_loopw [9] (fun t9 wx => ∃ k : Nat, k ≤ i ∧ t9 = .int .i64 (k : Int) ∧ Hid (w2.grownBy wx none)) (fun t9 _ => i - (intOf t9).toNat)
          case atStart => exact ⟨0, by omega, rfl, hG8⟩
          case round =>
            obtain ⟨k, hk, rfl, hg9⟩ := hrel
            by_cases hkl : k < i
            · have hkT : k < T.length := by omega
              have hkl' : (k : Int) < (i : Int) := by omega
              have hkl2 : (k : Int) < (T.length : Int) := by omega
              have hk0 : (0 : Int) ≤ (k : Int) := by omega
              obtain ⟨cb2, cof2, e2, hcb2, xk⟩ := stcell (rC.out.kept0 hg9.out) hkT
              cases e2
              obtain ⟨cb3, cof3, e3, hcb3, xi⟩ := stcell (rC.out.kept0 hg9.out) hlt
              cases e3
              have hne : Hid (¬ str T[k] = str T[i]) := Hid.mk' (fun e => by
                have e2 := str_inj e
                exact List.pairwise_iff_getElem.1 hTn.out k i hkT hlt hkl e2)
              obtain ⟨sk, hsk⟩ : ∃ s, Hid (str T[k] = s) := ⟨_, Hid.mk' rfl⟩
              obtain ⟨si, hsi⟩ : ∃ s, Hid (str T[i] = s) := ⟨_, Hid.mk' rfl⟩
              rw [hsk.out] at xk
              rw [hsi.out] at xi
              have hki : ¬ sk = si := by rw [← hsk.out, ← hsi.out]; exact hne.out
              have hki3 : (sk.toList == si.toList) = false := by
                rw [← hsk.out, ← hsi.out, str_toList, str_toList]
                have h5 : ¬ T[k] = T[i] := fun e => hne.out (by rw [e])
                simpa using h5
              clear hsk hne hkT
              go_wp2
              go_quiet (fail)
              go_wp2
              go_roundw
              case rel => exact ⟨k + 1, by omega, by go_num, Hid.mk' (gt hg9.out ⟨rfl, rfl, rfl, Nat.le_refl _, fun _ _ _ => rfl⟩)⟩
              all_goals (simp [intOf] <;> omega)
            · obtain rfl : k = i := by omega
              go_wp2
              go_roundw
              case rel => exact ⟨k + 1, by omega, by go_num, hg9⟩
              all_goals (simp [intOf] <;> omega)
    · obtain rfl : i = T.length := by omega
      go_wp2
      go_ret
      exact ⟨rfl, gt hG2.out hgx.out⟩
end Go.Proofs.Ytjhdepbiakekaaa.C22

/- The program's Candidates and All of layer 22: walks. -/
import Derived.Test.YtjhdepbiakekaaaTP22
import Derived.Test.YtjhdepbiakekaaaTA22
import Derived.Lib.SlBytesConst
namespace Go.Proofs.Ytjhdepbiakekaaa.C22
open Go.ChangeShapes Go.WideShapes Go.ChangeAt Go.RowKit Go.Proofs.Ytjhdepbiakekaaa.Mem Go.Proofs.Ytjhdepbiakekaaa.El Go.Proofs.Ytjhdepbiakekaaa.St Go.Proofs.Ytjhdepbiakekaaa.Ru Go.Proofs.Ytjhdepbiakekaaa.Cb
set_option linter.unusedVariables false
set_option linter.unusedSimpArgs false

abbrev eC (z : Int) (a b c : ByteArray) : Array Value := #[.int .i32 z, .string a, .string b, .string c]
theorem infoE : (Try.prog.info? 39).map (·.size) = some 4 := by kernel_rfl
theorem zeroE (w : World) : (zeroValue 39).run Try.prog w = .ok (.agg (eC 0 ⟨#[]⟩ ⟨#[]⟩ ⟨#[]⟩)) w := by kernel_rfl
theorem eC_one (z : Int) (a b c : ByteArray) : (eC z a b c).all (·.oneCell') = true := by kernel_rfl
theorem flat_at : ∀ (L : List (Nat × List (List UInt8))) (i : Nat) (h : i < L.length), ((L.flatMap entC).drop (i * 4)).take 4 = entC L[i]
  | [], i, h => by simp at h
  | a :: L, 0, h => by simp [entC]
  | a :: L, i + 1, h => by
    have ih := flat_at L i (by simpa using h)
    have e : (i + 1) * 4 = (entC a).length + i * 4 := by simp [entC]; omega
    rw [List.flatMap_cons, e, ← List.drop_drop, List.drop_left, ih]
    rfl
theorem tab_len : tab.length = 118 := by decide +kernel
theorem idx_tab (i : Nat) (h : i < tab.length) (w : World) : (Instr.index 40 (.agg tabC) (.int .i64 (i : Int))).run Try.prog w = .ok (.agg (eC ((tab[i]).1 : Int) (str ((tab[i]).2.getD 0 [])) (str ((tab[i]).2.getD 1 [])) (str ((tab[i]).2.getD 2 [])))) w := by
  have hi : i < 118 := by rw [← tab_len]; exact h
  have he : tabC.extract (i * 4) (i * 4 + 4) = (entC tab[i]).toArray := by
    apply Array.toList_inj.1
    rw [Array.toList_extract]
    simp only [tabC, List.extract_eq_take_drop, Nat.add_sub_cancel_left]
    exact flat_at tab i h
  have hinf := infoE
  cases hx : Try.prog.info? 39 with
  | none => rw [hx] at hinf; cases hinf
  | some x =>
    rw [hx] at hinf
    have hs : x.size = 4 := by simpa using hinf
    have := tabC_size
    simp [Instr.index, asIntOf, run_underlying Try.underlying40, run_underlying Try.underlying39, part, isAgg, sizeOf, typeInfo, hx, hs, hi, go_sem, he, entC]
    exact ⟨rfl, rfl, rfl, rfl⟩
theorem nz_tab : ∀ p ∈ tab, nz [p.2.getD 0 [], p.2.getD 1 [], p.2.getD 2 []] = p.2 := by decide +kernel
theorem enc_low (n : Nat) (h : n < 128) : Utf8.encode (n : Int) = str [UInt8.ofNat n] := by
  have hv : Utf8.valid (n : Int) = true := by simp only [Utf8.valid, Bool.or_eq_true, Bool.and_eq_true, decide_eq_true_eq]; omega
  simp [Utf8.encode, hv, h, str]
set_option maxRecDepth 100000 in
set_option maxHeartbeats 1000000 in
theorem pcand_wide (u m : Int) (n : Nat) (h1 : 33 ≤ n) (h2 : n ≤ 126) (hm : u - 65248 = m) (hn : Hid (m = (n : Int))) (w : World) : Calls Try.prog 8 #[.int .i32 u] w fun e w' => STold w [[UInt8.ofNat n]] e w' := by
  have hnn := hn.out
  have d1 : decide (65281 ≤ u) = true := by simp; omega
  have d2 : decide (u ≤ 65374) = true := by simp; omega
  have d3 : wrap32 m = m := by unfold wrap32; omega
  have d4 : 0 ≤ m := by omega
  have d5 : m ≤ 126 := by omega
  clear hnn
  go_enter Try.func8, Try.ntmps8
  go_wp2
  go_ret
  exact told_lit w _ [[UInt8.ofNat n]] 1 rfl (show [Value.string (Utf8.encode m)] = [Value.string (str [UInt8.ofNat n])] by rw [hn.out, enc_low n (by omega)]) (by simp)
theorem cands_hit {i : Nat} (h : i < tab.length) {u : Int} (e : ((tab[i]).1 : Int) = u) : nz [(tab[i]).2.getD 0 [], (tab[i]).2.getD 1 [], (tab[i]).2.getD 2 []] = cands u := by
  subst e
  have hm : tab[i] ∈ tab := List.getElem_mem h
  rw [nz_tab _ hm, (tab_cands _ hm).1]
/-- The rest of Candidates, behind the question whether it is wide. -/
def restI (u : Int) (i : Nat) : Prop := ∀ j (h : j < tab.length), j < i → ¬ ((tab[j]).1 : Int) = u
set_option maxRecDepth 100000 in
set_option maxHeartbeats 1000000 in
theorem pcand_list (u : Int) (hw : Hid (¬ (65281 ≤ u ∧ u ≤ 65374))) (hd : decide (65281 ≤ u) = false ∨ (decide (65281 ≤ u) = true ∧ decide (u ≤ 65374) = false)) (w : World) : Calls Try.prog 8 #[.int .i32 u] w fun e w' => STold w (cands u) e w' := by
  have hL := Hid.mk' (fun w => list_any w)
  have hix := Hid.mk' idx_tab
  obtain ⟨TC, hTC⟩ : ∃ T, tabC = T := ⟨_, rfl⟩
  rw [hTC] at hL hix
  clear hTC
  have hN := Hid.mk' tab_len
  obtain ⟨R, hR⟩ : ∃ R, Hid (cands u = R) := ⟨_, Hid.mk' rfl⟩
  rw [hR.out]
  rcases hd with hd | ⟨hd, hd2⟩
  all_goals
    go_enter Try.func8, Try.ntmps8
    go_wp2_with (go_at_call 17; refine (hL.out _).mono ?_; rintro e w1 ⟨rfl, hg1⟩)
    have hG1 := Hid.mk' hg1
    clear hg1
    go_loopw [16] (fun t16 wx => ∃ i : Nat, i ≤ 118 ∧ t16 = .int .i64 (i : Int) ∧ Hid (restI u i) ∧ Hid (w.grownBy wx none)) (fun t16 _ => 118 - (intOf t16).toNat)
    case atStart => exact ⟨0, by omega, rfl, Hid.mk' (fun j _ hj => by omega), hG1⟩
    case round =>
      obtain ⟨i, hi, rfl, hno, hgx⟩ := hrel
      by_cases hlt : i < 118
      · have hlt' : (i : Int) < 118 := by omega
        have hiL : i < tab.length := by rw [hN.out]; exact hlt
        have hq := hix.out i hiL
        obtain ⟨c0, h0⟩ : ∃ c, Hid ((tab[i]).2.getD 0 [] = c) := ⟨_, Hid.mk' rfl⟩
        obtain ⟨c1, h1⟩ : ∃ c, Hid ((tab[i]).2.getD 1 [] = c) := ⟨_, Hid.mk' rfl⟩
        obtain ⟨c2, h2⟩ : ∃ c, Hid ((tab[i]).2.getD 2 [] = c) := ⟨_, Hid.mk' rfl⟩
        obtain ⟨z, hz⟩ : ∃ z, Hid (((tab[i]).1 : Int) = z) := ⟨_, Hid.mk' rfl⟩
        rw [h0.out, h1.out, h2.out, hz.out] at hq
        have hP := Hid.mk' (present_any c0 c1 c2)
        obtain ⟨s0, e0⟩ : ∃ s, str c0 = s := ⟨_, rfl⟩
        obtain ⟨s1, e1⟩ : ∃ s, str c1 = s := ⟨_, rfl⟩
        obtain ⟨s2, e2⟩ : ∃ s, str c2 = s := ⟨_, rfl⟩
        rw [e0, e1, e2] at hq hP
        clear e0 e1 e2
        go_upto_region 6 with (first
          | (refine wpList_allocC _ rfl 39 rfl (eC 0 ⟨#[]⟩ ⟨#[]⟩ ⟨#[]⟩) (zeroE _) ?_; intro w2 v2 hg2)
          | (refine wpList_storeC _ rfl 39 _ _ rfl wr.heap.size (eC 0 ⟨#[]⟩ ⟨#[]⟩ ⟨#[]⟩) (eC z s0 s1 s2) infoE rfl (eC_one _ _ _ _) rfl rfl v2 ?_; intro w3 v3 hg3))
        have hg13 : Hid (w.grownBy w3 none) := Hid.mk' (gt hgx.out (grownBy_new hg2 hg3 (fun k hk => by have h5 := Option.some.inj hk; omega)))
        have y0 := v3.cell 0 rfl
        have y1 := v3.cell 1 rfl
        have y2 := v3.cell 2 rfl
        have y3 := v3.cell 3 rfl
        clear v2 v3 hg2 hg3 hq
        by_cases hzu : z = u
        · have hzu' : (z == u) = true := by simpa using hzu
          have hRe : Hid (nz [c0, c1, c2] = R) := Hid.mk' (by rw [← hR.out, ← h0.out, ← h1.out, ← h2.out]; exact cands_hit hiL (by rw [hz.out]; exact hzu))
          rw [hRe.out] at hP
          clear hR hiL hz hzu h0 h1 h2 hRe
          go_wp2_with (go_at_call 18; refine (hP.out _).mono ?_; rintro e w4 ⟨ao, cap, rfl, ho, hg4, hb⟩)
          go_ret
          exact ⟨ao, cap, rfl, ho, gt hg13.out hg4, fun g hq => Nat.le_trans hg13.out.size (hb g hq)⟩
        · have hzu' : (z == u) = false := by simpa using hzu
          go_wp2
          go_roundw
          case rel => exact ⟨i + 1, by omega, by go_num, Hid.mk' (fun j h hj => by
            by_cases e : j = i
            · subst e; rw [hz.out]; exact hzu
            · exact hno.out j h (by omega)), hg13⟩
          all_goals (simp [intOf]; omega)
      · obtain rfl : i = 118 := by omega
        have hRe : R = [] := by
          rw [← hR.out]
          refine cands_none hw.out (fun p hp e => ?_)
          obtain ⟨j, hj, e2⟩ := List.getElem_of_mem hp
          subst e2
          exact hno.out j hj (by rw [← hN.out]; exact hj) e
        subst hRe
        clear hR hno hix
        go_wp2
        go_ret
        exact ⟨none, 0, rfl, .inl ⟨rfl, rfl, rfl⟩, hgx.out, by simp [blk]⟩
theorem pcand_any (u : Int) (w : World) : Calls Try.prog 8 #[.int .i32 u] w fun e w' => STold w (cands u) e w' := by
  by_cases h : 65281 ≤ u ∧ u ≤ 65374
  · rw [cands_wide h]
    exact pcand_wide u (u - 65248) (u - 65248).toNat (by omega) (by omega) rfl (Hid.mk' (by omega)) w
  · refine pcand_list u (Hid.mk' h) ?_ w
    by_cases h1 : 65281 ≤ u
    · exact .inr ⟨by simpa using h1, by simp; omega⟩
    · exact .inl (by simpa using h1)
end Go.Proofs.Ytjhdepbiakekaaa.C22

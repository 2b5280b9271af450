/- The program's Aliases, Name and numbered of layer 23: walks. -/
import Derived.Test.YtljkncgbabiojaaDoorPL23
import Derived.Test.YtljkncgbabiojaaDoorNL23
import Derived.Deep.RegionHeld3
import Derived.BigQuiet
namespace Go.Proofs.YtljkncgbabiojaaDoor.C23
open Go.ChangeShapes Go.WideShapes Go.ChangeAt Go.RowKit Go.Proofs.YtljkncgbabiojaaDoor.Mem Go.Proofs.YtljkncgbabiojaaDoor.El Go.Proofs.YtljkncgbabiojaaDoor.St Go.Proofs.YtljkncgbabiojaaDoor.Ri Go.Proofs.YtljkncgbabiojaaDoor.Sx Go.Proofs.YtljkncgbabiojaaDoor.Cb
set_option linter.unusedVariables false
set_option linter.unusedSimpArgs false

def nbV (k : Int) : Value := if nm k = [] then .tuple #[.int .i64 0, .int .i64 5] else .tuple #[.int .i64 k, .int .i64 0]
theorem al_of {i : Nat} (h : i < alT.length) {K : Nat} {M : List (List UInt8)} (he : alT[i] = (K, M)) : al (K : Int) = M ∧ M ≠ [] ∧ M.length ≤ 5 ∧ nm (K : Int) ≠ [] := by
  have h1 := al_at _ (List.getElem_mem h)
  rw [he] at h1
  have h2 : al (K : Int) = M := h1.1
  exact ⟨h2, h1.2.1, h1.2.2.2.2.2, fun e => h1.2.1 (by rw [← h2]; exact nm_iff.1 e)⟩
theorem al_no {k : Int} {i : Nat} (hi : ¬ i < 56) (h : ∀ (j : Nat) (hj : j < alT.length), j < i → ((alT[j].1 : Nat) : Int) ≠ k) : al k = [] := al_none (fun p hp => by
  obtain ⟨j, hj, e⟩ := List.getElem_of_mem hp
  rw [← e]
  exact h j hj (by have := alT_n; omega))
theorem al_next {k : Int} {i : Nat} (hi : i < alT.length) {K : Nat} {M : List (List UInt8)} (he : alT[i] = (K, M)) (hk : ¬ (K : Int) = k) (h : ∀ (j : Nat) (hj : j < alT.length), j < i → ((alT[j].1 : Nat) : Int) ≠ k) : ∀ (j : Nat) (hj : j < alT.length), j < i + 1 → ((alT[j].1 : Nat) : Int) ≠ k := by
  intro j hj hji
  by_cases e : j = i
  · subst e
    rw [he]
    exact hk
  · exact h j hj (by omega)
set_option maxRecDepth 100000 in
set_option maxHeartbeats 2000000 in
theorem pAlias (k : Int) (w : World) : Calls Tryd.prog 12 #[.int .i64 k] w fun e w' => STold w (al k) e w' := by
  have a1 := Hid.mk' list_any
  go_enter Tryd.func12, Tryd.ntmps12
  go_wp2_with (go_at_call 22; refine (a1.out _).mono ?_; rintro e w1 ⟨G, A, rfl, hL, hg1, hA⟩)
  have hG1 := Hid.mk' hg1
  clear hg1
  go_loopw [7] (fun t wx => ∃ i : Nat, i ≤ 56 ∧ t = .int .i64 (i : Int) ∧ Hid (∀ (j : Nat) (hj : j < alT.length), j < i → ((alT[j].1 : Nat) : Int) ≠ k) ∧ Hid (w1.grownBy wx none)) (fun t _ => 56 - (intOf t).toNat)
  case atStart => exact ⟨0, by omega, rfl, Hid.mk' (fun j hj h => by omega), Hid.mk' (grownBy_refl _ _)⟩
  case round =>
    obtain ⟨i, hi, rfl, hn, hgx⟩ := hrel
    by_cases hlt : i < 56
    · have hiL : i < alT.length := by rw [alT_n]; exact hlt
      obtain ⟨hb, c0, c1, ho⟩ := hL.out.kept hgx.out i hiL
      obtain ⟨K, M, he⟩ : ∃ K M, alT[i] = (K, M) := ⟨_, _, rfl⟩
      rw [he] at c0 c1 ho
      obtain ⟨q1, q2, q3, q4⟩ := al_of hiL he
      have HQ := Hid.mk' (And.intro q1 (And.intro q2 (And.intro q3 q4)))
      have HN := Hid.mk' (fun hk : ¬ (K : Int) = k => al_next hiL he hk hn.out)
      obtain ⟨n, hnl⟩ : ∃ n, Hid (M.length = n) := ⟨_, Hid.mk' rfl⟩
      obtain ⟨ai, hai⟩ : ∃ x, Hid (A i = x) := ⟨_, Hid.mk' rfl⟩
      have HF : Hid (w.heap.size ≤ ai) := Hid.mk' (by rw [← hai.out]; exact hA.out i)
      simp only [hnl.out, hai.out] at c1 ho
      simp only at c0
      have HO := Hid.mk' ho
      have hlt' : (i : Int) < 56 := by omega
      have hi0 : (0 : Int) ≤ (i : Int) := by omega
      clear he q1 q2 q3 q4 ho hn hai hiL
      by_cases hk : (K : Int) = k
      · have k1 : ((K : Int) == k) = true := by simpa using hk
        have k2 := Hid.mk' hk
        clear hk
        go_upto_region 4 with (first
          | (refine wpList_allocC _ rfl 55 rfl eZ (zeroE _) ?_; intro w2 v2 hg2)
          | (refine wpList_storeC _ rfl 55 _ _ rfl wr.heap.size eZ (eC (K : Int) ai n) infoE rfl (eC_one _ _ _) rfl rfl v2 ?_; intro w3 v3 hg3))
        have hg13 : Hid (wr.grownBy w3 none) := Hid.mk' (grownBy_new hg2 hg3 (fun k hk => by have h5 := Option.some.inj hk; omega))
        have HG3 : Hid (w.grownBy w3 none) := Hid.mk' (gt hG1.out (gt hgx.out hg13.out))
        have HO3 := Hid.mk' (HO.out.kept0 hg13.out)
        obtain ⟨QB, hQB⟩ : ∃ b, Hid (wr.heap.size = b) := ⟨_, Hid.mk' rfl⟩
        rw [hQB.out] at v3
        rw [hQB.out]
        have y0 := v3.cell 0 rfl
        have y1 := v3.cell 1 rfl
        clear v2 hg2 hg3 v3 c0 c1 hQB
        go_wp2
        go_ret
        exact ⟨some ⟨ai, 0, none⟩, n, by rw [← k2.out, HQ.out.1, hnl.out]; rfl, by rw [← k2.out, HQ.out.1]; exact HO3.out, HG3.out, fun g hg => by have h5 : ai = g := Option.some.inj hg; have := HF.out; omega⟩
      · have k1 : ((K : Int) == k) = false := by simpa using hk
        have hN2 := Hid.mk' (HN.out hk)
        clear HN
        go_upto_region 4 with (first
          | (refine wpList_allocC _ rfl 55 rfl eZ (zeroE _) ?_; intro w2 v2 hg2)
          | (refine wpList_storeC _ rfl 55 _ _ rfl wr.heap.size eZ (eC (K : Int) ai n) infoE rfl (eC_one _ _ _) rfl rfl v2 ?_; intro w3 v3 hg3))
        have hg13 : Hid (wr.grownBy w3 none) := Hid.mk' (grownBy_new hg2 hg3 (fun k hk => by have h5 := Option.some.inj hk; omega))
        obtain ⟨QB, hQB⟩ : ∃ b, Hid (wr.heap.size = b) := ⟨_, Hid.mk' rfl⟩
        rw [hQB.out] at v3
        rw [hQB.out]
        have y0 := v3.cell 0 rfl
        have y1 := v3.cell 1 rfl
        clear v2 hg2 hg3 v3 c0 c1 hQB
        go_wp2
        go_roundw
        case rel => exact ⟨i + 1, by omega, by go_num, hN2, Hid.mk' (gt hgx.out hg13.out)⟩
        all_goals (simp [intOf] <;> omega)
    · have hlt' : ¬ (i : Int) < 56 := by omega
      have hno := Hid.mk' (al_no hlt hn.out)
      clear hn
      go_wp2
      go_ret
      exact ⟨none, 0, by rw [hno.out]; rfl, by rw [hno.out]; exact .inl ⟨rfl, rfl, rfl⟩, gt hG1.out hgx.out, by simp [blk]⟩
set_option maxRecDepth 100000 in
set_option maxHeartbeats 2000000 in
theorem pName (k : Int) (w : World) : Calls Tryd.prog 14 #[.int .i64 k] w fun e w' => e = .returned (.string (str (nm k))) ∧ w.grownBy w' none := by
  have a1 := Hid.mk' list_any
  go_enter Tryd.func14, Tryd.ntmps14
  go_wp2_with (go_at_call 22; refine (a1.out _).mono ?_; rintro e w1 ⟨G, A, rfl, hL, hg1, hA⟩)
  have hG1 := Hid.mk' hg1
  clear hg1
  go_loopw [7] (fun t wx => ∃ i : Nat, i ≤ 56 ∧ t = .int .i64 (i : Int) ∧ Hid (∀ (j : Nat) (hj : j < alT.length), j < i → ((alT[j].1 : Nat) : Int) ≠ k) ∧ Hid (w1.grownBy wx none)) (fun t _ => 56 - (intOf t).toNat)
  case atStart => exact ⟨0, by omega, rfl, Hid.mk' (fun j hj h => by omega), Hid.mk' (grownBy_refl _ _)⟩
  case round =>
    obtain ⟨i, hi, rfl, hn, hgx⟩ := hrel
    by_cases hlt : i < 56
    · have hiL : i < alT.length := by rw [alT_n]; exact hlt
      obtain ⟨hb, c0, c1, ho⟩ := hL.out.kept hgx.out i hiL
      obtain ⟨K, M, he⟩ : ∃ K M, alT[i] = (K, M) := ⟨_, _, rfl⟩
      rw [he] at c0 c1 ho
      obtain ⟨q1, q2, q3, q4⟩ := al_of hiL he
      have HQ := Hid.mk' (And.intro q1 (And.intro q2 (And.intro q3 q4)))
      have HN := Hid.mk' (fun hk : ¬ (K : Int) = k => al_next hiL he hk hn.out)
      obtain ⟨n, hnl⟩ : ∃ n, Hid (M.length = n) := ⟨_, Hid.mk' rfl⟩
      obtain ⟨ai, hai⟩ : ∃ x, Hid (A i = x) := ⟨_, Hid.mk' rfl⟩
      have HF : Hid (w.heap.size ≤ ai) := Hid.mk' (by rw [← hai.out]; exact hA.out i)
      simp only [hnl.out, hai.out] at c1 ho
      simp only at c0
      have HO := Hid.mk' ho
      have hlt' : (i : Int) < 56 := by omega
      have hi0 : (0 : Int) ≤ (i : Int) := by omega
      clear he q1 q2 q3 q4 ho hn hai hiL
      by_cases hk : (K : Int) = k
      · have k1 : ((K : Int) == k) = true := by simpa using hk
        have k2 := Hid.mk' hk
        clear hk
        go_upto_region 4 with (first
          | (refine wpList_allocC _ rfl 55 rfl eZ (zeroE _) ?_; intro w2 v2 hg2)
          | (refine wpList_storeC _ rfl 55 _ _ rfl wr.heap.size eZ (eC (K : Int) ai n) infoE rfl (eC_one _ _ _) rfl rfl v2 ?_; intro w3 v3 hg3))
        have hg13 : Hid (wr.grownBy w3 none) := Hid.mk' (grownBy_new hg2 hg3 (fun k hk => by have h5 := Option.some.inj hk; omega))
        have HG3 : Hid (w.grownBy w3 none) := Hid.mk' (gt hG1.out (gt hgx.out hg13.out))
        have HO3 := Hid.mk' (HO.out.kept0 hg13.out)
        obtain ⟨QB, hQB⟩ : ∃ b, Hid (wr.heap.size = b) := ⟨_, Hid.mk' rfl⟩
        rw [hQB.out] at v3
        rw [hQB.out]
        have y0 := v3.cell 0 rfl
        have y1 := v3.cell 1 rfl
        clear v2 hg2 hg3 v3 c0 c1 hQB
        obtain ⟨s, r, hM0⟩ : ∃ s r, Hid (M = s :: r) := by
          cases hM : M with
          | nil => exact absurd hM HQ.out.2.1
          | cons s r => exact ⟨s, r, Hid.mk' rfl⟩
        have z0 : w3.cell? ⟨ai, 0, none⟩ = some (.string (str s)) := HO3.out.cells 0 _ (by rw [hM0.out]; rfl)
        have n1 : 0 < n := by rw [← hnl.out, hM0.out]; exact Nat.succ_pos _
        have n2 : (0 : Int) < (n : Int) := by omega
        obtain ⟨t, ht⟩ : ∃ t, Hid (str s = t) := ⟨_, Hid.mk' rfl⟩
        rw [ht.out] at z0
        go_wp2
        go_ret
        exact ⟨by rw [← k2.out]; unfold nm; rw [HQ.out.1, hM0.out]; exact congrArg _ (congrArg _ ht.out.symm), HG3.out⟩
      · have k1 : ((K : Int) == k) = false := by simpa using hk
        have hN2 := Hid.mk' (HN.out hk)
        clear HN
        go_upto_region 4 with (first
          | (refine wpList_allocC _ rfl 55 rfl eZ (zeroE _) ?_; intro w2 v2 hg2)
          | (refine wpList_storeC _ rfl 55 _ _ rfl wr.heap.size eZ (eC (K : Int) ai n) infoE rfl (eC_one _ _ _) rfl rfl v2 ?_; intro w3 v3 hg3))
        have hg13 : Hid (wr.grownBy w3 none) := Hid.mk' (grownBy_new hg2 hg3 (fun k hk => by have h5 := Option.some.inj hk; omega))
        obtain ⟨QB, hQB⟩ : ∃ b, Hid (wr.heap.size = b) := ⟨_, Hid.mk' rfl⟩
        rw [hQB.out] at v3
        rw [hQB.out]
        have y0 := v3.cell 0 rfl
        have y1 := v3.cell 1 rfl
        clear v2 hg2 hg3 v3 c0 c1 hQB
        go_wp2
        go_roundw
        case rel => exact ⟨i + 1, by omega, by go_num, hN2, Hid.mk' (gt hgx.out hg13.out)⟩
        all_goals (simp [intOf] <;> omega)
    · have hlt' : ¬ (i : Int) < 56 := by omega
      have hno := Hid.mk' (al_no hlt hn.out)
      clear hn
      go_wp2
      go_ret
      exact ⟨by unfold nm; rw [hno.out]; rfl, gt hG1.out hgx.out⟩
set_option maxRecDepth 100000 in
set_option maxHeartbeats 2000000 in
theorem pNumb (k : Int) (w : World) : Calls Tryd.prog 25 #[.int .i64 k] w fun e w' => e = .returned (nbV k) ∧ w.grownBy w' none := by
  have a1 := Hid.mk' list_any
  go_enter Tryd.func25, Tryd.ntmps25
  go_wp2_with (go_at_call 22; refine (a1.out _).mono ?_; rintro e w1 ⟨G, A, rfl, hL, hg1, hA⟩)
  have hG1 := Hid.mk' hg1
  clear hg1
  go_loopw [8] (fun t wx => ∃ i : Nat, i ≤ 56 ∧ t = .int .i64 (i : Int) ∧ Hid (∀ (j : Nat) (hj : j < alT.length), j < i → ((alT[j].1 : Nat) : Int) ≠ k) ∧ Hid (w1.grownBy wx none)) (fun t _ => 56 - (intOf t).toNat)
  case atStart => exact ⟨0, by omega, rfl, Hid.mk' (fun j hj h => by omega), Hid.mk' (grownBy_refl _ _)⟩
  case round =>
    obtain ⟨i, hi, rfl, hn, hgx⟩ := hrel
    by_cases hlt : i < 56
    · have hiL : i < alT.length := by rw [alT_n]; exact hlt
      obtain ⟨hb, c0, c1, ho⟩ := hL.out.kept hgx.out i hiL
      obtain ⟨K, M, he⟩ : ∃ K M, alT[i] = (K, M) := ⟨_, _, rfl⟩
      rw [he] at c0 c1 ho
      obtain ⟨q1, q2, q3, q4⟩ := al_of hiL he
      have HQ := Hid.mk' (And.intro q1 (And.intro q2 (And.intro q3 q4)))
      have HN := Hid.mk' (fun hk : ¬ (K : Int) = k => al_next hiL he hk hn.out)
      obtain ⟨n, hnl⟩ : ∃ n, Hid (M.length = n) := ⟨_, Hid.mk' rfl⟩
      obtain ⟨ai, hai⟩ : ∃ x, Hid (A i = x) := ⟨_, Hid.mk' rfl⟩
      have HF : Hid (w.heap.size ≤ ai) := Hid.mk' (by rw [← hai.out]; exact hA.out i)
      simp only [hnl.out, hai.out] at c1 ho
      simp only at c0
      have HO := Hid.mk' ho
      have hlt' : (i : Int) < 56 := by omega
      have hi0 : (0 : Int) ≤ (i : Int) := by omega
      clear he q1 q2 q3 q4 ho hn hai hiL
      by_cases hk : (K : Int) = k
      · have k1 : ((K : Int) == k) = true := by simpa using hk
        have k2 := Hid.mk' hk
        clear hk
        go_upto_region 4 with (first
          | (refine wpList_allocC _ rfl 55 rfl eZ (zeroE _) ?_; intro w2 v2 hg2)
          | (refine wpList_storeC _ rfl 55 _ _ rfl wr.heap.size eZ (eC (K : Int) ai n) infoE rfl (eC_one _ _ _) rfl rfl v2 ?_; intro w3 v3 hg3))
        have hg13 : Hid (wr.grownBy w3 none) := Hid.mk' (grownBy_new hg2 hg3 (fun k hk => by have h5 := Option.some.inj hk; omega))
        have HG3 : Hid (w.grownBy w3 none) := Hid.mk' (gt hG1.out (gt hgx.out hg13.out))
        have HO3 := Hid.mk' (HO.out.kept0 hg13.out)
        obtain ⟨QB, hQB⟩ : ∃ b, Hid (wr.heap.size = b) := ⟨_, Hid.mk' rfl⟩
        rw [hQB.out] at v3
        rw [hQB.out]
        have y0 := v3.cell 0 rfl
        have y1 := v3.cell 1 rfl
        clear v2 hg2 hg3 v3 c0 c1 hQB
        go_wp2
        exact bodyPost_ret (v := .tuple #[.int .i64 k, .int .i64 0]) (by simp [results, Tryd.results25, go_sem]) rfl ⟨by unfold nbV; rw [if_neg (by rw [← k2.out]; exact HQ.out.2.2.2)], HG3.out⟩
      · have k1 : ((K : Int) == k) = false := by simpa using hk
        have hN2 := Hid.mk' (HN.out hk)
        clear HN
        go_upto_region 4 with (first
          | (refine wpList_allocC _ rfl 55 rfl eZ (zeroE _) ?_; intro w2 v2 hg2)
          | (refine wpList_storeC _ rfl 55 _ _ rfl wr.heap.size eZ (eC (K : Int) ai n) infoE rfl (eC_one _ _ _) rfl rfl v2 ?_; intro w3 v3 hg3))
        have hg13 : Hid (wr.grownBy w3 none) := Hid.mk' (grownBy_new hg2 hg3 (fun k hk => by have h5 := Option.some.inj hk; omega))
        obtain ⟨QB, hQB⟩ : ∃ b, Hid (wr.heap.size = b) := ⟨_, Hid.mk' rfl⟩
        rw [hQB.out] at v3
        rw [hQB.out]
        have y0 := v3.cell 0 rfl
        have y1 := v3.cell 1 rfl
        clear v2 hg2 hg3 v3 c0 c1 hQB
        go_wp2
        go_roundw
        case rel => exact ⟨i + 1, by omega, by go_num, hN2, Hid.mk' (gt hgx.out hg13.out)⟩
        all_goals (simp [intOf] <;> omega)
    · have hlt' : ¬ (i : Int) < 56 := by omega
      have hno := Hid.mk' (al_no hlt hn.out)
      clear hn
      go_wp2
      exact bodyPost_ret (v := .tuple #[.int .i64 0, .int .i64 5]) (by simp [results, Tryd.results25, go_sem]) rfl ⟨by unfold nbV; rw [if_pos (nm_iff.2 hno.out)], gt hG1.out hgx.out⟩
end Go.Proofs.YtljkncgbabiojaaDoor.C23

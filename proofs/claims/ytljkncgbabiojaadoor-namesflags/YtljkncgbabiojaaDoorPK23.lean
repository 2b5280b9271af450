/- The program's Kinds of layer 23: a walk. -/
import Derived.Test.YtljkncgbabiojaaDoorPA23
namespace Go.Proofs.YtljkncgbabiojaaDoor.C23
open Go.ChangeShapes Go.WideShapes Go.ChangeAt Go.RowKit Go.Proofs.YtljkncgbabiojaaDoor.Mem Go.Proofs.YtljkncgbabiojaaDoor.El Go.Proofs.YtljkncgbabiojaaDoor.St Go.Proofs.YtljkncgbabiojaaDoor.Ri Go.Proofs.YtljkncgbabiojaaDoor.Sx Go.Proofs.YtljkncgbabiojaaDoor.Cb
set_option linter.unusedVariables false
set_option linter.unusedSimpArgs false

theorem kd_step {i : Nat} (h : i < alT.length) {K : Nat} {M : List (List UInt8)} (he : alT[i] = (K, M)) : kdI.take i ++ [(K : Int)] = kdI.take (i + 1) := by
  have hi : i < kdI.length := by rw [kdI_len, ← alT_n]; exact h
  rw [List.take_add_one, List.getElem?_eq_getElem hi]
  have e : kdI[i] = (K : Int) := by
    unfold kdI kdT
    simp [he]
  rw [e]
  rfl
set_option maxRecDepth 100000 in
set_option maxHeartbeats 2000000 in
theorem pKinds (w : World) : Calls Tryd.prog 11 #[] w fun e w' => ∃ ao cap, e = .returned (.slice ao 56 cap) ∧ IiE.Own w' ao cap kdI ∧ w.grownBy w' none ∧ ∀ g, blk ao = some g → w.heap.size ≤ g := by
  have a1 := Hid.mk' list_any
  go_enter Tryd.func11, Tryd.ntmps11
  go_wp2_with (go_at_call 22; refine (a1.out _).mono ?_; rintro e w1 ⟨G, A, rfl, hL, hg1, hA⟩)
  have hG1 := Hid.mk' hg1
  clear hg1 hA
  go_loopw [1, 6] (fun t1 t6 wx => ∃ (i : Nat) (ao : Option Addr) (cap : Nat) (L : List Int), i ≤ 56 ∧ t6 = .int .i64 (i : Int) ∧ t1 = .slice ao L.length cap ∧ Hid (IiE.Own wx ao cap L) ∧ Hid (kdI.take i = L) ∧ Hid (∀ g, blk ao = some g → w1.heap.size ≤ g) ∧ Hid (w1.grownBy wx none)) (fun _ t6 _ => 56 - (intOf t6).toNat)
  case atStart => exact ⟨0, none, 0, [], by omega, rfl, rfl, Hid.mk' (.inl ⟨rfl, rfl, rfl⟩), Hid.mk' rfl, Hid.mk' (by simp [blk]), Hid.mk' (grownBy_refl _ _)⟩
  case round =>
    obtain ⟨i, ao, cap, L, hi, rfl, rfl, hO, hT, hF, hgx⟩ := hrel
    by_cases hlt : i < 56
    · have hiL : i < alT.length := by rw [alT_n]; exact hlt
      obtain ⟨hb, c0, c1, ho⟩ := hL.out.kept hgx.out i hiL
      obtain ⟨K, M, he⟩ : ∃ K M, alT[i] = (K, M) := ⟨_, _, rfl⟩
      rw [he] at c0 c1
      obtain ⟨L2, hL2⟩ : ∃ L2, Hid (kdI.take (i + 1) = L2) := ⟨_, Hid.mk' rfl⟩
      have hst : Hid (L ++ [(K : Int)] = L2) := Hid.mk' (by rw [← hT.out, ← hL2.out]; exact kd_step hiL he)
      have hll : Hid (L.length ≤ 56) := Hid.mk' (by rw [← hT.out, List.length_take]; omega)
      obtain ⟨n, hnl⟩ : ∃ n, Hid (M.length = n) := ⟨_, Hid.mk' rfl⟩
      obtain ⟨ai, hai⟩ : ∃ x, Hid (A i = x) := ⟨_, Hid.mk' rfl⟩
      simp only [hnl.out, hai.out] at c1
      simp only at c0
      have hlt' : (i : Int) < 56 := by omega
      have hi0 : (0 : Int) ≤ (i : Int) := by omega
      clear he ho hai hiL hT
      go_upto_region 5 with (first
        | (refine wpList_allocC _ rfl 55 rfl eZ (zeroE _) ?_; intro w2 v2 hg2)
        | (refine wpList_storeC _ rfl 55 _ _ rfl wr.heap.size eZ (eC (K : Int) ai n) infoE rfl (eC_one _ _ _) rfl rfl v2 ?_; intro w3 v3 hg3))
      have hg13 : Hid (wr.grownBy w3 none) := Hid.mk' (grownBy_new hg2 hg3 (fun k hk => by have h5 := Option.some.inj hk; omega))
      obtain ⟨QB, hQB⟩ : ∃ b, Hid (wr.heap.size = b) := ⟨_, Hid.mk' rfl⟩
      rw [hQB.out] at v3
      rw [hQB.out]
      have y0 := v3.cell 0 rfl
      have y1 := v3.cell 1 rfl
      have hO3 := Hid.mk' (hO.out.kept0 hg13.out)
      have HG3 := Hid.mk' (gt hgx.out hg13.out)
      clear v2 hg2 hg3 v3 c0 c1 hQB hO
      go_wp2_with (at_builtin; refine wpList_ints _ rfl _ _ rfl ao cap L rfl (hO3.out.alloc _) _ rfl [(K : Int)] (src_int1 _ _) (by have := hll.out; simp; omega) L2 hst.out ?_; intro a2 c2 w4 o2 g2 f2)
      go_roundw
      case rel =>
        have q1 : w1.grownBy (w3.alloc (.cells #[.int .i64 (K : Int)] 3)) none := gt HG3.out (World.grownBy_alloc _ _ _)
        refine ⟨i + 1, a2, c2, L2, by omega, by go_num, rfl, Hid.mk' o2, hL2, Hid.mk' (fun g hg => ?_), Hid.mk' (grownBy_new q1 g2 (fun g hg => hF.out g hg))⟩
        rcases f2 with rfl | rfl
        · exact hF.out g hg
        · simp [blk] at hg; have := HG3.out.size; omega
      all_goals (simp [intOf] <;> omega)
    · have hlt' : ¬ (i : Int) < 56 := by omega
      have hE : Hid (kdI = L) := Hid.mk' (by rw [← hT.out, List.take_of_length_le (by rw [kdI_len]; omega)])
      have hl : L.length = 56 := by rw [← hE.out, kdI_len]
      rw [hl]
      clear hT
      go_wp2
      go_ret
      exact ⟨ao, cap, rfl, by rw [hE.out]; exact hO.out, gt hG1.out hgx.out, fun g hg => by have := hF.out g hg; have := hG1.out.size; omega⟩
end Go.Proofs.YtljkncgbabiojaaDoor.C23

/- The program's All of layer 22: a walk. -/
import Derived.Test.YtjhdepbiakekaaaTQa22
namespace Go.Proofs.Ytjhdepbiakekaaa.C22
open Go.ChangeShapes Go.WideShapes Go.ChangeAt Go.RowKit Go.Proofs.Ytjhdepbiakekaaa.Mem Go.Proofs.Ytjhdepbiakekaaa.El Go.Proofs.Ytjhdepbiakekaaa.St Go.Proofs.Ytjhdepbiakekaaa.Ru Go.Proofs.Ytjhdepbiakekaaa.Cb
set_option linter.unusedVariables false
set_option linter.unusedSimpArgs false

theorem all_low : ∀ i (h : i < tab.length), allI.take i ++ [((tab[i]).1 : Int)] = allI.take (i + 1) := by decide +kernel
theorem all_high : ∀ k, k < 94 → allI.take (118 + k) ++ [((65281 + k : Nat) : Int)] = allI.take (119 + k) := by decide +kernel
theorem all_step {m : Nat} (h1 : 65281 ≤ m) (h2 : m ≤ 65374) : allI.take (m - 65163) ++ [(m : Int)] = allI.take (m + 1 - 65163) := by
  obtain ⟨k, hk⟩ : ∃ k, k = m - 65281 := ⟨_, rfl⟩
  have e0 : 65281 + k = m := by omega
  have e1 : m - 65163 = 118 + k := Nat.sub_eq_of_eq_add (by omega)
  have e2 : m + 1 - 65163 = 119 + k := Nat.sub_eq_of_eq_add (by omega)
  have h := all_high k (by omega)
  rw [e0] at h
  rw [e1, e2]
  exact h
theorem take_len (i : Nat) : (allI.take i).length ≤ 212 := by rw [List.length_take, allI_len]; omega
set_option maxRecDepth 100000 in
set_option maxHeartbeats 1000000 in
theorem pall_any (w : World) : Calls Try.prog 13 #[] w fun e w' => ∃ ao cap, e = .returned (.slice ao 212 cap) ∧ RuE.Own w' ao cap allI ∧ w.grownBy w' none ∧ ∀ g, blk ao = some g → w.heap.size ≤ g := by
  have hL := Hid.mk' (fun w => list_any w)
  have hix := Hid.mk' idx_tab
  obtain ⟨TC, hTC⟩ : ∃ T, tabC = T := ⟨_, rfl⟩
  rw [hTC] at hL hix
  clear hTC
  have hN := Hid.mk' tab_len
  have hst0 := Hid.mk' all_low
  have hal := Hid.mk' take_len
  obtain ⟨AI, hAI⟩ : ∃ A, Hid (allI = A) := ⟨_, Hid.mk' rfl⟩
  have hst1 : Hid (∀ m : Nat, 65281 ≤ m → m ≤ 65374 → AI.take (m - 65163) ++ [(m : Int)] = AI.take (m + 1 - 65163)) := Hid.mk' (fun m h1 h2 => by rw [← hAI.out]; exact all_step h1 h2)
  have hlen : Hid (AI.length = 212) := Hid.mk' (by rw [← hAI.out]; exact allI_len)
  rw [hAI.out] at hst0 hal
  rw [hAI.out]
  clear hAI
  go_enter Try.func13, Try.ntmps13
  go_wp2_with (go_at_call 17; refine (hL.out _).mono ?_; rintro e w1 ⟨rfl, hg1⟩)
  have hG1 := Hid.mk' hg1
  clear hg1
  go_loopw [1, 6] (fun t1 t6 wx => ∃ (i : Nat) (ao : Option Addr) (cap : Nat), i ≤ 118 ∧ t6 = .int .i64 (i : Int) ∧ t1 = .slice ao (AI.take i).length cap ∧ Hid (RuE.Own wx ao cap (AI.take i)) ∧ Hid (∀ g, blk ao = some g → w.heap.size ≤ g) ∧ Hid (w.grownBy wx none)) (fun _ t6 _ => 118 - (intOf t6).toNat)
  case atStart => exact ⟨0, none, 0, by omega, rfl, rfl, Hid.mk' (.inl ⟨rfl, rfl, rfl⟩), Hid.mk' (by simp [blk]), hG1⟩
  case round =>
    obtain ⟨i, ao, cap, hi, rfl, rfl, ho, hb, hG⟩ := hrel
    by_cases hlt : i < 118
    · have hlt' : (i : Int) < 118 := by omega
      have hiL : i < tab.length := by rw [hN.out]; exact hlt
      have hq := hix.out i hiL
      have hl2 := Hid.mk' (hal.out i)
      have hs2 := Hid.mk' (hst0.out i hiL)
      obtain ⟨A, hA⟩ : ∃ A, Hid (AI.take i = A) := ⟨_, Hid.mk' rfl⟩
      obtain ⟨A2, hA2⟩ : ∃ A, Hid (AI.take (i + 1) = A) := ⟨_, Hid.mk' rfl⟩
      obtain ⟨s0, h0⟩ : ∃ c, str ((tab[i]).2.getD 0 []) = c := ⟨_, rfl⟩
      obtain ⟨s1, h1⟩ : ∃ c, str ((tab[i]).2.getD 1 []) = c := ⟨_, rfl⟩
      obtain ⟨s2, h2⟩ : ∃ c, str ((tab[i]).2.getD 2 []) = c := ⟨_, rfl⟩
      obtain ⟨z, hz⟩ : ∃ z, Hid (((tab[i]).1 : Int) = z) := ⟨_, Hid.mk' rfl⟩
      rw [h0, h1, h2, hz.out] at hq
      rw [hA.out, hA2.out, hz.out] at hs2
      rw [hA.out] at hl2 ho
      rw [hA.out]
      clear h0 h1 h2 hz hiL
      go_upto_region 5 with (first
        | (refine wpList_allocC _ rfl 39 rfl (eC 0 ⟨#[]⟩ ⟨#[]⟩ ⟨#[]⟩) (zeroE _) ?_; intro w2 v2 hg2)
        | (refine wpList_storeC _ rfl 39 _ _ rfl wr.heap.size (eC 0 ⟨#[]⟩ ⟨#[]⟩ ⟨#[]⟩) (eC z s0 s1 s2) infoE rfl (eC_one _ _ _ _) rfl rfl v2 ?_; intro w3 v3 hg3))
      have hg13 : Hid (wr.grownBy w3 none) := Hid.mk' (grownBy_new hg2 hg3 (fun k hk => by have h5 := Option.some.inj hk; omega))
      have y0 := v3.cell 0 rfl
      have ho3 : Hid (RuE.Own w3 ao cap A) := Hid.mk' (ho.out.kept0 hg13.out)
      clear v2 v3 hg2 hg3 hq
      go_wp2_with (at_builtin; refine wpList_rune _ rfl _ _ rfl ao cap A rfl (ho3.out.alloc _) _ rfl [z] (src_rune1 _ _) (by have := hl2.out; simp; omega) A2 hs2.out ?_; intro a2 c2 w4 o2 g2 f2)
      go_roundw
      case rel =>
        have q1 : w.grownBy (w3.alloc (.cells #[.int .i32 z] 21)) none := gt hG.out (gt hg13.out (World.grownBy_alloc _ _ _))
        refine ⟨i + 1, a2, c2, by omega, by go_num, hA2.out ▸ rfl, Hid.mk' (hA2.out ▸ o2), Hid.mk' (fun g hg => ?_), Hid.mk' (grownBy_new q1 g2 (fun g hg => hb.out g hg))⟩
        rcases f2 with rfl | rfl
        · exact hb.out g hg
        · simp [blk] at hg; have := (gt hG.out hg13.out).size; omega
      all_goals (simp [intOf]; omega)
    · have hi8 : Hid (i = 118) := Hid.mk' (by omega)
      have hge : ¬ (i : Int) < 118 := by omega
      obtain ⟨A, hA⟩ : ∃ A, Hid (AI.take i = A) := ⟨_, Hid.mk' rfl⟩
      rw [hA.out] at ho
      rw [hA.out]
      clear hst0 hix
      go_upto_region 8 with fail
      go_loopw [1, 4] (fun t1 t4 wx => ∃ (m : Nat) (ao : Option Addr) (cap : Nat), 65281 ≤ m ∧ m ≤ 65375 ∧ t4 = .int .i32 (m : Int) ∧ t1 = .slice ao (AI.take (m - 65163)).length cap ∧ Hid (RuE.Own wx ao cap (AI.take (m - 65163))) ∧ Hid (∀ g, blk ao = some g → w.heap.size ≤ g) ∧ Hid (w.grownBy wx none)) (fun _ t4 _ => 65375 - (intOf t4).toNat)
      case atStart => exact ⟨65281, ao, cap, by omega, by omega, rfl, by rw [← hA.out, hi8.out], Hid.mk' (by rw [← hA.out, hi8.out] at ho; exact ho.out), hb, hG⟩
      case round =>
        clear hA ho hb hG hi8 hlt hi
        obtain ⟨m, ao2, cap2, hm1, hm2, rfl, rfl, ho2, hb2, hG2⟩ := hrel
        by_cases hlt2 : m < 65375
        · have hlt2' : (m : Int) ≤ 65374 := by omega
          have hlt3 : (m : Int) + 1 ≤ 2147483647 := by omega
          have hl2 := Hid.mk' (hal.out (m - 65163))
          have hs2 := Hid.mk' (hst1.out m hm1 (by omega))
          obtain ⟨B, hB⟩ : ∃ A, Hid (AI.take (m - 65163) = A) := ⟨_, Hid.mk' rfl⟩
          obtain ⟨B2, hB2⟩ : ∃ A, Hid (AI.take (m + 1 - 65163) = A) := ⟨_, Hid.mk' rfl⟩
          rw [hB.out, hB2.out] at hs2
          rw [hB.out] at hl2 ho2
          rw [hB.out]
          go_wp2_with (at_builtin; refine wpList_rune _ rfl _ _ rfl ao2 cap2 B rfl (ho2.out.alloc _) _ rfl [(m : Int)] (src_rune1 _ _) (by have := hl2.out; simp; omega) B2 hs2.out ?_; intro a2 c2 w4 o2 g2 f2)
          go_roundw
          case rel =>
            have q1 : w.grownBy (wr.alloc (.cells #[.int .i32 (m : Int)] 21)) none := gt hG2.out (World.grownBy_alloc _ _ _)
            refine ⟨m + 1, a2, c2, by omega, by omega, by go_num, hB2.out ▸ rfl, Hid.mk' (hB2.out ▸ o2), Hid.mk' (fun g hg => ?_), Hid.mk' (grownBy_new q1 g2 (fun g hg => hb2.out g hg))⟩
            rcases f2 with rfl | rfl
            · exact hb2.out g hg
            · simp [blk] at hg; have := hG2.out.size; omega
          all_goals (simp [intOf]; omega)
        · obtain rfl : m = 65375 := by omega
          have e1 : AI.take (65375 - 65163) = AI := List.take_of_length_le (by rw [hlen.out]; exact Nat.le_refl _)
          rw [e1] at ho2
          rw [e1, hlen.out]
          clear e1
          go_wp2
          go_ret
          exact ⟨ao2, cap2, rfl, ho2.out, hG2.out, hb2.out⟩
end Go.Proofs.Ytjhdepbiakekaaa.C22

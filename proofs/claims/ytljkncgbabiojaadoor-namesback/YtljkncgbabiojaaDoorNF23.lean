/- The document's Find of layer 23: a walk. -/
import Derived.Test.YtljkncgbabiojaaDoorNL23
import Derived.BigQuiet
namespace Go.Proofs.YtljkncgbabiojaaDoor.C23
open Go.ChangeShapes Go.WideShapes Go.ChangeAt Go.RowKit Go.Proofs.YtljkncgbabiojaaDoor.Mem Go.Proofs.YtljkncgbabiojaaDoor.El Go.Proofs.YtljkncgbabiojaaDoor.St Go.Proofs.YtljkncgbabiojaaDoor.Ri Go.Proofs.YtljkncgbabiojaaDoor.Sx
set_option linter.unusedVariables false
set_option linter.unusedSimpArgs false

theorem alT_len : alT.length = 56 := by decide +kernel
theorem kdI_at {i : Nat} (h : i < alT.length) : kdI[i]'(by rw [kdI_len, ← alT_len]; exact h) = ((alT[i]).1 : Int) := by
  unfold kdI kdT
  simp
theorem fd_hit {s : List UInt8} {i : Nat} (h : i < alT.length) (h1 : (alT[i]).2.any (fun x => x == large s) = true) (h2 : ∀ j (hj : j < alT.length), j < i → (alT[j]).2.any (fun x => x == large s) = false) : fd s = (alT[i]).1 := by
  unfold fd
  rw [(List.find?_eq_some_iff_getElem (xs := alT)).2 ⟨h1, i, h, rfl, fun j hj => by simp [h2 j (by omega) hj]⟩]
theorem fd_miss {s : List UInt8} (h2 : ∀ j (hj : j < alT.length), (alT[j]).2.any (fun x => x == large s) = false) : fd s = 0 := by
  unfold fd
  rw [List.find?_eq_none.2 (fun p hp => by
    obtain ⟨j, hj, e⟩ := List.getElem_of_mem hp
    subst e
    simp [h2 j hj])]
theorem any_step (X : List (List UInt8)) (j : Nat) (h : j < X.length) (t : List UInt8) : (X.take (j + 1)).any (fun x => x == t) = ((X.take j).any (fun x => x == t) || (X[j] == t)) := by
  rw [List.take_add_one, List.getElem?_eq_getElem h, List.any_append]
  simp
set_option maxRecDepth 100000 in
set_option maxHeartbeats 3000000 in
theorem find_any (s : List UInt8) (hs : s.length ≤ 140737488351232) (w : World) : Calls Tryd.prog 19 #[.string (str s)] w fun e w' => e = .returned (.int .i64 (fd s : Int)) ∧ w.grownBy w' none := by
  obtain ⟨F, hF⟩ : ∃ F, Hid (fd s = F) := ⟨_, Hid.mk' rfl⟩
  rw [hF.out]
  obtain ⟨sl, hsl⟩ : ∃ x, Hid (str (large s) = x) := ⟨_, Hid.mk' rfl⟩
  have a1 := Hid.mk' (fun w => large_any s hs w)
  rw [hsl.out] at a1
  obtain ⟨st, hst⟩ : ∃ x, Hid (str s = x) := ⟨_, Hid.mk' rfl⟩
  rw [hst.out] at a1
  rw [hst.out]
  have a2 := Hid.mk' aliases_any
  go_enter Tryd.func19, Tryd.ntmps19
  go_upto_region 3 with (go_at_call 28; refine (kinds_any _).mono ?_; rintro e w1 ⟨ko, kc, rfl, oK, g1, fK⟩)
  have rK := Hid.mk' oK.rd
  have q1 : 56 ≤ kc := by have := oK.cap_le; rw [kdI_len] at this; exact this
  have q2 := oK.cap_max
  have hG1 := Hid.mk' g1
  clear oK g1 fK
  go_loopw [4] (fun t4 wx => ∃ i : Nat, i ≤ 56 ∧ t4 = .int .i64 (i : Int) ∧ Hid (∀ j (hj : j < alT.length), j < i → (alT[j]).2.any (fun x => x == large s) = false) ∧ Hid (w1.grownBy wx none)) (fun t4 _ => 56 - (intOf t4).toNat)
  case atStart => exact ⟨0, by omega, rfl, Hid.mk' (by omega), Hid.mk' (grownBy_refl _ _)⟩
  case round =>
    obtain ⟨i, hi, rfl, hn, hgx⟩ := hrel
    by_cases hlt : i < 56
    · have hlt' : (i : Int) < 56 := by omega
      have hi0 : (0 : Int) ≤ (i : Int) := by omega
      have hiT : i < alT.length := by rw [alT_len]; exact hlt
      obtain ⟨kb, kof, rfl, hkb, x0⟩ := icell (rK.out.kept0 hgx.out) (i := i) (by rw [kdI_len]; exact hlt)
      rw [kdI_at hiT] at x0
      obtain ⟨z, hz⟩ : ∃ z, Hid (((alT[i]).1 : Int) = z) := ⟨_, Hid.mk' rfl⟩
      obtain ⟨X, hX⟩ : ∃ X, Hid ((alT[i]).2 = X) := ⟨_, Hid.mk' rfl⟩
      have hXz : Hid (al z = X) := Hid.mk' (by rw [← hz.out, ← hX.out]; exact (al_at _ (List.getElem_mem hiT)).1)
      have hXl : X.length ≤ 5 := by rw [← hXz.out]; exact (al_short z).1
      rw [hz.out] at x0
      have a3 : Hid (∀ w, Calls Tryd.prog 29 #[.int .i64 z] w fun e w' => STold w X e w') := Hid.mk' (fun w => by rw [← hXz.out]; exact a2.out z w)
      go_upto_region 7 with (go_at_call 29; refine (a3.out _).mono ?_; rintro e w2 ⟨xo', xc, rfl, oX, g2, fX⟩)
      have rX := Hid.mk' oX.rd
      have q3 := oX.cap_le
      have q4 := oX.cap_max
      have hG2 := Hid.mk' (gt hgx.out g2)
      clear oX g2 fX a3 x0
      go_loopw [6] (fun t6 wx => ∃ j : Nat, j ≤ X.length ∧ t6 = .int .i64 (j : Int) ∧ Hid ((X.take j).any (fun x => x == large s) = false) ∧ Hid (w2.grownBy wx none)) (fun t6 _ => X.length - (intOf t6).toNat)
      case atStart => exact ⟨0, by omega, rfl, Hid.mk' (by simp), Hid.mk' (grownBy_refl _ _)⟩
      case round =>
        obtain ⟨j, hj, rfl, hm, hg3⟩ := hrel
        by_cases hjl : j < X.length
        · have hjl' : (j : Int) < (X.length : Int) := by omega
          have hj0 : (0 : Int) ≤ (j : Int) := by omega
          obtain ⟨xb, xo, rfl, hxb, y0⟩ := stcell (rX.out.kept0 hg3.out) hjl
          obtain ⟨sx, hsx⟩ : ∃ x, Hid (str X[j] = x) := ⟨_, Hid.mk' rfl⟩
          have hS : Hid (∀ wx, w2.grownBy wx none → (fun w' : World => w'.cell? ⟨xb, xo + j, none⟩ = some (.string sx)) wx) := Hid.mk' (fun wx hg => by
            obtain ⟨b', o', e', hb', y'⟩ := stcell (rX.out.kept0 hg) hjl
            cases e'
            rw [hsx.out] at y'
            exact y')
          have hgd : Hid (w2.grownBy wr.drew none) := Hid.mk' (grownBy_drew hg3.out)
          have hS0 := hS.out _ hgd.out
          have hstep := Hid.mk' (any_step X j hjl (large s))
          have heq : Hid ((sx.toList == sl.toList) = (X[j] == large s)) := Hid.mk' (by rw [← hsx.out, ← hsl.out, str_toList, str_toList])
          clear y0
          go_upto_region 9 with fail
          refine wp_region_held_drew (S := fun w' : World => w'.cell? ⟨xb, xo + j, none⟩ = some (.string sx)) (by kernel_rfl) hS0 (fun hHeld => ?_)
          refine wpAnyH_take (i := 0) (v := ?_) rfl (by kernel_rfl) (by kernel_rfl) (by kernel_rfl) (fun _ _ _ h => h) (Or.inl ⟨by rfl, ?_⟩) (by assumption) ?_; rotate_left
          · (intro w hSw; (try dsimp only at hSw); go_simp; try with_reducible rfl)
          try simp only [List.getElem_toArray, List.getElem_cons_zero, Act.put, List.setIfInBounds_toArray, List.set_cons_zero, List.set_cons_succ]
          refine wpAnyH_take (i := 1) (v := ?_) rfl (by kernel_rfl) (by kernel_rfl) (by kernel_rfl) (fun _ _ _ h => h) (Or.inl ⟨by rfl, ?_⟩) (by assumption) ?_; rotate_left
          · (intro w hSw; (try dsimp only at hSw); go_simp; try with_reducible rfl)
          try simp only [List.getElem_toArray, List.getElem_cons_zero, List.getElem_cons_succ, Act.put, List.setIfInBounds_toArray, List.set_cons_zero, List.set_cons_succ]
          refine wpAnyH_take (i := 2) (v := ?_) rfl (by kernel_rfl) (by kernel_rfl) (by kernel_rfl) (fun _ _ _ h => h) (Or.inl ⟨by rfl, ?_⟩) (by assumption) ?_; rotate_left
          · (intro w hSw; (try dsimp only at hSw); go_simp; try with_reducible rfl)
          try simp only [List.getElem_toArray, List.getElem_cons_zero, List.getElem_cons_succ, Act.put, List.setIfInBounds_toArray, List.set_cons_zero, List.set_cons_succ]
          refine wpAnyH_take (i := 3) (v := ?_) rfl (by kernel_rfl) (by kernel_rfl) (by kernel_rfl) (fun _ _ _ h => h) (Or.inl ⟨by rfl, ?_⟩) (by assumption) ?_; rotate_left
          · (intro w hSw; (try dsimp only at hSw); go_simp; try with_reducible rfl)
          try simp only [List.getElem_toArray, List.getElem_cons_zero, List.getElem_cons_succ, Act.put, List.setIfInBounds_toArray, List.set_cons_zero, List.set_cons_succ]
          refine wpAnyH_take (i := 4) (v := ?_) rfl (by kernel_rfl) (by kernel_rfl) (by kernel_rfl) (fun _ _ _ h => h) (Or.inl ⟨by rfl, ?_⟩) (by assumption) ?_; rotate_left
          · (intro w hSw; (try dsimp only at hSw); go_simp; try with_reducible rfl)
          try simp only [List.getElem_toArray, List.getElem_cons_zero, List.getElem_cons_succ, Act.put, List.setIfInBounds_toArray, List.set_cons_zero, List.set_cons_succ]
          refine wpAnyH_ready (rs := [5]) (by kernel_rfl) (by simp) ?_
          refine AllReadyH.cons rfl (fun K hK => ?_) AllReadyH.nil
          go_simp
          refine (a1.out _).mono ?_; rintro e w3 ⟨rfl, hg⟩; have hG3 : Hid (w2.grownBy w3 none) := Hid.mk' (gt hgd.out hg); try dsimp only
          refine hK.out _ _ (hS.out w3 hG3.out) (fun hHeld => ?_)
          clear hK K
          try simp only [List.getElem_toArray, List.getElem_cons_zero, List.getElem_cons_succ, Act.put, List.setIfInBounds_toArray, List.set_cons_zero, List.set_cons_succ]
          refine wpAnyH_take (i := 6) (v := ?_) rfl (by kernel_rfl) (by kernel_rfl) (by kernel_rfl) (fun _ _ _ h => h) (Or.inl ⟨by rfl, ?_⟩) (by assumption) ?_; rotate_left
          · (intro w hSw; (try dsimp only at hSw); go_simp; try with_reducible rfl)
          try simp only [List.getElem_toArray, List.getElem_cons_zero, List.getElem_cons_succ, Act.put, List.setIfInBounds_toArray, List.set_cons_zero, List.set_cons_succ]
          refine wpAnyH_done (by kernel_rfl) ?_ _
          clear hHeld hS0
          by_cases hxe : (X[j] == large s) = true
          · have f1 : (sx.toList == sl.toList) = true := by rw [heq.out]; exact hxe
            rw [f1]
            have hFe : Hid (F = (alT[i]).1) := Hid.mk' (by
              rw [← hF.out]
              refine fd_hit hiT ?_ hn.out
              rw [hX.out]
              rw [List.any_eq_true]
              exact ⟨X[j], List.getElem_mem hjl, hxe⟩)
            have x1 : w3.cell? ⟨kb, kof + i, none⟩ = some (.int .i64 z) := by
              obtain ⟨b', o', e', hb', y'⟩ := icell (rK.out.kept0 (gt hG2.out hG3.out)) (i := i) (by rw [kdI_len]; exact hlt)
              cases e'
              rw [kdI_at hiT, hz.out] at y'
              exact y'
            go_wp2
            go_ret
            refine ⟨?_, gt hG1.out (gt hG2.out hG3.out)⟩
            rw [hFe.out, hz.out]
            rfl
          · have hxe' : (X[j] == large s) = false := by simpa using hxe
            have f1 : (sx.toList == sl.toList) = false := by rw [heq.out]; exact hxe'
            rw [f1]
            go_wp2
            go_roundw
            case rel => exact ⟨j + 1, by omega, by go_num, Hid.mk' (by rw [hstep.out, hm.out, hxe']; rfl), hG3⟩
            all_goals (simp [intOf] <;> omega)
        · obtain rfl : j = X.length := by omega
          go_wp2
          go_roundw
          case rel => exact ⟨i + 1, by omega, by go_num, Hid.mk' (fun j hj hji => by
            by_cases e : j = i
            · subst e
              rw [hX.out]
              have := hm.out
              rwa [List.take_length] at this
            · exact hn.out j hj (by omega)), Hid.mk' (gt hG2.out hg3.out)⟩
          all_goals (simp [intOf] <;> omega)
    · obtain rfl : i = 56 := by omega
      have hFe : Hid (F = 0) := Hid.mk' (by rw [← hF.out]; exact fd_miss (fun j hj => hn.out j hj (by rw [← alT_len]; exact hj)))
      go_wp2
      go_ret
      refine ⟨?_, gt hG1.out hgx.out⟩
      rw [hFe.out]
      rfl
end Go.Proofs.YtljkncgbabiojaaDoor.C23

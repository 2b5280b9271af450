/- The program's named of layer 23: a walk. -/
import Derived.Test.YtljkncgbabiojaaDoorPA23
import Derived.Test.YtljkncgbabiojaaDoorPN23
import Derived.Test.YtljkncgbabiojaaDoorNW23
import Derived.Deep.RegionHeld3
import Derived.BigQuiet
namespace Go.Proofs.YtljkncgbabiojaaDoor.C23
open Go.ChangeShapes Go.WideShapes Go.ChangeAt Go.RowKit Go.Proofs.YtljkncgbabiojaaDoor.Mem Go.Proofs.YtljkncgbabiojaaDoor.El Go.Proofs.YtljkncgbabiojaaDoor.St Go.Proofs.YtljkncgbabiojaaDoor.Ri Go.Proofs.YtljkncgbabiojaaDoor.Sx Go.Proofs.YtljkncgbabiojaaDoor.Cb
set_option linter.unusedVariables false
set_option linter.unusedSimpArgs false

theorem al_big : ∀ p ∈ alT, ∀ x ∈ p.2, large x = x ∧ x.length ≤ 20 := by decide +kernel
set_option maxRecDepth 100000 in
set_option maxHeartbeats 3000000 in
theorem pNamed (s : List UInt8) (hs : s.length ≤ 140737488351232) (X Y : Int) (hX : Hid ((fd s : Int) = X ∧ lkE (fd s) = Y)) (w : World) : Calls Tryd.prog 16 #[.string (str s)] w fun e w' => e = .returned (.tuple #[.int .i64 X, .int .i64 Y]) ∧ w.grownBy w' none := by
  obtain ⟨st, hst⟩ : ∃ x, Hid (str s = x) := ⟨_, Hid.mk' rfl⟩
  rw [hst.out]
  have a1 := Hid.mk' list_any
  go_enter Tryd.func16, Tryd.ntmps16
  go_wp2_with (go_at_call 22; refine (a1.out _).mono ?_; rintro e w1 ⟨G, A, rfl, hL, hg1, hA⟩)
  have hG1 := Hid.mk' hg1
  clear hg1 hA a1
  go_loopw [10] (fun t wx => ∃ i : Nat, i ≤ 56 ∧ t = .int .i64 (i : Int) ∧ Hid (∀ j (hj : j < alT.length), j < i → (alT[j]).2.any (fun x => x == large s) = false) ∧ Hid (w1.grownBy wx none)) (fun t _ => 56 - (intOf t).toNat)
  case atStart => exact ⟨0, by omega, rfl, Hid.mk' (fun j hj h => by omega), Hid.mk' (grownBy_refl _ _)⟩
  case round =>
    obtain ⟨i, hi, rfl, hn, hgx⟩ := hrel
    by_cases hlt : i < 56
    · have hiL : i < alT.length := by rw [alT_len]; exact hlt
      obtain ⟨hb, c0, c1, ho⟩ := hL.out.kept hgx.out i hiL
      obtain ⟨K, M, he⟩ : ∃ K M, alT[i] = (K, M) := ⟨_, _, rfl⟩
      rw [he] at c0 c1 ho
      have hit : Hid (M.any (fun x => x == large s) = true → fd s = K) := Hid.mk' (fun h => by
        have := fd_hit hiL (by rw [he]; exact h) hn.out
        rw [he] at this
        exact this)
      have hmis : Hid (M.any (fun x => x == large s) = false → ∀ j (hj : j < alT.length), j < i + 1 → (alT[j]).2.any (fun x => x == large s) = false) := Hid.mk' (fun h j hj hji => by
        by_cases e : j = i
        · subst e
          rw [he]
          exact h
        · exact hn.out j hj (by omega))
      have hbig : Hid (∀ x ∈ M, large x = x ∧ x.length ≤ 20) := Hid.mk' (by
        have := al_big _ (List.getElem_mem hiL)
        rw [he] at this
        exact this)
      have hK1 : Hid (1 ≤ K) := Hid.mk' (by
        have := al_at _ (List.getElem_mem hiL)
        rw [he] at this
        exact this.2.2.2.1)
      have hn5 : Hid (M.length ≤ 5) := Hid.mk' (al_of hiL he).2.2.1
      obtain ⟨n, hnl⟩ : ∃ n, Hid (M.length = n) := ⟨_, Hid.mk' rfl⟩
      obtain ⟨ai, hai⟩ : ∃ x, Hid (A i = x) := ⟨_, Hid.mk' rfl⟩
      have hn6 : n ≤ 5 := by rw [← hnl.out]; exact hn5.out
      simp only [hnl.out, hai.out] at c1 ho
      simp only at c0
      have HO := Hid.mk' ho
      have hlt' : (i : Int) < 56 := by omega
      have hi0 : (0 : Int) ≤ (i : Int) := by omega
      clear he ho hn hai hiL
      go_upto_region 4 with (first
        | (refine wpList_allocC _ rfl 55 rfl eZ (zeroE _) ?_; intro w2 v2 hg2)
        | (refine wpList_storeC _ rfl 55 _ _ rfl wr.heap.size eZ (eC (K : Int) ai n) infoE rfl (eC_one _ _ _) rfl rfl v2 ?_; intro w3 v3 hg3))
      have hg13 : Hid (wr.grownBy w3 none) := Hid.mk' (grownBy_new hg2 hg3 (fun k hk => by have h5 := Option.some.inj hk; omega))
      have HG3 : Hid (w1.grownBy w3 none) := Hid.mk' (gt hgx.out hg13.out)
      have HO3 := Hid.mk' (HO.out.kept0 hg13.out)
      obtain ⟨QB, hQB⟩ : ∃ b, Hid (wr.heap.size = b) := ⟨_, Hid.mk' rfl⟩
      rw [hQB.out] at v3
      rw [hQB.out]
      have y0 := v3.cell 0 rfl
      have y1 := v3.cell 1 rfl
      have V3 := Hid.mk' v3
      clear v2 hg2 hg3 v3 c0 c1 hQB HO
      go_wp2
      clear y0 y1
      go_loopw [17] (fun t wy => ∃ j : Nat, j ≤ n ∧ t = .int .i64 (j : Int) ∧ Hid ((M.take j).any (fun x => x == large s) = false) ∧ Hid (w3.grownBy wy none)) (fun t _ => n - (intOf t).toNat)
      case atStart => exact ⟨0, by omega, rfl, Hid.mk' rfl, Hid.mk' (grownBy_refl _ _)⟩
      case round =>
        obtain ⟨j, hj, rfl, hm, hgy⟩ := hrel
        by_cases hjl : j < n
        · have hjM : j < M.length := by rw [hnl.out]; exact hjl
          have hjl' : (j : Int) < (n : Int) := by omega
          have hj0 : (0 : Int) ≤ (j : Int) := by omega
          obtain ⟨x, hx⟩ : ∃ x, M[j] = x := ⟨_, rfl⟩
          have hxM : x ∈ M := by rw [← hx]; exact List.getElem_mem hjM
          have z0 : wr.cell? ⟨ai, j, none⟩ = some (.string (str x)) := by
            obtain ⟨b', o', e', hb', y'⟩ := stcell (HO3.out.kept0 hgy.out).rd hjM
            cases e'
            rw [hx, Nat.zero_add] at y'
            exact y'
          have hstep := any_step M j hjM (large s)
          rw [hx] at hstep
          have hst2 := Hid.mk' hstep
          have hB := Hid.mk' (hbig.out x hxM)
          by_cases hxe : x = large s
          · have a2 := Hid.mk' (pSame x s (by have := hB.out.2; omega) hs true (Hid.mk' (by rw [hB.out.1]; exact decide_eq_true hxe)))
            have hfd : Hid (fd s = K) := Hid.mk' (hit.out (by rw [List.any_eq_true]; exact ⟨x, hxM, by simpa using hxe⟩))
            obtain ⟨sx, hsx⟩ : ∃ y, Hid (str x = y) := ⟨_, Hid.mk' rfl⟩
            rw [hsx.out, hst.out] at a2
            rw [hsx.out] at z0
            have y0 : Hid (∀ wz, wr.grownBy wz none → wz.cell? ⟨QB, 0, none⟩ = some (.int .i64 (K : Int))) := Hid.mk' (fun wz hg => (V3.out.kept0 (gt hgy.out hg)).cell 0 rfl)
            clear hjM hx hxM hstep hxe
            go_upto_region 8 with (go_at_call 17; refine (a2.out _).mono ?_; rintro e w4 ⟨rfl, hg4⟩)
            have y1 := y0.out _ hg4
            clear z0
            go_wp2
            refine bodyPost_ret (v := .tuple #[.int .i64 (K : Int), .int .i64 0]) (by simp [results, Tryd.results16, go_sem]) rfl ⟨?_, gt hG1.out (gt HG3.out (gt hgy.out hg4))⟩
            have hx2 := hX.out
            rw [hfd.out] at hx2
            rw [← hx2.1, ← hx2.2]
            unfold lkE
            rw [if_neg (by have := hK1.out; omega)]
          · have a2 := Hid.mk' (pSame x s (by have := hB.out.2; omega) hs false (Hid.mk' (by rw [hB.out.1]; exact decide_eq_false hxe)))
            have hm2 : Hid ((M.take (j + 1)).any (fun x => x == large s) = false) := Hid.mk' (by rw [hst2.out, hm.out]; simpa using hxe)
            obtain ⟨sx, hsx⟩ : ∃ y, Hid (str x = y) := ⟨_, Hid.mk' rfl⟩
            rw [hsx.out, hst.out] at a2
            rw [hsx.out] at z0
            clear hjM hx hxM hstep hxe
            go_wp2_with (go_at_call 17; refine (a2.out _).mono ?_; rintro e w4 ⟨rfl, hg4⟩)
            go_roundw
            case rel => exact ⟨j + 1, by omega, by go_num, hm2, Hid.mk' (gt hgy.out hg4)⟩
            all_goals (simp [intOf] <;> omega)
        · have hjl' : ¬ (j : Int) < (n : Int) := by omega
          have hN2 := Hid.mk' (hmis.out (by
            have h1 := hm.out
            rwa [List.take_of_length_le (by rw [hnl.out]; omega)] at h1))
          clear hm hmis
          go_wp2
          go_roundw
          case rel => exact ⟨i + 1, by omega, by go_num, hN2, Hid.mk' (gt HG3.out hgy.out)⟩
          all_goals (simp [intOf] <;> omega)
    · have hlt' : ¬ (i : Int) < 56 := by omega
      have hFe : Hid (fd s = 0) := Hid.mk' (fd_miss (fun j hj => hn.out j hj (by have := alT_len; omega)))
      clear hn
      go_wp2
      refine bodyPost_ret (v := .tuple #[.int .i64 0, .int .i64 20]) (by simp [results, Tryd.results16, go_sem]) rfl ⟨?_, gt hG1.out hgx.out⟩
      have hx2 := hX.out
      rw [hFe.out] at hx2
      rw [← hx2.1, ← hx2.2]
      rfl
end Go.Proofs.YtljkncgbabiojaaDoor.C23

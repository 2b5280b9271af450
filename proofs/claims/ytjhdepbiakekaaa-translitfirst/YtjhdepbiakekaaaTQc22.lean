/- The program's First of layer 22: a walk. -/
import Derived.Test.YtjhdepbiakekaaaTQa22
import Derived.Test.YtjhdepbiakekaaaTD22
namespace Go.Proofs.Ytjhdepbiakekaaa.C22
open Go.ChangeShapes Go.WideShapes Go.ChangeAt Go.RowKit Go.Proofs.Ytjhdepbiakekaaa.Mem Go.Proofs.Ytjhdepbiakekaaa.El Go.Proofs.Ytjhdepbiakekaaa.St Go.Proofs.Ytjhdepbiakekaaa.Ru Go.Proofs.Ytjhdepbiakekaaa.Cb
set_option linter.unusedVariables false
set_option linter.unusedSimpArgs false

theorem tab_dec : ∀ p ∈ tab, ∀ s ∈ p.2, (U8.scanAll s).1.map (fun n : Nat => (n : Int)) = dec s := by decide +kernel
theorem low_dec : ∀ n, n < 128 → (U8.scanAll [UInt8.ofNat n]).1.map (fun n : Nat => (n : Int)) = dec [UInt8.ofNat n] := by decide +kernel
theorem cands_dec (u : Int) : ∀ s ∈ cands u, (U8.scanAll s).1.map (fun n : Nat => (n : Int)) = dec s := by
  intro s hs
  by_cases hw : 65281 ≤ u ∧ u ≤ 65374
  · rw [cands_wide hw] at hs
    simp only [List.mem_singleton] at hs
    subst hs
    exact low_dec _ (by omega)
  · by_cases hk : ∃ p ∈ tab, (p.1 : Int) = u
    · obtain ⟨p, hp, rfl⟩ := hk
      rw [(tab_cands p hp).1] at hs
      exact tab_dec p hp s hs
    · rw [cands_none hw (fun p hp e => hk ⟨p, hp, e⟩)] at hs
      simp at hs
theorem fits_dec {A : List Int} {u : Int} {s : List UInt8} (h : s ∈ cands u) : fits A (U8.scanAll s).1 = (dec s).all (hasI A) := by
  rw [← cands_dec u s h]
  unfold fits
  rw [List.all_map]
  rfl
set_option maxRecDepth 100000 in
set_option maxHeartbeats 1000000 in
theorem pfirst_any (u : Int) (L : List UInt8) (w : World) (C : List (List UInt8)) (hC : Hid (cands u = C)) (P : Option (List UInt8)) (hP : Hid (fstP C (dec L) = P)) : Calls Try.prog 10 #[.int .i32 u, .string (str L)] w fun e w' => e = .returned (.tuple #[.string (str (P.getD [])), .bool P.isSome]) ∧ w.grownBy w' none := by
  have hcn : Hid (∀ w, Calls Try.prog 8 #[.int .i32 u] w fun e w' => STold w C e w') := Hid.mk' (fun w => by rw [← hC.out]; exact pcand_any u w)
  have hstd := Hid.mk' (fun (c : Int) w => stands_any c L w (hasI (dec L) c) (Hid.mk' rfl))
  obtain ⟨A, hA⟩ : ∃ A, Hid (dec L = A) := ⟨_, Hid.mk' rfl⟩
  rw [hA.out] at hstd hP
  obtain ⟨S, hS⟩ : ∃ S, Hid (str L = S) := ⟨_, Hid.mk' rfl⟩
  rw [hS.out] at hstd
  rw [hS.out]
  have hfd : Hid (∀ i (h : i < C.length), fits A (U8.scanAll C[i]).1 = (dec C[i]).all (hasI A)) := Hid.mk' (fun i h => fits_dec (u := u) (by rw [hC.out]; exact List.getElem_mem h))
  have hCl : C.length ≤ 3 := by rw [← hC.out]; exact (cands_short u).1
  clear hS hA hC
  obtain ⟨n, hn⟩ : ∃ n, Hid (C.length = n) := ⟨_, Hid.mk' rfl⟩
  rw [hn.out] at hCl
  have hcn2 : Hid (∀ w, Calls Try.prog 8 #[.int .i32 u] w fun e w' => ∃ ao cap, e = .returned (.slice ao n cap) ∧ StE.Own w' ao cap C ∧ w.grownBy w' none) := Hid.mk' (fun w => (hcn.out w).mono (fun e w' h => by
    obtain ⟨ao, cap, h1, h2, h3, h4⟩ := h
    rw [hn.out] at h1
    exact ⟨ao, cap, h1, h2, h3⟩))
  clear hcn
  go_enter Try.func10, Try.ntmps10
  go_wp2
  go_step3
  go_wp2
  go_step3
  go_wp2_with (go_at_call 8; refine (hcn2.out _).mono ?_; rintro e w1 ⟨co, cc, rfl, oC, hg1⟩)
  have hRC := Hid.mk' oC.rd
  have hG1 := Hid.mk' hg1
  have q1 := oC.cap_le
  have q2 := oC.cap_max
  rw [hn.out] at q1
  clear oC hg1 hcn2
  go_loopg [13] n (fun g t13 wx => ∃ j : Nat, j + g = n ∧ t13 = .int .i64 (j : Int) ∧ Hid (∀ k (h : k < C.length), k < j → fits A (U8.scanAll C[k]).1 = false) ∧ Hid (w1.grownBy wx none))
  case atStart => exact ⟨0, by omega, rfl, Hid.mk' (fun k _ hk => by omega), Hid.mk' (grownBy_refl _ _)⟩
  case round =>
    obtain ⟨j, hjg, rfl, hno, hgx⟩ := hrel
    by_cases hlt : j < n
    · have hlt' : (j : Int) < (n : Int) := by omega
      have hjC : j < C.length := by rw [hn.out]; exact hlt
      obtain ⟨cb, cof, rfl, hcb, x0⟩ := stcell (hRC.out.kept0 hgx.out) hjC
      obtain ⟨s, hs⟩ : ∃ s, Hid (C[j] = s) := ⟨_, Hid.mk' rfl⟩
      have hf := Hid.mk' (hfd.out j hjC)
      rw [hs.out] at hf x0
      obtain ⟨z, hz⟩ : ∃ z, Hid (s.length = z) := ⟨_, Hid.mk' rfl⟩
      have hsz : Hid ((str s).size = z) := Hid.mk' (by rw [str_size, hz.out])
      have hds : Hid (∀ p, p < z → ∃ c n, Utf8.decode (str s) p = (c, n) ∧ dec (s.drop p) = (c : Int) :: dec (s.drop (p + n)) ∧ 1 ≤ n ∧ p + n ≤ z ∧ c ≤ 1114111) := Hid.mk' (fun p h => by rw [← hz.out] at h ⊢; exact dec_step s p h)
      obtain ⟨x, hx⟩ : ∃ x, Hid ((dec s).all (hasI A) = x) := ⟨_, Hid.mk' rfl⟩
      rw [hx.out] at hf
      obtain ⟨T, hT⟩ : ∃ T, Hid (str s = T) := ⟨_, Hid.mk' rfl⟩
      rw [hT.out] at hsz hds x0
      have hI0 := Hid.mk' (World.iter_heap wr T 0)
      have hGi : Hid (w1.grownBy (wr.iter T 0) none) := Hid.mk' (gt hgx.out (World.grownBy_alloc _ _ _))
      have hwz : Hid (w1.heap.size ≤ wr.heap.size) := Hid.mk' hgx.out.size
      go_upto_region 5 with fail
      obtain ⟨B, hB⟩ : ∃ B, Hid (wr.heap.size = B) := ⟨_, Hid.mk' rfl⟩
      rw [hB.out] at hI0 hwz
      rw [hB.out]
      clear x0 hcb hB
      generalize wr.iter T 0 = w2 at *
      go_loopg [9] z (fun g2 _ wy => ∃ p : Nat, p + g2 = z ∧ Hid (wy.heap[B]? = some (.stringIter T p)) ∧ Hid ((dec (s.drop p)).all (hasI A) = x) ∧ Hid (w1.grownBy wy none))
      case atStart => exact ⟨0, by omega, hI0, hx, hGi⟩
      case round =>
        obtain ⟨p, hpg, hk, hq, hgr⟩ := hrel
        by_cases hp : p < z
        · obtain ⟨c, m, hdec, hst, hm1, hm2, hc⟩ := hds.out p hp
          have hlt2 : p < T.size := by rw [hsz.out]; exact hp
          have hnx : ∀ ty, (Instr.next (.pointer (some ⟨B, 0, none⟩)) true ty).run Try.prog wr = .ok (.tuple #[.bool true, .int .i64 p, .int .i32 (c : Int)]) (wr.iterAt B T (p + m)) := by
            intro ty
            rw [Lib.run_next_any_at wr B T p ty hk.out hlt2, hdec]
          have hk2 := Hid.mk' (Lib.iterAt_heap wr B T p (p + m) hk.out)
          have hgr2 : Hid (w1.grownBy (wr.iterAt B T (p + m)) none) := Hid.mk' (grown_iterAt hgr.out hwz.out)
          have hq2 := hq.out
          rw [hst, List.all_cons] at hq2
          have hq3 := Hid.mk' hq2
          have hc1 := Hid.mk' (fun w => hstd.out (c : Int) w)
          obtain ⟨y, hy⟩ : ∃ y, Hid (hasI A (c : Int) = y) := ⟨_, Hid.mk' rfl⟩
          rw [hy.out] at hc1 hq3
          clear hq2 hst hdec hk hq hgr hlt2
          generalize wr.iterAt B T (p + m) = wi at *
          cases y with
          | true =>
            go_wp2_with (go_at_call 23; refine (hc1.out _).mono ?_; rintro e w3 ⟨rfl, hg3⟩)
            go_roundg (z - (p + m))
            case measure => omega
            case rel => exact ⟨p + m, by omega, Hid.mk' (blk_kept hk2.out hg3), hq3, Hid.mk' (gt hgr2.out hg3)⟩
          | false =>
            have hx0 : Hid (x = false) := Hid.mk' hq3.out.symm
            go_wp2_with (go_at_call 23; refine (hc1.out _).mono ?_; rintro e w3 ⟨rfl, hg3⟩)
            go_roundg (n - (j + 1))
            case measure => omega
            case rel => exact ⟨j + 1, by omega, by go_num, Hid.mk' (fun k h hk => by
              by_cases e : k = j
              · subst e; rw [hs.out, hf.out, hx0.out]
              · exact hno.out k h (by omega)), Hid.mk' (gt hgr2.out hg3)⟩
        · have hnx : ∀ ty, (Instr.next (.pointer (some ⟨B, 0, none⟩)) true ty).run Try.prog wr = .ok (.tuple #[.bool false]) wr := fun ty => Lib.run_next_end_at wr B T p ty hk.out (by rw [hsz.out]; exact hp)
          have hx1 : Hid (x = true) := Hid.mk' (by rw [← hq.out, List.drop_of_length_le (by rw [hz.out]; omega)]; rfl)
          have hPs : Hid (P = some s) := Hid.mk' (by
            rw [← hP.out]
            unfold fstP
            rw [List.find?_eq_some_iff_getElem]
            refine ⟨by rw [hf.out, hx1.out], j, hjC, hs.out, fun k hk => ?_⟩
            have := hno.out k (by omega) hk
            simp [this])
          clear hk hq hp
          go_wp2
          try rw [Exit.noGoto_ret]
          try rw [Exit.noGoto_ret]
          refine bodyPost_ret (v := .tuple #[.string T, .bool true]) (by simp [results, Try.results10, go_sem]) rfl ⟨?_, gt hG1.out hgr.out⟩
          rw [hPs.out, ← hT.out]
          rfl
    · have hjn : ¬ (j : Int) < (n : Int) := by omega
      have hPn : Hid (P = none) := Hid.mk' (by
        rw [← hP.out]
        unfold fstP
        rw [List.find?_eq_none]
        intro x hx
        obtain ⟨k, hk, e⟩ := List.getElem_of_mem hx
        subst e
        simp [hno.out k hk (by have := hn.out; omega)])
      go_wp2
      try rw [Exit.noGoto_ret]
      try rw [Exit.noGoto_ret]
      refine bodyPost_ret (v := .tuple #[.string ⟨#[]⟩, .bool false]) (by simp [results, Try.results10, go_sem]) rfl ⟨?_, gt hG1.out hgx.out⟩
      rw [hPn.out]
      rfl
end Go.Proofs.Ytjhdepbiakekaaa.C22

/- The document's Split of layer 13: a walk. -/
import Derived.Test.YtfehmbicolllkaaVC13
namespace Go.Proofs.Ytfehmbicolllkaa.C13
open Go.ChangeShapes Go.WideShapes Go.ChangeAt Go.RowKit Go.Proofs.Ytfehmbicolllkaa.Mem
set_option linter.unusedVariables false
set_option linter.unusedSimpArgs false

/-- What Split answers. -/
def spT (R : Option (Nat × Nat)) : Nat × Nat × Bool := match R with | some (a, b) => (a, b, true) | none => (0, 0, false)
set_option maxRecDepth 100000 in
set_option maxHeartbeats 1000000 in
theorem split_any (u : Int) (w : World) (R : Option (Nat × Nat)) (hR : Hid (spR u = R)) : Calls Try.prog 12 #[.int .i32 u] w fun e w' => e = .returned (.tuple #[.int .i32 ((spT R).1 : Int), .int .i32 ((spT R).2.1 : Int), .bool (spT R).2.2]) ∧ w.grownBy w' none := by
  obtain ⟨f, hf⟩ : ∃ f : Nat × Nat × Nat → Bool, Hid (f = fun p => decide ((p.2.2 : Int) = u)) := ⟨_, Hid.mk' rfl⟩
  have hR2 : Hid ((trip.find? f).map (fun p => (p.1, p.2.1)) = R) := Hid.mk' (by rw [hf.out]; exact hR.out)
  clear hR
  go_enter Try.func12, Try.ntmps12
  go_wp2
  go_loopw [5] (fun t5 wx => ∃ (j p : Nat), j ≤ 120 ∧ Hid (12 * j = p) ∧ p ≤ 1440 ∧ t5 = .int .i64 (p : Int) ∧ Hid (Miss f j) ∧ Hid (w.grownBy wx none)) (fun t5 _ => 1440 - (intOf t5).toNat)
  case atStart => exact ⟨0, 0, by omega, Hid.mk' rfl, by omega, rfl, Hid.mk' (Miss.zero f), Hid.mk' ⟨rfl, rfl, rfl, Nat.le_refl _, fun _ _ _ => rfl⟩⟩
  case round =>
    obtain ⟨j, p, hj, hp, hp2, rfl, hb, hG⟩ := hrel
    by_cases hlt : j < 120
    · have hlt' : (p : Int) < 1440 := by have := hp.out; omega
      obtain ⟨a, b, c, ht, n0, n1, n2⟩ := trip_at hlt
      obtain ⟨p4, hp4⟩ : ∃ q, Hid (p + 4 = q) := ⟨_, Hid.mk' rfl⟩
      obtain ⟨p8, hp8⟩ : ∃ q, Hid (p + 8 = q) := ⟨_, Hid.mk' rfl⟩
      have e4 : (p : Int) + 4 = (p4 : Int) := by have := hp4.out; omega
      have e8 : (p : Int) + 8 = (p8 : Int) := by have := hp8.out; omega
      have e4w : IntKind.i64.wrap (p4 : Int) = (p4 : Int) := by rw [IntKind.wrap_i64]; have := hp4.out; omega
      have b4 : p4 ≤ 1440 := by have := hp4.out; have := hp.out; omega
      have b8 : p8 ≤ 1440 := by have := hp8.out; have := hp.out; omega
      by_cases hc : (c : Int) = u
      · have : R = some (a, b) := by
          rw [← hR2.out, hb.out.hit (a, b, c) ht.out (by rw [hf.out]; simp [hc])]
          rfl
        subst this
        subst hc
        clear hR2
        go_upto_region 5 with (first
          | (refine wpList_cut _ rfl _ _ rfl p8 rfl (dig4 t3) (by decide +kernel) 1440 (by rw [dig4_len, t3_len]) b8 ?_; intro s8 hs8)
          | (go_at_call 25; refine (four_any s8 c (cut3 (j := j) (q := 2) (by rw [hs8]; congr 1; have := hp8.out; have := hp.out; omega) n2.out) _).mono ?_; rintro e w3 ⟨rfl, m3, rfl⟩))
        refine wp_region_held_drew (S := fun _ => True) (by kernel_rfl) trivial (fun hHeld => ?_)
        refine wpAnyH_take (i := 0) (v := ?_) rfl (by kernel_rfl) (by kernel_rfl) (by kernel_rfl) (fun _ _ _ h => h) (Or.inl ⟨by rfl, ?_⟩) (by assumption) ?_; rotate_left
        · (intro w hSw; (try dsimp only at hSw); go_simp; try with_reducible rfl)
        try simp only [List.getElem_toArray, List.getElem_cons_zero, Act.put, List.setIfInBounds_toArray, List.set_cons_zero, List.set_cons_succ]
        refine wpAnyH_cut (i := 1) rfl (by kernel_rfl) (by kernel_rfl) (by kernel_rfl) (fun _ _ _ _ h => h) (by rfl) (by assumption) _ _ rfl p rfl (dig4 t3) (by decide +kernel) 1440 (by rw [dig4_len, t3_len]) hp2 ?_; intro s0 hs0
        try simp only [List.getElem_toArray, List.getElem_cons_zero, List.getElem_cons_succ, Act.put, List.setIfInBounds_toArray, List.set_cons_zero, List.set_cons_succ]
        refine wpAnyH_take (i := 3) (v := ?_) rfl (by kernel_rfl) (by kernel_rfl) (by kernel_rfl) (fun _ _ _ h => h) (Or.inl ⟨by rfl, ?_⟩) (by assumption) ?_; rotate_left
        · (intro w hSw; (try dsimp only at hSw); go_simp; try with_reducible rfl)
        try simp only [List.getElem_toArray, List.getElem_cons_zero, List.getElem_cons_succ, Act.put, List.setIfInBounds_toArray, List.set_cons_zero, List.set_cons_succ]
        refine wpAnyH_take (i := 4) (v := ?_) rfl (by kernel_rfl) (by kernel_rfl) (by kernel_rfl) (fun _ _ _ h => h) (Or.inl ⟨by rfl, ?_⟩) (by assumption) ?_; rotate_left
        · (intro w hSw; (try dsimp only at hSw); go_simp; try with_reducible rfl)
        try simp only [List.getElem_toArray, List.getElem_cons_zero, List.getElem_cons_succ, Act.put, List.setIfInBounds_toArray, List.set_cons_zero, List.set_cons_succ]
        refine wpAnyH_cut (i := 5) rfl (by kernel_rfl) (by kernel_rfl) (by kernel_rfl) (fun _ _ _ _ h => h) (by rfl) (by assumption) _ _ rfl p4 rfl (dig4 t3) (by decide +kernel) 1440 (by rw [dig4_len, t3_len]) b4 ?_; intro s4 hs4
        try simp only [List.getElem_toArray, List.getElem_cons_zero, List.getElem_cons_succ, Act.put, List.setIfInBounds_toArray, List.set_cons_zero, List.set_cons_succ]
        refine wpAnyH_ready (rs := [2]) (by kernel_rfl) (by simp) ?_
        refine AllReadyH.cons rfl (fun K hK => ?_) AllReadyH.nil
        go_simp
        refine (four_any s0 a (cut3 (j := j) (q := 0) (by rw [hs0]; congr 1; have := hp.out; omega) n0.out) _).mono ?_; rintro e w' ⟨rfl, m0, rfl⟩; try dsimp only
        refine hK.out _ _ trivial (fun hHeld => ?_)
        clear hK K
        try simp only [List.getElem_toArray, List.getElem_cons_zero, List.getElem_cons_succ, Act.put, List.setIfInBounds_toArray, List.set_cons_zero, List.set_cons_succ]
        refine wpAnyH_ready (rs := [6]) (by kernel_rfl) (by simp) ?_
        refine AllReadyH.cons rfl (fun K hK => ?_) AllReadyH.nil
        go_simp
        refine (four_any s4 b (cut3 (j := j) (q := 1) (by rw [hs4]; congr 1; have := hp4.out; have := hp.out; omega) n1.out) _).mono ?_; rintro e w' ⟨rfl, m1, rfl⟩; try dsimp only
        refine hK.out _ _ trivial (fun hHeld => ?_)
        clear hK K
        try simp only [List.getElem_toArray, List.getElem_cons_zero, List.getElem_cons_succ, Act.put, List.setIfInBounds_toArray, List.set_cons_zero, List.set_cons_succ]
        refine wpAnyH_take (i := 7) (v := ?_) rfl (by kernel_rfl) (by kernel_rfl) (by kernel_rfl) (fun _ _ _ h => h) (Or.inl ⟨by rfl, ?_⟩) (by assumption) ?_; rotate_left
        · (intro w hSw; (try dsimp only at hSw); go_simp; try with_reducible rfl)
        try simp only [List.getElem_toArray, List.getElem_cons_zero, List.getElem_cons_succ, Act.put, List.setIfInBounds_toArray, List.set_cons_zero, List.set_cons_succ]
        refine wpAnyH_take (i := 8) (v := ?_) rfl (by kernel_rfl) (by kernel_rfl) (by kernel_rfl) (fun _ _ _ h => h) (Or.inl ⟨by rfl, ?_⟩) (by assumption) ?_; rotate_left
        · (intro w hSw; (try dsimp only at hSw); go_simp; try with_reducible rfl)
        try simp only [List.getElem_toArray, List.getElem_cons_zero, List.getElem_cons_succ, Act.put, List.setIfInBounds_toArray, List.set_cons_zero, List.set_cons_succ]
        refine wpAnyH_take (i := 9) (v := ?_) rfl (by kernel_rfl) (by kernel_rfl) (by kernel_rfl) (fun _ _ _ h => h) (Or.inl ⟨by rfl, ?_⟩) (by assumption) ?_; rotate_left
        · (intro w hSw; (try dsimp only at hSw); go_simp; try with_reducible rfl)
        try simp only [List.getElem_toArray, List.getElem_cons_zero, List.getElem_cons_succ, Act.put, List.setIfInBounds_toArray, List.set_cons_zero, List.set_cons_succ]
        refine wpAnyH_done (by kernel_rfl) ?_ _
        go_wp2
        go_ret3
        exact ⟨rfl, gt hG.out (gt (gdw _ _) (gdw _ _))⟩
      · have hc' : ((c : Int) == u) = false := by simpa using hc
        have hmiss : Hid (Miss f (j + 1)) := Hid.mk' (hb.out.succ (a, b, c) ht.out (by rw [hf.out]; simp [hc]))
        go_wp2_with (first
          | (refine wpList_cut _ rfl _ _ rfl p8 rfl (dig4 t3) (by decide +kernel) 1440 (by rw [dig4_len, t3_len]) b8 ?_; intro s8 hs8)
          | (go_at_call 25; refine (four_any s8 c (cut3 (j := j) (q := 2) (by rw [hs8]; congr 1; have := hp8.out; have := hp.out; omega) n2.out) _).mono ?_; rintro e w3 ⟨rfl, m3, rfl⟩))
        go_roundw
        case rel => exact ⟨j + 1, p + 12, by omega, Hid.mk' (by have := hp.out; omega), by have := hp.out; omega, by go_num, hmiss, Hid.mk' (gt hG.out (gdw _ _))⟩
        all_goals (simp [intOf]; omega)
    · have hp' : p = 1440 := by have := hp.out; omega
      obtain rfl : j = 120 := by omega
      subst hp'
      have : R = none := by rw [← hR2.out, hb.out.all]; rfl
      subst this
      clear hR2
      go_wp2_with fail
      go_ret3
      exact ⟨rfl, hG.out⟩
end Go.Proofs.Ytfehmbicolllkaa.C13

/- The document's Row: a walk. -/
import Derived.Test.YtmaegmbpfilmhaaRB16
import Derived.Test.YtmaegmbpfilmhaaSr
namespace Go.Proofs.Ytmaegmbpfilmhaa.C16
open Go.ChangeShapes Go.WideShapes Go.ChangeAt Go.RowKit Go.Proofs.Ytmaegmbpfilmhaa.Mem Go.Proofs.Ytmaegmbpfilmhaa.El Go.Proofs.Ytmaegmbpfilmhaa.Ru
set_option linter.unusedVariables false
set_option linter.unusedSimpArgs false

/-- A row's scalars. -/
def rowR (k : Int) : List Int := (tab k).map (fun n : Nat => (n : Int))

set_option maxRecDepth 100000 in
set_option maxHeartbeats 1000000 in
theorem refRow_any (k : Int) (w : World) (F : List Int) (hF : Hid (rowR k = F)) : Calls Try.prog 13 #[.int .i64 k] w fun e w' => ∃ ro rc, e = .returned (.slice ro F.length rc) ∧ RuE.Own w' ro rc F ∧ w.grownBy w' none ∧ (∀ g, blk ro = some g → w.heap.size ≤ g) := by
  by_cases hk : k ∈ kinds
  · have hl := Hid.mk' (fun w => list_yes hk w)
    have hlen : Hid ((tab k).length = 94) := Hid.mk' (tab_len hk)
    have hsm : Hid (∀ x ∈ tab k, x ≤ 65535) := Hid.mk' (tab_small (k := k))
    clear hk
    go_enter Try.func13, Try.ntmps13
    go_wp2_with (go_at_call 21; refine (hl.out _).mono ?_; rintro e w1 ⟨⟨s, rfl, hsz, hse, hs0⟩, rfl⟩)
    clear hl hse
    go_loopw [4, 5] (fun t4 t5 wx => ∃ (i rc : Nat) (ro : Option Addr) (D : List Int), i ≤ 94 ∧ t5 = .int .i64 ((4 * i : Nat) : Int) ∧ t4 = .slice ro D.length rc ∧ D.length = i ∧ Hid (D = (rowR k).take i) ∧ Hid (RuE.Own wx ro rc D) ∧ Hid (∀ g, blk ro = some g → w1.heap.size ≤ g) ∧ Hid (w1.grownBy wx none)) (fun _ t5 _ => 376 - (intOf t5).toNat)
    case atStart => exact ⟨0, 0, none, [], by omega, rfl, rfl, rfl, Hid.mk' rfl, Hid.mk' (.inl ⟨rfl, rfl, rfl⟩), Hid.mk' (by intro g e; cases e), Hid.mk' (grownBy_refl _ _)⟩
    case round =>
      obtain ⟨i, rc, ro, D, hi, rfl, rfl, hDl, hD, hO, hbl, hG⟩ := hrel
      have hDl0 := Hid.mk' hDl
      obtain ⟨p, hp⟩ : ∃ p, 4 * i = p := ⟨_, rfl⟩
      rw [hp]
      by_cases hlt : i < 94
      · have hil : i < (tab k).length := by rw [hlen.out]; exact hlt
        have hilt : (p : Int) < 376 := by omega
        have hp0 : (0 : Int) ≤ (p : Int) := by omega
        obtain ⟨n, hn⟩ : ∃ n, Hid ((tab k)[i]? = some n) := ⟨_, Hid.mk' (List.getElem?_eq_getElem hil)⟩
        have hn2 : n ≤ 65535 := hsm.out n (List.mem_of_getElem? hn.out)
        have hD2 : Hid (D ++ [(n : Int)] = (rowR k).take (i + 1)) := Hid.mk' (by
          have h1 : i < (rowR k).length := by rw [rowR, List.length_map]; exact hil
          have h2 : (rowR k)[i] = (n : Int) := by
            simp only [rowR, List.getElem_map]
            rw [(List.getElem?_eq_some_iff.1 hn.out).2]
          rw [List.take_succ_eq_append_getElem h1, h2, hD.out])
        have hc : ∀ q : Nat, q < 4 → s[p + q]? = (hex4 n)[q]? := by
          intro q hq
          have e2 := dig4_at (tab k) i hil q hq
          rw [(List.getElem?_eq_some_iff.1 hn.out).2] at e2
          rw [← e2, bget, hs0.out, hp]
        obtain ⟨d0, hd0⟩ : ∃ d, n / 4096 % 16 = d := ⟨_, rfl⟩
        obtain ⟨d1, hd1⟩ : ∃ d, n / 256 % 16 = d := ⟨_, rfl⟩
        obtain ⟨d2, hd2⟩ : ∃ d, n / 16 % 16 = d := ⟨_, rfl⟩
        obtain ⟨d3, hd3⟩ : ∃ d, n % 16 = d := ⟨_, rfl⟩
        have g0 : s[p]? = some (dg d0) := by have := hc 0 (by omega); rw [Nat.add_zero] at this; rw [this, ← hd0]; rfl
        have g1 : s[p + 1]? = some (dg d1) := by rw [hc 1 (by omega), ← hd1]; rfl
        have g2 : s[p + 2]? = some (dg d2) := by rw [hc 2 (by omega), ← hd2]; rfl
        have g3 : s[p + 3]? = some (dg d3) := by rw [hc 3 (by omega), ← hd3]; rfl
        have k0 := Hid.mk' (fun w => digit_any d0 (by omega) w)
        have k1 := Hid.mk' (fun w => digit_any d1 (by omega) w)
        have k2 := Hid.mk' (fun w => digit_any d2 (by omega) w)
        have k3 := Hid.mk' (fun w => digit_any d3 (by omega) w)
        have l0 : d0 ≤ 15 := by omega
        have l1 : d1 ≤ 15 := by omega
        have l2 : d2 ≤ 15 := by omega
        have l3 : d3 ≤ 15 := by omega
        have hsum : 4096 * (d0 : Int) + 256 * (d1 : Int) + 16 * (d2 : Int) + (d3 : Int) = (n : Int) := by omega
        have hp1 : IntKind.i64.wrap ((p : Int) + 1) = (p : Int) + 1 := by rw [IntKind.wrap_i64]; omega
        have hp2 : IntKind.i64.wrap ((p : Int) + 2) = (p : Int) + 2 := by rw [IntKind.wrap_i64]; omega
        have hp3 : IntKind.i64.wrap ((p : Int) + 3) = (p : Int) + 3 := by rw [IntKind.wrap_i64]; omega
        have m0 : IntKind.i32.wrap (4096 * (d0 : Int)) = 4096 * (d0 : Int) := by rw [IntKind.wrap_i32]; omega
        have m1 : IntKind.i32.wrap (256 * (d1 : Int)) = 256 * (d1 : Int) := by rw [IntKind.wrap_i32]; omega
        have m2 : IntKind.i32.wrap (16 * (d2 : Int)) = 16 * (d2 : Int) := by rw [IntKind.wrap_i32]; omega
        have m3 : IntKind.i32.wrap (4096 * (d0 : Int) + 256 * (d1 : Int)) = 4096 * (d0 : Int) + 256 * (d1 : Int) := by rw [IntKind.wrap_i32]; omega
        have m4 : IntKind.i32.wrap (4096 * (d0 : Int) + 256 * (d1 : Int) + 16 * (d2 : Int)) = 4096 * (d0 : Int) + 256 * (d1 : Int) + 16 * (d2 : Int) := by rw [IntKind.wrap_i32]; omega
        have m5 : IntKind.i32.wrap (n : Int) = (n : Int) := by rw [IntKind.wrap_i32]; omega
        have hDm : D.length ≤ 94 := by omega
        clear hc hd0 hd1 hd2 hd3 hil
        generalize dg d0 = b0 at *
        generalize dg d1 = b1 at *
        generalize dg d2 = b2 at *
        generalize dg d3 = b3 at *
        have i0 := index_str (r := s) (i := p) g0
        have i1 := index_str (r := s) (i := p + 1) g1
        have i2 := index_str (r := s) (i := p + 2) g2
        have i3 := index_str (r := s) (i := p + 3) g3
        simp only [Int.natCast_add, Int.natCast_one, Int.cast_ofNat_Int] at i1 i2 i3
        have hp8 := Hid.mk' hp
        clear hDl hp
        go_wp2
        -- the region, operation by operation
        refine wp_region_held_drew (S := fun _ => True) (by kernel_rfl) trivial (fun hHeld => ?_)
        refine wpAnyH_take (i := 0) (v := ?_) rfl (by kernel_rfl) (by kernel_rfl) (by kernel_rfl) (fun _ _ _ h => h) (Or.inl ⟨by rfl, ?_⟩) (by assumption) ?_; rotate_left
        · (intro w hSw; (try dsimp only at hSw); go_simp; try with_reducible rfl)
        try simp only [List.getElem_toArray, List.getElem_cons_zero, Act.put, List.setIfInBounds_toArray, List.set_cons_zero, List.set_cons_succ]
        refine wpAnyH_take (i := 1) (v := ?_) rfl (by kernel_rfl) (by kernel_rfl) (by kernel_rfl) (fun _ _ _ h => h) (Or.inl ⟨by rfl, ?_⟩) (by assumption) ?_; rotate_left
        · (intro w hSw; (try dsimp only at hSw); go_simp; try with_reducible rfl)
        try simp only [List.getElem_toArray, List.getElem_cons_zero, List.getElem_cons_succ, Act.put, List.setIfInBounds_toArray, List.set_cons_zero, List.set_cons_succ]
        refine wpAnyH_take (i := 2) (v := ?_) rfl (by kernel_rfl) (by kernel_rfl) (by kernel_rfl) (fun _ _ _ h => h) (Or.inl ⟨by rfl, ?_⟩) (by assumption) ?_; rotate_left
        · (intro w hSw; (try dsimp only at hSw); go_simp; try with_reducible rfl)
        try simp only [List.getElem_toArray, List.getElem_cons_zero, List.getElem_cons_succ, Act.put, List.setIfInBounds_toArray, List.set_cons_zero, List.set_cons_succ]
        refine wpAnyH_take (i := 3) (v := ?_) rfl (by kernel_rfl) (by kernel_rfl) (by kernel_rfl) (fun _ _ _ h => h) (Or.inl ⟨by rfl, ?_⟩) (by assumption) ?_; rotate_left
        · (intro w hSw; (try dsimp only at hSw); go_simp; try with_reducible rfl)
        try simp only [List.getElem_toArray, List.getElem_cons_zero, List.getElem_cons_succ, Act.put, List.setIfInBounds_toArray, List.set_cons_zero, List.set_cons_succ]
        refine wpAnyH_take (i := 6) (v := ?_) rfl (by kernel_rfl) (by kernel_rfl) (by kernel_rfl) (fun _ _ _ h => h) (Or.inl ⟨by rfl, ?_⟩) (by assumption) ?_; rotate_left
        · (intro w hSw; (try dsimp only at hSw); go_simp; try with_reducible rfl)
        try simp only [List.getElem_toArray, List.getElem_cons_zero, List.getElem_cons_succ, Act.put, List.setIfInBounds_toArray, List.set_cons_zero, List.set_cons_succ]
        refine wpAnyH_take (i := 7) (v := ?_) rfl (by kernel_rfl) (by kernel_rfl) (by kernel_rfl) (fun _ _ _ h => h) (Or.inl ⟨by rfl, ?_⟩) (by assumption) ?_; rotate_left
        · (intro w hSw; (try dsimp only at hSw); go_simp; try with_reducible rfl)
        try simp only [List.getElem_toArray, List.getElem_cons_zero, List.getElem_cons_succ, Act.put, List.setIfInBounds_toArray, List.set_cons_zero, List.set_cons_succ]
        refine wpAnyH_take (i := 8) (v := ?_) rfl (by kernel_rfl) (by kernel_rfl) (by kernel_rfl) (fun _ _ _ h => h) (Or.inl ⟨by rfl, ?_⟩) (by assumption) ?_; rotate_left
        · (intro w hSw; (try dsimp only at hSw); go_simp; try with_reducible rfl)
        try simp only [List.getElem_toArray, List.getElem_cons_zero, List.getElem_cons_succ, Act.put, List.setIfInBounds_toArray, List.set_cons_zero, List.set_cons_succ]
        refine wpAnyH_take (i := 9) (v := ?_) rfl (by kernel_rfl) (by kernel_rfl) (by kernel_rfl) (fun _ _ _ h => h) (Or.inl ⟨by rfl, ?_⟩) (by assumption) ?_; rotate_left
        · (intro w hSw; (try dsimp only at hSw); go_simp; try with_reducible rfl)
        try simp only [List.getElem_toArray, List.getElem_cons_zero, List.getElem_cons_succ, Act.put, List.setIfInBounds_toArray, List.set_cons_zero, List.set_cons_succ]
        refine wpAnyH_take (i := 13) (v := ?_) rfl (by kernel_rfl) (by kernel_rfl) (by kernel_rfl) (fun _ _ _ h => h) (Or.inl ⟨by rfl, ?_⟩) (by assumption) ?_; rotate_left
        · (intro w hSw; (try dsimp only at hSw); go_simp; try with_reducible rfl)
        try simp only [List.getElem_toArray, List.getElem_cons_zero, List.getElem_cons_succ, Act.put, List.setIfInBounds_toArray, List.set_cons_zero, List.set_cons_succ]
        refine wpAnyH_take (i := 14) (v := ?_) rfl (by kernel_rfl) (by kernel_rfl) (by kernel_rfl) (fun _ _ _ h => h) (Or.inl ⟨by rfl, ?_⟩) (by assumption) ?_; rotate_left
        · (intro w hSw; (try dsimp only at hSw); go_simp; try with_reducible rfl)
        try simp only [List.getElem_toArray, List.getElem_cons_zero, List.getElem_cons_succ, Act.put, List.setIfInBounds_toArray, List.set_cons_zero, List.set_cons_succ]
        refine wpAnyH_take (i := 15) (v := ?_) rfl (by kernel_rfl) (by kernel_rfl) (by kernel_rfl) (fun _ _ _ h => h) (Or.inl ⟨by rfl, ?_⟩) (by assumption) ?_; rotate_left
        · (intro w hSw; (try dsimp only at hSw); go_simp; try with_reducible rfl)
        try simp only [List.getElem_toArray, List.getElem_cons_zero, List.getElem_cons_succ, Act.put, List.setIfInBounds_toArray, List.set_cons_zero, List.set_cons_succ]
        refine wpAnyH_take (i := 16) (v := ?_) rfl (by kernel_rfl) (by kernel_rfl) (by kernel_rfl) (fun _ _ _ h => h) (Or.inl ⟨by rfl, ?_⟩) (by assumption) ?_; rotate_left
        · (intro w hSw; (try dsimp only at hSw); go_simp; try with_reducible rfl)
        try simp only [List.getElem_toArray, List.getElem_cons_zero, List.getElem_cons_succ, Act.put, List.setIfInBounds_toArray, List.set_cons_zero, List.set_cons_succ]
        refine wpAnyH_take (i := 20) (v := ?_) rfl (by kernel_rfl) (by kernel_rfl) (by kernel_rfl) (fun _ _ _ h => h) (Or.inl ⟨by rfl, ?_⟩) (by assumption) ?_; rotate_left
        · (intro w hSw; (try dsimp only at hSw); go_simp; try with_reducible rfl)
        try simp only [List.getElem_toArray, List.getElem_cons_zero, List.getElem_cons_succ, Act.put, List.setIfInBounds_toArray, List.set_cons_zero, List.set_cons_succ]
        refine wpAnyH_take (i := 21) (v := ?_) rfl (by kernel_rfl) (by kernel_rfl) (by kernel_rfl) (fun _ _ _ h => h) (Or.inl ⟨by rfl, ?_⟩) (by assumption) ?_; rotate_left
        · (intro w hSw; (try dsimp only at hSw); go_simp; try with_reducible rfl)
        try simp only [List.getElem_toArray, List.getElem_cons_zero, List.getElem_cons_succ, Act.put, List.setIfInBounds_toArray, List.set_cons_zero, List.set_cons_succ]
        refine wpAnyH_take (i := 22) (v := ?_) rfl (by kernel_rfl) (by kernel_rfl) (by kernel_rfl) (fun _ _ _ h => h) (Or.inl ⟨by rfl, ?_⟩) (by assumption) ?_; rotate_left
        · (intro w hSw; (try dsimp only at hSw); go_simp; try with_reducible rfl)
        try simp only [List.getElem_toArray, List.getElem_cons_zero, List.getElem_cons_succ, Act.put, List.setIfInBounds_toArray, List.set_cons_zero, List.set_cons_succ]
        refine wpAnyH_take (i := 23) (v := ?_) rfl (by kernel_rfl) (by kernel_rfl) (by kernel_rfl) (fun _ _ _ h => h) (Or.inl ⟨by rfl, ?_⟩) (by assumption) ?_; rotate_left
        · (intro w hSw; (try dsimp only at hSw); go_simp; try with_reducible rfl)
        try simp only [List.getElem_toArray, List.getElem_cons_zero, List.getElem_cons_succ, Act.put, List.setIfInBounds_toArray, List.set_cons_zero, List.set_cons_succ]
        refine wpAnyH_ready (rs := [4]) (by kernel_rfl) (by simp) ?_
        refine AllReadyH.cons rfl (fun K hK => ?_) AllReadyH.nil
        go_simp
        refine (k0.out _).mono ?_; rintro e w' ⟨rfl, hw⟩; subst w'; try dsimp only
        refine hK.out _ _ trivial (fun hHeld => ?_)
        clear hK K
        try simp only [List.getElem_toArray, List.getElem_cons_zero, List.getElem_cons_succ, Act.put, List.setIfInBounds_toArray, List.set_cons_zero, List.set_cons_succ]
        refine wpAnyH_take (i := 5) (v := ?_) rfl (by kernel_rfl) (by kernel_rfl) (by kernel_rfl) (fun _ _ _ h => h) (Or.inl ⟨by rfl, ?_⟩) (by assumption) ?_; rotate_left
        · (intro w hSw; (try dsimp only at hSw); go_simp; try with_reducible rfl)
        try simp only [List.getElem_toArray, List.getElem_cons_zero, List.getElem_cons_succ, Act.put, List.setIfInBounds_toArray, List.set_cons_zero, List.set_cons_succ]
        refine wpAnyH_ready (rs := [10]) (by kernel_rfl) (by simp) ?_
        refine AllReadyH.cons rfl (fun K hK => ?_) AllReadyH.nil
        go_simp
        refine (k1.out _).mono ?_; rintro e w' ⟨rfl, hw⟩; subst w'; try dsimp only
        refine hK.out _ _ trivial (fun hHeld => ?_)
        clear hK K
        try simp only [List.getElem_toArray, List.getElem_cons_zero, List.getElem_cons_succ, Act.put, List.setIfInBounds_toArray, List.set_cons_zero, List.set_cons_succ]
        refine wpAnyH_take (i := 11) (v := ?_) rfl (by kernel_rfl) (by kernel_rfl) (by kernel_rfl) (fun _ _ _ h => h) (Or.inl ⟨by rfl, ?_⟩) (by assumption) ?_; rotate_left
        · (intro w hSw; (try dsimp only at hSw); go_simp; try with_reducible rfl)
        try simp only [List.getElem_toArray, List.getElem_cons_zero, List.getElem_cons_succ, Act.put, List.setIfInBounds_toArray, List.set_cons_zero, List.set_cons_succ]
        refine wpAnyH_take (i := 12) (v := ?_) rfl (by kernel_rfl) (by kernel_rfl) (by kernel_rfl) (fun _ _ _ h => h) (Or.inl ⟨by rfl, ?_⟩) (by assumption) ?_; rotate_left
        · (intro w hSw; (try dsimp only at hSw); go_simp; try with_reducible rfl)
        try simp only [List.getElem_toArray, List.getElem_cons_zero, List.getElem_cons_succ, Act.put, List.setIfInBounds_toArray, List.set_cons_zero, List.set_cons_succ]
        refine wpAnyH_ready (rs := [17]) (by kernel_rfl) (by simp) ?_
        refine AllReadyH.cons rfl (fun K hK => ?_) AllReadyH.nil
        go_simp
        refine (k2.out _).mono ?_; rintro e w' ⟨rfl, hw⟩; subst w'; try dsimp only
        refine hK.out _ _ trivial (fun hHeld => ?_)
        clear hK K
        try simp only [List.getElem_toArray, List.getElem_cons_zero, List.getElem_cons_succ, Act.put, List.setIfInBounds_toArray, List.set_cons_zero, List.set_cons_succ]
        refine wpAnyH_take (i := 18) (v := ?_) rfl (by kernel_rfl) (by kernel_rfl) (by kernel_rfl) (fun _ _ _ h => h) (Or.inl ⟨by rfl, ?_⟩) (by assumption) ?_; rotate_left
        · (intro w hSw; (try dsimp only at hSw); go_simp; try with_reducible rfl)
        try simp only [List.getElem_toArray, List.getElem_cons_zero, List.getElem_cons_succ, Act.put, List.setIfInBounds_toArray, List.set_cons_zero, List.set_cons_succ]
        refine wpAnyH_take (i := 19) (v := ?_) rfl (by kernel_rfl) (by kernel_rfl) (by kernel_rfl) (fun _ _ _ h => h) (Or.inl ⟨by rfl, ?_⟩) (by assumption) ?_; rotate_left
        · (intro w hSw; (try dsimp only at hSw); go_simp; try with_reducible rfl)
        try simp only [List.getElem_toArray, List.getElem_cons_zero, List.getElem_cons_succ, Act.put, List.setIfInBounds_toArray, List.set_cons_zero, List.set_cons_succ]
        refine wpAnyH_ready (rs := [24]) (by kernel_rfl) (by simp) ?_
        refine AllReadyH.cons rfl (fun K hK => ?_) AllReadyH.nil
        go_simp
        refine (k3.out _).mono ?_; rintro e w' ⟨rfl, hw⟩; subst w'; try dsimp only
        refine hK.out _ _ trivial (fun hHeld => ?_)
        clear hK K
        try simp only [List.getElem_toArray, List.getElem_cons_zero, List.getElem_cons_succ, Act.put, List.setIfInBounds_toArray, List.set_cons_zero, List.set_cons_succ]
        refine wpAnyH_take (i := 25) (v := ?_) rfl (by kernel_rfl) (by kernel_rfl) (by kernel_rfl) (fun _ _ _ h => h) (Or.inl ⟨by rfl, ?_⟩) (by assumption) ?_; rotate_left
        · (intro w hSw; (try dsimp only at hSw); go_simp; try with_reducible rfl)
        try simp only [List.getElem_toArray, List.getElem_cons_zero, List.getElem_cons_succ, Act.put, List.setIfInBounds_toArray, List.set_cons_zero, List.set_cons_succ]
        refine wpAnyH_ready (rs := [26]) (by kernel_rfl) (by simp) ?_
        refine AllReadyH.cons rfl (fun K hK => ?_) AllReadyH.nil
        go_simp
        refine hK.out _ _ trivial (fun hHeld => ?_)
        clear hK K
        try simp only [List.getElem_toArray, List.getElem_cons_zero, List.getElem_cons_succ, Act.put, List.setIfInBounds_toArray, List.set_cons_zero, List.set_cons_succ]
        refine wpAnyH_ready (rs := [27]) (by kernel_rfl) (by simp) ?_
        refine AllReadyH.cons rfl (fun K hK => ?_) AllReadyH.nil
        refine step_rune ((wr.alloc (.cells #[.int .i32 (n : Int)] 21)).drew) (by rfl) _ _ (by rfl) ro rc D (by simp [Act.eval, Act.put]) (by exact own_drew (hO.out.alloc _)) (.slice (some ⟨wr.heap.size, 0, none⟩) 1 1) (by simp [Act.eval, Act.put]) [(n : Int)] (by exact src_new wr n) (by simp; omega) (D ++ [(n : Int)]) (by rfl) ?_; intro ro' rc' w3 ho3 hg3 hat3
        refine hK.out _ _ trivial (fun hHeld => ?_)
        clear hK K
        try simp only [List.getElem_toArray, List.getElem_cons_zero, List.getElem_cons_succ, Act.put, List.setIfInBounds_toArray, List.set_cons_zero, List.set_cons_succ]
        refine wpAnyH_take (i := 28) (v := ?_) rfl (by kernel_rfl) (by kernel_rfl) (by kernel_rfl) (fun _ _ _ h => h) (Or.inl ⟨by rfl, ?_⟩) (by assumption) ?_; rotate_left
        · (intro w hSw; (try dsimp only at hSw); go_simp; try with_reducible rfl)
        try simp only [List.getElem_toArray, List.getElem_cons_zero, List.getElem_cons_succ, Act.put, List.setIfInBounds_toArray, List.set_cons_zero, List.set_cons_succ]
        refine wpAnyH_done (by kernel_rfl) ?_ _
        go_wp2
        go_roundw
        case rel =>
          refine ⟨i + 1, rc', ro', D ++ [(n : Int)], by omega, ?_, by simp, by simp [hDl0.out], Hid.mk' hD2.out, Hid.mk' ho3, Hid.mk' ?_, Hid.mk' ?_⟩
          · have := hp8.out
            congr 1
            omega
          · intro g e
            rcases hat3 with rfl | rfl
            · exact hbl.out g e
            · have e1 := Option.some.inj e
              have e2 := hG.out.size
              simp at e1
              omega
          · exact grownBy_new (grownBy_drew (grownBy_trans hG.out (World.grownBy_alloc wr _ none))) hg3 (fun g e => hbl.out g e)
        case measure => simp [intOf]; omega
      · obtain rfl : i = 94 := by omega
        have hDF : Hid (D = F) := Hid.mk' (by rw [hD.out, ← hF.out, List.take_of_length_le (by rw [rowR, List.length_map, hlen.out]; omega)])
        have hp' : (p : Int) = 376 := by omega
        have hq : ¬ (p : Int) < 376 := by omega
        clear hp hDl
        go_wp2_with fail
        go_ret
        have e1 := hDF.out
        subst e1
        exact ⟨ro, rc, rfl, hO.out, hG.out, hbl.out⟩
  · have hl := Hid.mk' (fun w => list_no hk w)
    have : F = [] := by rw [← hF.out, rowR, tab_none hk]; rfl
    subst this
    clear hF hk
    go_enter Try.func13, Try.ntmps13
    go_wp2_with (go_at_call 21; refine (hl.out _).mono ?_; rintro e w1 ⟨⟨s, rfl, hsz, hse⟩, rfl⟩)
    go_loopw [4, 5] (fun t4 t5 wx => t4 = .slice none 0 0 ∧ t5 = .int .i64 0 ∧ wx = w1) (fun _ t5 _ => 0)
    case atStart => exact ⟨rfl, rfl, rfl⟩
    case round =>
      obtain ⟨rfl, rfl, rfl⟩ := hrel
      go_wp2
      go_ret
      exact ⟨none, 0, rfl, .inl ⟨rfl, rfl, rfl⟩, grownBy_refl _ _, by intro g e; cases e⟩
end Go.Proofs.Ytmaegmbpfilmhaa.C16

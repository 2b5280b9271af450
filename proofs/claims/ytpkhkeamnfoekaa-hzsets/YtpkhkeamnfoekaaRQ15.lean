/- The program's Place of layer 15: a walk. -/
import Derived.Test.YtpkhkeamnfoekaaRP15
namespace Go.Proofs.Ytpkhkeamnfoekaa.C15
open Go.ChangeShapes Go.WideShapes Go.ChangeAt Go.RowKit Go.Proofs.Ytpkhkeamnfoekaa.Mem Go.Proofs.Ytpkhkeamnfoekaa.Ar
set_option linter.unusedVariables false
set_option linter.unusedSimpArgs false

theorem hit_far (u : Int) (p : Nat) (h : 94 * 16 ≤ p) (hp : p < 8836) : hit u p = false := by
  cases e : hit u p
  · rfl
  · obtain ⟨n, h3, _⟩ := hit_iff.1 e
    have h4 := (scP_small h3).2.2.1
    have h5 : ∀ x ∈ kinds, x ≤ 16 := by decide +kernel
    have h6 := h5 _ h4
    have h7 : 16 ≤ p / 94 := by omega
    omega
theorem hit_no {u : Int} {r : Nat} (hk : ¬ (r : Int) + 1 ∈ kinds) (p : Nat) (h1 : 94 * r ≤ p) (h2 : p < 94 * (r + 1)) : hit u p = false := by
  cases e : hit u p
  · rfl
  · obtain ⟨n, h3, _⟩ := hit_iff.1 e
    rw [show p / 94 = r by omega] at h3
    exact absurd (scP_small h3).2.2.1 hk
theorem hit_cell {u : Int} {r c n : Nat} (hk : (r : Int) + 1 ∈ kinds) (hc : c < 94) (hn : cellR ((r : Int) + 1) c = n) (h9 : ¬ u = 65533) : hit u (94 * r + c) = decide ((n : Int) = u) := by
  rw [hit_at hc]
  have hcond : (r : Int) + 1 ∈ kinds ∧ 1 ≤ (c : Int) + 1 ∧ (c : Int) + 1 ≤ 94 := ⟨hk, by omega, by omega⟩
  rw [scP, if_pos hcond, show ((c : Int) + 1 - 1).toNat = c by omega, hn]
  by_cases h : n = 65533
  · rw [if_pos h, h]
    have h8 : ¬ (65533 : Int) = u := fun e => h9 e.symm
    simp [h8]
  · rw [if_neg h]
    simp
set_option maxRecDepth 100000 in
set_option maxHeartbeats 1000000 in
theorem pPlace (u : Int) (w : World) (A B : Nat) (ok : Bool) (hP : Hid (plT u = (A, B, ok))) : Calls Try.prog 12 #[.int .i32 u] w fun e w' => e = .returned (.tuple #[.int .i64 (A : Int), .int .i64 (B : Int), .bool ok]) ∧ w.grownBy w' none := by
  by_cases h9 : u = 65533
  · have e := hP.out
    rw [plT_none (fun p _ => hit_odd (.inl h9) p)] at e
    simp only [Prod.mk.injEq] at e
    obtain ⟨rfl, rfl, rfl⟩ := e
    subst h9
    clear hP
    go_enter Try.func12, Try.ntmps12
    go_wp2
    go_ret3
    exact ⟨rfl, ⟨rfl, rfl, rfl, Nat.le_refl _, fun _ _ _ => rfl⟩⟩
  · have h9' : (u == 65533) = false := by simpa using h9
    have h90 := Hid.mk' h9
    clear h9
    go_enter Try.func12, Try.ntmps12
    go_wp2
    go_loopw [11] (fun t11 wx => ∃ (r : Nat), r ≤ 16 ∧ t11 = .int .i64 (r : Int) ∧ Hid (∀ p, p < 94 * r → hit u p = false) ∧ Hid (w.grownBy wx none)) (fun t11 _ => 16 - (intOf t11).toNat)
    case atStart => exact ⟨0, by omega, rfl, Hid.mk' (by omega), Hid.mk' (grownBy_refl _ _)⟩
    case round =>
      obtain ⟨r, hr, rfl, hb, hG0⟩ := hrel
      by_cases hlt : r < 16
      · have hlt' : (r : Int) < 16 := by omega
        obtain ⟨Z, hZ⟩ : ∃ Z, Hid (tabI ((r : Int) + 1) = Z) := ⟨_, Hid.mk' rfl⟩
        have hl : Hid (Z.length = 94) := Hid.mk' (by rw [← hZ.out]; exact tabI_len _)
        by_cases hk : (r : Int) + 1 ∈ kinds
        · have a1 := Hid.mk' (fun w => of_any ((r : Int) + 1) true (Hid.mk' (decide_eq_true hk)) w)
          rw [hZ.out] at a1
          have hcell : Hid (∀ wx B, ArrAt wx B 40 .i32 Z → ∀ j, j < 94 → wx.cell? ⟨B, j, none⟩ = some (.int .i32 (cellR ((r : Int) + 1) j : Int))) := Hid.mk' (fun wx B ha j hj => by
            have h1 := tabI_at hk hj
            have h2 := ha.cell j (by rw [hl.out]; exact hj)
            rw [h2, ← h1]
            simp only [hZ.out])
          have hk0 := Hid.mk' hk
          clear hk hZ
          go_upto_region 7 with (first
            | (go_at_call 16; refine (a1.out _).mono ?_; rintro e w1 ⟨rfl, hg1⟩)
            | (refine wpList_allocA _ rfl 40 rfl (List.replicate 94 0) (zeroA _) ?_; intro w2 ha2 hg2)
            | (refine wpList_storeA _ rfl 40 _ _ rfl 94 infoA w1.heap.size (List.replicate 94 0) Z zlen hl.out rfl rfl ha2 ?_; intro w3 ha3 hg3))
          have hG : Hid (wr.grownBy w3 none) := Hid.mk' (grownBy_new (grownBy_trans hg1 hg2) hg3 (fun k hk => by have h5 := Option.some.inj hk; have h6 := hg1.size; omega))
          have hcc := Hid.mk' (hcell.out _ _ ha3)
          have hG1 := Hid.mk' (gt hG0.out hG.out)
          clear ha2 ha3 hg1 hg2 hg3 hG hcell
          generalize w1.heap.size = Bk at *
          go_wp2
          go_loopw [22] (fun t22 wx => ∃ (c : Nat), c ≤ 94 ∧ t22 = .int .i64 (c : Int) ∧ Hid (∀ p, p < 94 * r + c → hit u p = false) ∧ wx = w3) (fun t22 _ => 94 - (intOf t22).toNat)
          case atStart => exact ⟨0, by omega, rfl, hb, rfl⟩
          case round =>
            obtain ⟨c, hc, rfl, hb2, rfl⟩ := hrel
            by_cases hlc : c < 94
            · have hlc' : (c : Int) < 94 := by omega
              have hc0 : (0 : Int) ≤ (c : Int) := by omega
              have hcl := hcc.out c hlc
              obtain ⟨n, hn1⟩ : ∃ n, cellR ((r : Int) + 1) c = n := ⟨_, rfl⟩
              have hA2 := Hid.mk' (hit_cell (u := u) hk0.out hlc hn1 h90.out)
              rw [hn1] at hcl
              clear hn1
              by_cases hnu : (n : Int) = u
              · have hn : Hid (hit u (94 * r + c) = true) := Hid.mk' (by rw [hA2.out]; simpa using hnu)
                have e := hP.out
                rw [plT_at (by omega) hlc hn.out hb2.out] at e
                simp only [Prod.mk.injEq] at e
                obtain ⟨rfl, rfl, rfl⟩ := e
                clear hA2 hP hn
                subst hnu
                go_wp2
                go_ret3
                refine ⟨?_, hG1.out⟩
                simp
              · have hn : Hid (hit u (94 * r + c) = false) := Hid.mk' (by rw [hA2.out]; simpa using hnu)
                have hnu' : ((n : Int) == u) = false := by simpa using hnu
                clear hA2
                go_wp2
                go_roundw
                case rel => exact ⟨c + 1, by omega, by go_num, Hid.mk' (fun p hp => by
                  by_cases e : p = 94 * r + c
                  · rw [e]; exact hn.out
                  · exact hb2.out p (by omega)), by first | exact rfl | trivial⟩
                all_goals (simp [intOf]; omega)
            · obtain rfl : c = 94 := by omega
              go_wp2
              go_roundw
              case rel => exact ⟨r + 1, by omega, by go_num, Hid.mk' (fun p hp => hb2.out p (by omega)), hG1⟩
              all_goals (simp [intOf]; omega)
        · have a1 := Hid.mk' (fun w => of_any ((r : Int) + 1) false (Hid.mk' (decide_eq_false hk)) w)
          rw [hZ.out] at a1
          have hno : Hid (∀ p, 94 * r ≤ p → p < 94 * (r + 1) → hit u p = false) := Hid.mk' (hit_no hk)
          clear hk hZ
          go_upto_region 7 with (first
            | (go_at_call 16; refine (a1.out _).mono ?_; rintro e w1 ⟨rfl, hg1⟩)
            | (refine wpList_allocA _ rfl 40 rfl (List.replicate 94 0) (zeroA _) ?_; intro w2 ha2 hg2)
            | (refine wpList_storeA _ rfl 40 _ _ rfl 94 infoA w1.heap.size (List.replicate 94 0) Z zlen hl.out rfl rfl ha2 ?_; intro w3 ha3 hg3))
          have hG : Hid (wr.grownBy w3 none) := Hid.mk' (grownBy_new (grownBy_trans hg1 hg2) hg3 (fun k hk => by have h5 := Option.some.inj hk; have h6 := hg1.size; omega))
          have hG1 := Hid.mk' (gt hG0.out hG.out)
          clear ha2 ha3 hg1 hg2 hg3 hG
          go_wp2
          go_roundw
          case rel => exact ⟨r + 1, by omega, by go_num, Hid.mk' (fun p hp => by
            by_cases e : p < 94 * r
            · exact hb.out p e
            · exact hno.out p (by omega) hp), hG1⟩
          all_goals (simp [intOf]; omega)
      · obtain rfl : r = 16 := by omega
        have e := hP.out
        rw [plT_none (fun p hp => by
          by_cases e : p < 94 * 16
          · exact hb.out p e
          · exact hit_far u p (by omega) hp)] at e
        simp only [Prod.mk.injEq] at e
        obtain ⟨rfl, rfl, rfl⟩ := e
        clear hP
        go_wp2_with fail
        go_ret3
        exact ⟨rfl, hG0.out⟩
end Go.Proofs.Ytpkhkeamnfoekaa.C15

/- The program's Byte of layer 11: a walk. -/
import Derived.Test.YtjmpdlkckpediaaDoorPra11
import Derived.Test.YtjmpdlkckpediaaDoorIz11
import Derived.Test.YtjmpdlkckpediaaDoorBk11
import Derived.Test.YtjmpdlkckpediaaDoorCon11
namespace Go.Proofs.YtjmpdlkckpediaaDoor.C11
open Go.ChangeShapes Go.WideShapes Go.ChangeAt Go.RowKit Go.Proofs.YtjmpdlkckpediaaDoor.Mem Go.Proofs.YtjmpdlkckpediaaDoor.Ar Go.Proofs.YtjmpdlkckpediaaDoor.El Go.Proofs.YtjmpdlkckpediaaDoor.Ru
set_option linter.unusedVariables false
set_option linter.unusedSimpArgs false

theorem find_low {k u : Int} (hk : k ∈ kinds) (h9 : ¬ u = 65533) : byI k u = (List.range 256).find? (fun b => (atR k b : Int) == u) := by rw [byI, if_pos hk, if_neg h9]
theorem find_full {k u : Int} (hk : k ∈ kinds) : byI k u = (List.range 256).find? (fun b => (atR k b : Int) == u) := by
  by_cases h9 : u = 65533
  · rw [byI, if_pos hk, if_pos h9]
    symm
    rw [List.find?_eq_none]
    intro b hb
    have := atR_full hk (List.mem_range.1 hb)
    simp
    omega
  · exact find_low hk h9
theorem byI_below {k : Int} {b : Nat} (hk : k ∈ kinds) (h : b < 128) : byI k (b : Int) = some b := by
  have h0 : ∀ c, c < 128 → scI k c = some c := fun c hc => scI_of hk (by rw [atR, if_pos hc]) (by omega)
  obtain ⟨c, h1, h2, h3⟩ := scI_back (by omega) (h0 b h)
  rw [h0 c (by omega)] at h3
  rw [h1, h3]
theorem none_low {k u : Int} (hu : u < 0 ∨ 128 ≤ u) : ∀ j, j < 128 → ((atR k j : Int) == u) = false := by
  intro j hj
  rw [atR, if_pos hj]
  simp
  omega
set_option maxRecDepth 100000 in
set_option maxHeartbeats 1000000 in
theorem pByte (k : Int) (u : Int) (hu : I32 u) (w : World) (R : Option Nat) (hR : Hid (byI k u = R)) : Calls Tryd.prog 11 #[.int .i64 k, .int .i32 u] w fun e w' => e = .returned (.tuple #[.int .u8 ((R.getD 0 : Nat) : Int), .bool R.isSome]) ∧ w.grownBy w' none := by
  obtain ⟨Z, hZ⟩ : ∃ Z, Hid (tabI k = Z) := ⟨_, Hid.mk' rfl⟩
  have hl : Hid (Z.length = 128) := Hid.mk' (by rw [← hZ.out]; exact tabI_len k)
  unfold I32 at hu
  obtain ⟨hu1, hu2⟩ := hu
  by_cases hk : k ∈ kinds
  · have a1 := Hid.mk' (fun w => of_any k true (Hid.mk' (decide_eq_true hk)) w)
    rw [hZ.out] at a1
    by_cases h0 : 0 ≤ u ∧ u < 128
    · obtain ⟨n, rfl⟩ : ∃ n : Nat, u = (n : Int) := ⟨u.toNat, by omega⟩
      obtain ⟨h1, h2⟩ := h0
      have h3 : n < 128 := by omega
      have : R = some n := by rw [← hR.out]; exact byI_below hk h3
      subst this
      clear hR hk hZ
      go_enter Tryd.func11, Tryd.ntmps11
      go_upto_region 2 with (first
        | (go_at_call 17; refine (a1.out _).mono ?_; rintro e w1 ⟨rfl, hg1⟩)
        | (refine wpList_allocA _ rfl 55 rfl (List.replicate 128 0) (zeroA _) ?_; intro w2 ha2 hg2)
        | (refine wpList_storeA _ rfl 55 _ _ rfl 128 infoA w1.heap.size (List.replicate 128 0) Z zlen hl.out rfl rfl ha2 ?_; intro w3 ha3 hg3))
      have hG : Hid (w.grownBy w3 none) := Hid.mk' (grownBy_new (grownBy_trans hg1 hg2) hg3 (fun k hk => by have h5 := Option.some.inj hk; have h6 := hg1.size; omega))
      clear ha2 ha3 hg1 hg2 hg3
      go_wp2
      go_ret2
      exact ⟨rfl, hG.out⟩
    · have hlow : u < 0 ∨ 128 ≤ u := by omega
      have hR2 : Hid ((List.range 256).find? (fun b => (atR k b : Int) == u) = R) := Hid.mk' (by rw [← hR.out, find_full hk])
      have hn0 := Hid.mk' (none_low (k := k) hlow)
      have hcell : Hid (∀ wx B, ArrAt wx B 55 .i32 Z → ∀ j, j < 128 → wx.cell? ⟨B, j, none⟩ = some (.int .i32 (atR k (128 + j) : Int))) := Hid.mk' (fun wx B ha j hj => by
        have h1 := tabI_at hk hj
        have h2 := ha.cell j (by rw [hl.out]; exact hj)
        rw [h2, ← h1]
        simp only [hZ.out])
      clear hR hk hZ h0
      have go : ∀ (T : Bool), (decide (0 ≤ u) = T) → (T = true → decide (u < 128) = false) → Calls Tryd.prog 11 #[.int .i64 k, .int .i32 u] w fun e w' => e = .returned (.tuple #[.int .u8 ((R.getD 0 : Nat) : Int), .bool R.isSome]) ∧ w.grownBy w' none := by
        intro T hT hT2
        cases T
        all_goals
          first | (have hT3 := hT2 rfl; have hT4 : ¬ u < 128 := of_decide_eq_false hT3; have hT5 : 0 ≤ u := of_decide_eq_true hT; clear hT hT2 hT3) | (have hT5 : ¬ 0 ≤ u := of_decide_eq_false hT; clear hT hT2)
          clear hlow
          go_enter Tryd.func11, Tryd.ntmps11
          go_upto_region 2 with (first
            | (go_at_call 17; refine (a1.out _).mono ?_; rintro e w1 ⟨rfl, hg1⟩)
            | (refine wpList_allocA _ rfl 55 rfl (List.replicate 128 0) (zeroA _) ?_; intro w2 ha2 hg2)
            | (refine wpList_storeA _ rfl 55 _ _ rfl 128 infoA w1.heap.size (List.replicate 128 0) Z zlen hl.out rfl rfl ha2 ?_; intro w3 ha3 hg3))
          have hG : Hid (w.grownBy w3 none) := Hid.mk' (grownBy_new (grownBy_trans hg1 hg2) hg3 (fun k hk => by have h5 := Option.some.inj hk; have h6 := hg1.size; omega))
          have ha0 := Hid.mk' ha3
          clear ha2 ha3 hg1 hg2 hg3
          generalize w1.heap.size = B at *
          go_wp2
          go_loopw [24] (fun t28 wx => ∃ (i : Nat), i ≤ 128 ∧ t28 = .int .i64 (i : Int) ∧ Hid (∀ j, j < 128 + i → ((atR k j : Int) == u) = false) ∧ wx = w3) (fun t28 _ => 128 - (intOf t28).toNat)
          case atStart => exact ⟨0, by omega, rfl, hn0, rfl⟩
          case round =>
            obtain ⟨i, hi, rfl, hb, rfl⟩ := hrel
            have hF := Hid.mk' (find_from (fun b => (atR k b : Int) == u) 256 (128 + i) (by omega) hb.out)
            by_cases hlt : i < 128
            · have hlt' : (i : Int) < 128 := by omega
              have hi0 : (0 : Int) ≤ (i : Int) := by omega
              have hc := hcell.out _ _ ha0.out i hlt
              obtain ⟨n, hn⟩ : ∃ n, Hid (atR k (128 + i) = n) := ⟨_, Hid.mk' rfl⟩
              rw [hn.out] at hc
              by_cases hnu : (n : Int) = u
              · have hRs : Hid (R = some (128 + i)) := Hid.mk' (by rw [← hR2.out, hF.out, dif_pos (by omega), hn.out, if_pos (by simpa using hnu)])
                have := hRs.out
                subst this
                subst hnu
                clear hF hb hcell
                go_wp2
                go_ret2
                refine ⟨?_, hG.out⟩
                simp
              · have hnu' : ((n : Int) == u) = false := by simpa using hnu
                clear hF hcell
                go_wp2
                go_roundw
                case rel => exact ⟨i + 1, by omega, by go_num, Hid.mk' (fun j hj => by
                  by_cases e : j = 128 + i
                  · subst e; rw [hn.out]; exact hnu'
                  · exact hb.out j (by omega)), by first | exact rfl | trivial⟩
                case measure => simp [intOf]; omega
            · obtain rfl : i = 128 := by omega
              have hRs : Hid (R = none) := Hid.mk' (by rw [← hR2.out, hF.out]; rfl)
              have := hRs.out
              subst this
              clear hF hb hcell
              go_wp2_with fail
              go_ret2
              exact ⟨rfl, hG.out⟩
      exact go _ rfl (fun h => by simp at h ⊢; omega)
  · have a1 := Hid.mk' (fun w => of_any k false (Hid.mk' (decide_eq_false hk)) w)
    rw [hZ.out] at a1
    have : R = none := by rw [← hR.out, byI, if_neg hk]
    subst this
    clear hR hk hZ
    go_enter Tryd.func11, Tryd.ntmps11
    go_upto_region 2 with (first
      | (go_at_call 17; refine (a1.out _).mono ?_; rintro e w1 ⟨rfl, hg1⟩)
      | (refine wpList_allocA _ rfl 55 rfl (List.replicate 128 0) (zeroA _) ?_; intro w2 ha2 hg2)
      | (refine wpList_storeA _ rfl 55 _ _ rfl 128 infoA w1.heap.size (List.replicate 128 0) Z zlen hl.out rfl rfl ha2 ?_; intro w3 ha3 hg3))
    have hG : Hid (w.grownBy w3 none) := Hid.mk' (grownBy_new (grownBy_trans hg1 hg2) hg3 (fun k hk => by have h5 := Option.some.inj hk; have h6 := hg1.size; omega))
    clear ha2 ha3 hg1 hg2 hg3
    go_wp2
    go_ret2
    exact ⟨rfl, hG.out⟩
end Go.Proofs.YtjmpdlkckpediaaDoor.C11

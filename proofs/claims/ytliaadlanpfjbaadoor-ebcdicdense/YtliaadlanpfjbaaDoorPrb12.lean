/- The program's Byte of layer 12: a walk. -/
import Derived.Test.YtliaadlanpfjbaaDoorPra12
import Derived.Test.YtliaadlanpfjbaaDoorIz12
import Derived.Test.YtliaadlanpfjbaaDoorBk12
import Derived.Test.YtliaadlanpfjbaaDoorCon12
namespace Go.Proofs.YtliaadlanpfjbaaDoor.C12
open Go.ChangeShapes Go.WideShapes Go.ChangeAt Go.RowKit Go.Proofs.YtliaadlanpfjbaaDoor.Mem Go.Proofs.YtliaadlanpfjbaaDoor.Ar Go.Proofs.YtliaadlanpfjbaaDoor.El Go.Proofs.YtliaadlanpfjbaaDoor.Ru
set_option linter.unusedVariables false
set_option linter.unusedSimpArgs false

theorem find_full {k u : Int} (hk : k ∈ kinds) : byI k u = (List.range 256).find? (fun b => (atR k b : Int) == u) := by
  by_cases h9 : u = 65533
  · rw [byI, if_pos hk, if_pos h9]
    symm
    rw [List.find?_eq_none]
    intro b hb
    have := atR_full hk (List.mem_range.1 hb)
    simp
    omega
  · rw [byI, if_pos hk, if_neg h9]
set_option maxRecDepth 100000 in
set_option maxHeartbeats 1000000 in
theorem pByte (k : Int) (u : Int) (hu : I32 u) (w : World) (R : Option Nat) (hR : Hid (byI k u = R)) : Calls Tryd.prog 11 #[.int .i64 k, .int .i32 u] w fun e w' => e = .returned (.tuple #[.int .u8 ((R.getD 0 : Nat) : Int), .bool R.isSome]) ∧ w.grownBy w' none := by
  obtain ⟨Z, hZ⟩ : ∃ Z, Hid (tabI k = Z) := ⟨_, Hid.mk' rfl⟩
  have hl : Hid (Z.length = 256) := Hid.mk' (by rw [← hZ.out]; exact tabI_len k)
  unfold I32 at hu
  obtain ⟨hu1, hu2⟩ := hu
  by_cases hk : k ∈ kinds
  · have a1 := Hid.mk' (fun w => of_any k true (Hid.mk' (decide_eq_true hk)) w)
    rw [hZ.out] at a1
    have hR2 : Hid ((List.range 256).find? (fun b => (atR k b : Int) == u) = R) := Hid.mk' (by rw [← hR.out, find_full hk])
    have hcell : Hid (∀ wx B, ArrAt wx B 55 .i32 Z → ∀ j, j < 256 → wx.cell? ⟨B, j, none⟩ = some (.int .i32 (atR k j : Int))) := Hid.mk' (fun wx B ha j hj => by
      have h1 := tabI_at hk hj
      have h2 := ha.cell j (by rw [hl.out]; exact hj)
      rw [h2, ← h1]
      simp only [hZ.out])
    clear hR hk hZ
    go_enter Tryd.func11, Tryd.ntmps11
    go_upto_region 2 with (first
      | (go_at_call 17; refine (a1.out _).mono ?_; rintro e w1 ⟨rfl, hg1⟩)
      | (refine wpList_allocA _ rfl 55 rfl (List.replicate 256 0) (zeroA _) ?_; intro w2 ha2 hg2)
      | (refine wpList_storeA _ rfl 55 _ _ rfl 256 infoA w1.heap.size (List.replicate 256 0) Z zlen hl.out rfl rfl ha2 ?_; intro w3 ha3 hg3))
    have hG : Hid (w.grownBy w3 none) := Hid.mk' (grownBy_new (grownBy_trans hg1 hg2) hg3 (fun k hk => by have h5 := Option.some.inj hk; have h6 := hg1.size; omega))
    have ha0 := Hid.mk' ha3
    clear ha2 ha3 hg1 hg2 hg3
    generalize w1.heap.size = B at *
    go_wp2
    go_loopw [16] (fun t28 wx => ∃ (i : Nat), i ≤ 256 ∧ t28 = .int .i64 (i : Int) ∧ Hid (∀ j, j < i → ((atR k j : Int) == u) = false) ∧ wx = w3) (fun t28 _ => 256 - (intOf t28).toNat)
    case atStart => exact ⟨0, by omega, rfl, Hid.mk' (fun j hj => by omega), rfl⟩
    case round =>
      obtain ⟨i, hi, rfl, hb, rfl⟩ := hrel
      have hF := Hid.mk' (find_from (fun b => (atR k b : Int) == u) 256 i (by omega) hb.out)
      by_cases hlt : i < 256
      · have hlt' : (i : Int) < 256 := by omega
        have hi0 : (0 : Int) ≤ (i : Int) := by omega
        have hc := hcell.out _ _ ha0.out i hlt
        obtain ⟨n, hn⟩ : ∃ n, Hid (atR k i = n) := ⟨_, Hid.mk' rfl⟩
        rw [hn.out] at hc
        by_cases hnu : (n : Int) = u
        · have hRs : Hid (R = some i) := Hid.mk' (by rw [← hR2.out, hF.out, dif_pos (by omega), hn.out, if_pos (by simpa using hnu)])
          have := hRs.out
          subst this
          subst hnu
          clear hF hb hcell
          go_wp2
          go_ret2
          refine ⟨?_, hG.out⟩
          simp
        · have hnu' : ((n : Int) == u) = false := by simpa using hnu
          clear hF hcell
          go_wp2
          go_roundw
          case rel => exact ⟨i + 1, by omega, by go_num, Hid.mk' (fun j hj => by
            by_cases e : j = i
            · subst e; rw [hn.out]; exact hnu'
            · exact hb.out j (by omega)), by first | exact rfl | trivial⟩
          case measure => simp [intOf]; omega
      · obtain rfl : i = 256 := by omega
        have hRs : Hid (R = none) := Hid.mk' (by rw [← hR2.out, hF.out]; rfl)
        have := hRs.out
        subst this
        clear hF hb hcell
        go_wp2_with fail
        go_ret2
        exact ⟨rfl, hG.out⟩
  · have a1 := Hid.mk' (fun w => of_any k false (Hid.mk' (decide_eq_false hk)) w)
    rw [hZ.out] at a1
    have : R = none := by rw [← hR.out, byI, if_neg hk]
    subst this
    clear hR hk hZ
    go_enter Tryd.func11, Tryd.ntmps11
    go_upto_region 2 with (first
      | (go_at_call 17; refine (a1.out _).mono ?_; rintro e w1 ⟨rfl, hg1⟩)
      | (refine wpList_allocA _ rfl 55 rfl (List.replicate 256 0) (zeroA _) ?_; intro w2 ha2 hg2)
      | (refine wpList_storeA _ rfl 55 _ _ rfl 256 infoA w1.heap.size (List.replicate 256 0) Z zlen hl.out rfl rfl ha2 ?_; intro w3 ha3 hg3))
    have hG : Hid (w.grownBy w3 none) := Hid.mk' (grownBy_new (grownBy_trans hg1 hg2) hg3 (fun k hk => by have h5 := Option.some.inj hk; have h6 := hg1.size; omega))
    clear ha2 ha3 hg1 hg2 hg3
    go_wp2
    go_ret2
    exact ⟨rfl, hG.out⟩
end Go.Proofs.YtliaadlanpfjbaaDoor.C12

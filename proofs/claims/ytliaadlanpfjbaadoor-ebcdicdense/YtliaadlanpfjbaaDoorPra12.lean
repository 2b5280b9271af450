/- The program's Has and Scalar of layer 12: walks. -/
import Derived.Test.YtliaadlanpfjbaaDoorIz12
import Derived.Test.YtliaadlanpfjbaaDoorBk12
import Derived.Test.YtliaadlanpfjbaaDoorCon12
namespace Go.Proofs.YtliaadlanpfjbaaDoor.C12
open Go.ChangeShapes Go.WideShapes Go.ChangeAt Go.RowKit Go.Proofs.YtliaadlanpfjbaaDoor.Mem Go.Proofs.YtliaadlanpfjbaaDoor.Ar Go.Proofs.YtliaadlanpfjbaaDoor.El Go.Proofs.YtliaadlanpfjbaaDoor.Ru
set_option linter.unusedVariables false
set_option linter.unusedSimpArgs false

theorem tabI_at {k : Int} (hk : k ∈ kinds) {j : Nat} (hj : j < 256) : (tabI k)[j]'(by rw [tabI_len]; exact hj) = (atR k j : Int) := by
  have hjl : j < (tab k).length := by rw [tab_len hk]; exact hj
  have e : (tabI k)[j]? = some (atR k j : Int) := by
    unfold tabI
    rw [if_pos hk, List.getElem?_map, List.getElem?_eq_getElem hjl]
    unfold atR
    rw [List.getD_eq_getElem?_getD, List.getElem?_eq_getElem hjl]
    rfl
  exact (List.getElem?_eq_some_iff.1 e).2
theorem tab_full {k : Int} (hk : k ∈ kinds) : ∀ x ∈ tab k, x ≠ 65533 := by
  have : ∀ k ∈ kinds, ∀ x ∈ tab k, x ≠ 65533 := by decide +kernel
  exact this k hk
theorem atR_full {k : Int} (hk : k ∈ kinds) {b : Nat} (hb : b < 256) : atR k b ≠ 65533 := by
  have hl : b < (tab k).length := by rw [tab_len hk]; omega
  rw [atR, List.getD_eq_getElem?_getD, List.getElem?_eq_getElem hl]
  exact tab_full hk _ (List.getElem_mem hl)
set_option maxRecDepth 100000 in
set_option maxHeartbeats 1000000 in
theorem pHas (k : Int) (H : Bool) (hH : Hid (decide (k ∈ kinds) = H)) (w : World) : Calls Tryd.prog 13 #[.int .i64 k] w fun e w' => e = .returned (.bool H) ∧ w.grownBy w' none := by
  obtain ⟨Z, hZ⟩ : ∃ Z, Hid (tabI k = Z) := ⟨_, Hid.mk' rfl⟩
  have hl : Hid (Z.length = 256) := Hid.mk' (by rw [← hZ.out]; exact tabI_len k)
  have a1 := Hid.mk' (fun w => of_any k H hH w)
  rw [hZ.out] at a1
  clear hH
  go_enter Tryd.func13, Tryd.ntmps13
  go_upto_region 2 with (first
    | (go_at_call 17; refine (a1.out _).mono ?_; rintro e w1 ⟨rfl, hg1⟩)
    | (refine wpList_allocA _ rfl 55 rfl (List.replicate 256 0) (zeroA _) ?_; intro w2 ha2 hg2)
    | (refine wpList_storeA _ rfl 55 _ _ rfl 256 infoA w1.heap.size (List.replicate 256 0) Z zlen hl.out rfl rfl ha2 ?_; intro w3 ha3 hg3))
  have hG : Hid (w.grownBy w3 none) := Hid.mk' (grownBy_new (grownBy_trans hg1 hg2) hg3 (fun k hk => by have h5 := Option.some.inj hk; have h6 := hg1.size; omega))
  clear ha2 ha3 hg1 hg2 hg3
  go_wp2
  go_ret
  exact ⟨rfl, hG.out⟩
set_option maxRecDepth 100000 in
set_option maxHeartbeats 1000000 in
theorem pScalar (k : Int) (b : Nat) (hb : b < 256) (w : World) (R : Option Nat) (hR : Hid (scI k b = R)) : Calls Tryd.prog 9 #[.int .i64 k, .int .u8 (b : Int)] w fun e w' => e = .returned (.tuple #[.int .i32 ((R.getD 0 : Nat) : Int), .bool R.isSome]) ∧ w.grownBy w' none := by
  obtain ⟨Z, hZ⟩ : ∃ Z, Hid (tabI k = Z) := ⟨_, Hid.mk' rfl⟩
  have hl : Hid (Z.length = 256) := Hid.mk' (by rw [← hZ.out]; exact tabI_len k)
  have hb' : (b : Int) < 256 := by omega
  have hb0 : (0 : Int) ≤ (b : Int) := by omega
  by_cases hk : k ∈ kinds
  · have a1 := Hid.mk' (fun w => of_any k true (Hid.mk' (decide_eq_true hk)) w)
    rw [hZ.out] at a1
    obtain ⟨n, hn⟩ : ∃ n, atR k b = n := ⟨_, rfl⟩
    have hcell : Hid (∀ wx B, ArrAt wx B 55 .i32 Z → wx.cell? ⟨B, b, none⟩ = some (.int .i32 (n : Int))) := Hid.mk' (fun wx B ha => by
      have h1 := tabI_at hk hb
      rw [hn] at h1
      have h2 := ha.cell b (by rw [hl.out]; exact hb)
      rw [h2, ← h1]
      simp only [hZ.out])
    have : R = some n := by rw [← hR.out]; exact scI_of hk hn (by rw [← hn]; exact atR_full hk hb)
    subst this
    clear hR hk hZ hn
    go_enter Tryd.func9, Tryd.ntmps9
    go_upto_region 2 with (first
      | (go_at_call 17; refine (a1.out _).mono ?_; rintro e w1 ⟨rfl, hg1⟩)
      | (refine wpList_allocA _ rfl 55 rfl (List.replicate 256 0) (zeroA _) ?_; intro w2 ha2 hg2)
      | (refine wpList_storeA _ rfl 55 _ _ rfl 256 infoA w1.heap.size (List.replicate 256 0) Z zlen hl.out rfl rfl ha2 ?_; intro w3 ha3 hg3))
    have hG : Hid (w.grownBy w3 none) := Hid.mk' (grownBy_new (grownBy_trans hg1 hg2) hg3 (fun k hk => by have h5 := Option.some.inj hk; have h6 := hg1.size; omega))
    have hc := hcell.out _ _ ha3
    clear ha2 ha3 hg1 hg2 hg3 hcell
    go_wp2
    go_ret2
    exact ⟨rfl, hG.out⟩
  · have a1 := Hid.mk' (fun w => of_any k false (Hid.mk' (decide_eq_false hk)) w)
    rw [hZ.out] at a1
    have : R = none := by rw [← hR.out, scI, if_neg hk]
    subst this
    clear hR hk hZ
    go_enter Tryd.func9, Tryd.ntmps9
    go_upto_region 2 with (first
      | (go_at_call 17; refine (a1.out _).mono ?_; rintro e w1 ⟨rfl, hg1⟩)
      | (refine wpList_allocA _ rfl 55 rfl (List.replicate 256 0) (zeroA _) ?_; intro w2 ha2 hg2)
      | (refine wpList_storeA _ rfl 55 _ _ rfl 256 infoA w1.heap.size (List.replicate 256 0) Z zlen hl.out rfl rfl ha2 ?_; intro w3 ha3 hg3))
    have hG : Hid (w.grownBy w3 none) := Hid.mk' (grownBy_new (grownBy_trans hg1 hg2) hg3 (fun k hk => by have h5 := Option.some.inj hk; have h6 := hg1.size; omega))
    clear ha2 ha3 hg1 hg2 hg3
    go_wp2
    go_ret2
    exact ⟨rfl, hG.out⟩
end Go.Proofs.YtliaadlanpfjbaaDoor.C12

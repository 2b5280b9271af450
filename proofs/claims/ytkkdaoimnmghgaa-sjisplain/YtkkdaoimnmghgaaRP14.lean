/- The program's Scalar and Row of layer 14: walks. -/
import Derived.Test.YtkkdaoimnmghgaaRZ14
import Derived.Test.YtkkdaoimnmghgaaRD14
namespace Go.Proofs.Ytkkdaoimnmghgaa.C14
open Go.ChangeShapes Go.WideShapes Go.ChangeAt Go.RowKit Go.Proofs.Ytkkdaoimnmghgaa.Mem Go.Proofs.Ytkkdaoimnmghgaa.Ar
set_option linter.unusedVariables false
set_option linter.unusedSimpArgs false

theorem tabI_at {k : Int} (hk : k ∈ kinds) {j : Nat} (hj : j < 94) : (tabI k)[j]'(by rw [tabI_len]; exact hj) = (cellR k j : Int) := by
  have hjl : j < (tab k).length := by rw [tab_len hk]; exact hj
  have e : (tabI k)[j]? = some (cellR k j : Int) := by
    unfold tabI
    rw [if_pos hk, List.getElem?_map, List.getElem?_eq_getElem hjl]
    unfold cellR
    rw [List.getD_eq_getElem?_getD, List.getElem?_eq_getElem hjl]
    rfl
  exact (List.getElem?_eq_some_iff.1 e).2
set_option maxRecDepth 100000 in
set_option maxHeartbeats 1000000 in
theorem pScalar (k : Int) (c : Int) (hc : I64 c) (w : World) (R : Option Nat) (hR : Hid (scP k c = R)) : Calls Try.prog 32 #[.int .i64 k, .int .i64 c] w fun e w' => e = .returned (.tuple #[.int .i32 ((R.getD 0 : Nat) : Int), .bool R.isSome]) ∧ w.grownBy w' none := by
  obtain ⟨Z, hZ⟩ : ∃ Z, Hid (tabI k = Z) := ⟨_, Hid.mk' rfl⟩
  have hl : Hid (Z.length = 94) := Hid.mk' (by rw [← hZ.out]; exact tabI_len k)
  unfold I64 at hc
  obtain ⟨hc1, hc2⟩ := hc
  by_cases hk : k ∈ kinds
  · have a1 := Hid.mk' (fun w => of_any k true (Hid.mk' (decide_eq_true hk)) w)
    rw [hZ.out] at a1
    by_cases h1 : c < 1
    · have : R = none := by rw [← hR.out, scP, if_neg (by omega)]
      subst this
      clear hR hk hZ
      go_enter Try.func32, Try.ntmps32
      go_upto_region 2 with (first
        | (go_at_call 35; refine (a1.out _).mono ?_; rintro e w1 ⟨rfl, hg1⟩)
        | (refine wpList_allocA _ rfl 61 rfl (List.replicate 94 0) (zeroA _) ?_; intro w2 ha2 hg2)
        | (refine wpList_storeA _ rfl 61 _ _ rfl 94 infoA w1.heap.size (List.replicate 94 0) Z zlen hl.out rfl rfl ha2 ?_; intro w3 ha3 hg3))
      have hG : Hid (w.grownBy w3 none) := Hid.mk' (grownBy_new (grownBy_trans hg1 hg2) hg3 (fun k hk => by have h5 := Option.some.inj hk; have h6 := hg1.size; omega))
      clear ha2 ha3 hg1 hg2 hg3
      go_wp2
      go_ret2
      exact ⟨rfl, hG.out⟩
    · have h1' : decide (c < 1) = false := decide_eq_false h1
      by_cases h2 : 94 < c
      · have : R = none := by rw [← hR.out, scP, if_neg (by omega)]
        subst this
        clear hR hk hZ
        go_enter Try.func32, Try.ntmps32
        go_upto_region 2 with (first
          | (go_at_call 35; refine (a1.out _).mono ?_; rintro e w1 ⟨rfl, hg1⟩)
          | (refine wpList_allocA _ rfl 61 rfl (List.replicate 94 0) (zeroA _) ?_; intro w2 ha2 hg2)
          | (refine wpList_storeA _ rfl 61 _ _ rfl 94 infoA w1.heap.size (List.replicate 94 0) Z zlen hl.out rfl rfl ha2 ?_; intro w3 ha3 hg3))
        have hG : Hid (w.grownBy w3 none) := Hid.mk' (grownBy_new (grownBy_trans hg1 hg2) hg3 (fun k hk => by have h5 := Option.some.inj hk; have h6 := hg1.size; omega))
        clear ha2 ha3 hg1 hg2 hg3
        go_wp2
        go_ret2
        exact ⟨rfl, hG.out⟩
      · have h2' : decide (94 < c) = false := decide_eq_false h2
        obtain ⟨j, hj⟩ : ∃ j : Nat, c = (j : Int) + 1 := ⟨(c - 1).toNat, by omega⟩
        have hjN : j < 94 := by omega
        have e1 : c - 1 = (j : Int) := by omega
        obtain ⟨n, hn⟩ : ∃ n, cellR k j = n := ⟨_, rfl⟩
        have hcell : Hid (∀ wx B, ArrAt wx B 61 .i32 Z → wx.cell? ⟨B, j, none⟩ = some (.int .i32 (n : Int))) := Hid.mk' (fun wx B ha => by
          have h1 := tabI_at hk hjN
          rw [hn] at h1
          have h2 := ha.cell j (by rw [hl.out]; exact hjN)
          rw [h2, ← h1]
          simp only [hZ.out])
        have hR2 : Hid ((if n = 65533 then none else some n) = R) := Hid.mk' (by
          have hcond : k ∈ kinds ∧ 1 ≤ c ∧ c ≤ 94 := ⟨hk, by omega, by omega⟩
          rw [← hR.out, scP, if_pos hcond, e1, Int.toNat_natCast, hn])
        have hj0 : (0 : Int) ≤ (j : Int) := by omega
        have hjI : (j : Int) < 94 := by omega
        have hwr : IntKind.i64.wrap (j : Int) = (j : Int) := by rw [IntKind.wrap_i64]; omega
        clear hR hk hZ hj hn
        by_cases h9 : n = 65533
        · have : R = none := by rw [← hR2.out, if_pos h9]
          subst this
          subst h9
          go_enter Try.func32, Try.ntmps32
          go_upto_region 2 with (first
            | (go_at_call 35; refine (a1.out _).mono ?_; rintro e w1 ⟨rfl, hg1⟩)
            | (refine wpList_allocA _ rfl 61 rfl (List.replicate 94 0) (zeroA _) ?_; intro w2 ha2 hg2)
            | (refine wpList_storeA _ rfl 61 _ _ rfl 94 infoA w1.heap.size (List.replicate 94 0) Z zlen hl.out rfl rfl ha2 ?_; intro w3 ha3 hg3))
          have hG : Hid (w.grownBy w3 none) := Hid.mk' (grownBy_new (grownBy_trans hg1 hg2) hg3 (fun k hk => by have h5 := Option.some.inj hk; have h6 := hg1.size; omega))
          have hc := hcell.out _ _ ha3
          clear ha2 ha3 hg1 hg2 hg3 hcell
          go_wp2
          go_ret2
          exact ⟨rfl, hG.out⟩
        · have : R = some n := by rw [← hR2.out, if_neg h9]
          subst this
          have h9' : ((n : Int) == 65533) = false := by simp; omega
          have h9'' : ¬ (n : Int) = 65533 := by omega
          go_enter Try.func32, Try.ntmps32
          go_upto_region 2 with (first
            | (go_at_call 35; refine (a1.out _).mono ?_; rintro e w1 ⟨rfl, hg1⟩)
            | (refine wpList_allocA _ rfl 61 rfl (List.replicate 94 0) (zeroA _) ?_; intro w2 ha2 hg2)
            | (refine wpList_storeA _ rfl 61 _ _ rfl 94 infoA w1.heap.size (List.replicate 94 0) Z zlen hl.out rfl rfl ha2 ?_; intro w3 ha3 hg3))
          have hG : Hid (w.grownBy w3 none) := Hid.mk' (grownBy_new (grownBy_trans hg1 hg2) hg3 (fun k hk => by have h5 := Option.some.inj hk; have h6 := hg1.size; omega))
          have hc := hcell.out _ _ ha3
          clear ha2 ha3 hg1 hg2 hg3 hcell
          go_wp2
          go_ret2
          exact ⟨rfl, hG.out⟩
  · have a1 := Hid.mk' (fun w => of_any k false (Hid.mk' (decide_eq_false hk)) w)
    rw [hZ.out] at a1
    have : R = none := by rw [← hR.out, scP, if_neg (fun h => hk h.1)]
    subst this
    clear hR hk hZ
    go_enter Try.func32, Try.ntmps32
    go_upto_region 2 with (first
      | (go_at_call 35; refine (a1.out _).mono ?_; rintro e w1 ⟨rfl, hg1⟩)
      | (refine wpList_allocA _ rfl 61 rfl (List.replicate 94 0) (zeroA _) ?_; intro w2 ha2 hg2)
      | (refine wpList_storeA _ rfl 61 _ _ rfl 94 infoA w1.heap.size (List.replicate 94 0) Z zlen hl.out rfl rfl ha2 ?_; intro w3 ha3 hg3))
    have hG : Hid (w.grownBy w3 none) := Hid.mk' (grownBy_new (grownBy_trans hg1 hg2) hg3 (fun k hk => by have h5 := Option.some.inj hk; have h6 := hg1.size; omega))
    clear ha2 ha3 hg1 hg2 hg3
    go_wp2
    go_ret2
    exact ⟨rfl, hG.out⟩
end Go.Proofs.Ytkkdaoimnmghgaa.C14

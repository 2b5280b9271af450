/- The program's scalarOf, byteOf, Fits, Drain, withScalar of layer 13: walks. -/
import Derived.Test.YtfehmbicolllkaaVO13
import Derived.Test.YtfehmbicolllkaaCb
namespace Go.Proofs.Ytfehmbicolllkaa.C13
open Go.ChangeShapes Go.WideShapes Go.ChangeAt Go.RowKit Go.Maps Go.Proofs.Ytfehmbicolllkaa.Mem Go.Proofs.Ytfehmbicolllkaa.Ar Go.Proofs.Ytfehmbicolllkaa.Cb
set_option linter.unusedVariables false
set_option linter.unusedSimpArgs false

set_option maxRecDepth 100000 in
set_option maxHeartbeats 1000000 in
theorem of_some (b : Nat) (hb : b < 256) (w : World) (n : Nat) (hn : Hid (vsR b = n)) (h9 : Hid (¬ n = 65533)) : Calls Try.prog 29 #[.int .u8 (b : Int)] w fun e w' => e = .returned (.tuple #[.int .i32 (n : Int), .bool true]) ∧ w.grownBy w' none := by
  by_cases h : b < 128
  · have h' : (b : Int) < 128 := by omega
    have : b = n := by rw [← hn.out, vsR, if_pos h]
    subst this
    clear hn h9
    go_enter Try.func29, Try.ntmps29
    go_wp2
    go_ret2
    exact ⟨rfl, ⟨rfl, rfl, rfl, Nat.le_refl _, fun _ _ _ => rfl⟩⟩
  · have h' : ¬ (b : Int) < 128 := by omega
    obtain ⟨j, hj⟩ : ∃ j, b - 128 = j := ⟨_, rfl⟩
    have hj2 : j < 128 := by omega
    have e1 : (b : Int) - 128 = (j : Int) := by omega
    have e2 : (j : Int) < 128 := by omega
    have e3 : (0 : Int) ≤ (j : Int) := by omega
    have hx := idx_tl hj2
    have hnn : tl.getD j 0 = n := by rw [← hn.out, vsR, if_neg h, hj]
    rw [hnn] at hx
    have h9' : ((n : Int) == 65533) = false := by have := h9.out; simp; omega
    have a1 := Hid.mk' (fun w => scalars_any w)
    have hb' : (b : Int) < 256 := by omega
    generalize arrV .i32 (toI tl) = V at *
    clear hn h9 hnn hj
    go_enter Try.func29, Try.ntmps29
    go_wp2_with (go_at_call 37; refine (a1.out _).mono ?_; rintro e w1 ⟨rfl, hg1⟩)
    go_ret2
    exact ⟨rfl, hg1⟩
set_option maxRecDepth 100000 in
set_option maxHeartbeats 1000000 in
theorem of_none (b : Nat) (hb : b < 256) (w : World) (hn : Hid (vsR b = 65533)) : Calls Try.prog 29 #[.int .u8 (b : Int)] w fun e w' => e = .returned (.tuple #[.int .i32 0, .bool false]) ∧ w.grownBy w' none := by
  have h : ¬ b < 128 := fun h => by
    have := hn.out
    rw [vsR, if_pos h] at this
    omega
  have h' : ¬ (b : Int) < 128 := by omega
  obtain ⟨j, hj⟩ : ∃ j, b - 128 = j := ⟨_, rfl⟩
  have hj2 : j < 128 := by omega
  have e1 : (b : Int) - 128 = (j : Int) := by omega
  have e2 : (j : Int) < 128 := by omega
  have e3 : (0 : Int) ≤ (j : Int) := by omega
  have hx := idx_tl hj2
  have hnn : tl.getD j 0 = 65533 := by rw [← hn.out, vsR, if_neg h, hj]
  rw [hnn] at hx
  have a1 := Hid.mk' (fun w => scalars_any w)
  have hb' : (b : Int) < 256 := by omega
  generalize arrV .i32 (toI tl) = V at *
  clear hn hnn hj
  go_enter Try.func29, Try.ntmps29
  go_wp2_with (go_at_call 37; refine (a1.out _).mono ?_; rintro e w1 ⟨rfl, hg1⟩)
  go_ret2
  exact ⟨rfl, hg1⟩
set_option maxRecDepth 100000 in
set_option maxHeartbeats 1000000 in
theorem byte_some (u : Int) (hu : I32 u) (w : World) (b : Nat) (hR : Hid (onR u = some b)) : Calls Try.prog 33 #[.int .i32 u] w fun e w' => e = .returned (.tuple #[.int .u8 (b : Int), .bool true]) ∧ w.grownBy w' none := by
  unfold I32 at hu
  obtain ⟨hu1, hu2⟩ := hu
  have h9 : ¬ u = 65533 := fun e => by
    have := hR.out
    rw [onR, if_pos e] at this
    cases this
  have h9' : (u == 65533) = false := by simpa using h9
  by_cases h : 0 ≤ u ∧ u < 128
  · obtain ⟨h0, h1⟩ := h
    have : u = (b : Int) := by
      have := onR_low h0 h1
      rw [hR.out] at this
      have := Option.some.inj this
      omega
    subst this
    clear hR h9
    go_enter Try.func33, Try.ntmps33
    go_wp2
    go_ret2
    exact ⟨rfl, ⟨rfl, rfl, rfl, Nat.le_refl _, fun _ _ _ => rfl⟩⟩
  · have hx := onR_high h9 h
    rw [hR.out] at hx
    cases hI : ixR (toI tl) u with
    | none => rw [hI] at hx; cases hx
    | some i =>
      rw [hI] at hx
      have hbi : b = 128 + i := Option.some.inj hx
      have hi : i < 128 := by
        obtain ⟨hi, _⟩ := ixR_some hI
        rwa [tlI_len] at hi
      have hi1 : (i : Int) < 128 := by omega
      have hi0 : (0 : Int) ≤ (i : Int) := by omega
      have e1 : (128 : Int) + (i : Int) = (b : Int) := by omega
      have hb1 : (b : Int) < 256 := by omega
      have hb0 : (0 : Int) ≤ (b : Int) := by omega
      have hl0 := Hid.mk' tlI_len
      have a1 := Hid.mk' (fun w => scalars_any w)
      have hI0 := Hid.mk' hI
      generalize toI tl = Z at *
      clear hR h9 hx hI hbi
      by_cases h0 : 0 ≤ u
      · have h1 : ¬ u < 128 := fun e => h ⟨h0, e⟩
        clear h
        go_enter Try.func33, Try.ntmps33
        go_upto_region 6 with (first
          | (go_at_call 37; refine (a1.out _).mono ?_; rintro e w1 ⟨rfl, hg1⟩)
          | (refine wpList_allocA _ rfl 67 rfl (zs 128) (zeroL _) ?_; intro w2 ha2 hg2)
          | (refine wpList_storeA _ rfl 67 _ _ rfl 128 infoL w1.heap.size (zs 128) Z (zs_len 128) hl0.out rfl rfl ha2 ?_; intro w3 ha3 hg3))
        have hG : Hid (w.grownBy w3 none) := Hid.mk' (grownBy_new (grownBy_trans hg1 hg2) hg3 (fun k hk => by have h5 := Option.some.inj hk; have h6 := hg1.size; omega))
        have a2 := Hid.mk' (index_some w1.heap.size 0 128 128 Z hl0.out u w3 (ArrAt.runes ha3) (by omega) (by omega) i hI0.out)
        clear ha2 ha3 hg1 hg2 hg3
        generalize w1.heap.size = B at *
        go_wp2_with (go_at_call 27; refine a2.out.mono ?_; rintro e w4 ⟨rfl, rfl⟩)
        go_ret2
        exact ⟨rfl, hG.out⟩
      · clear h
        go_enter Try.func33, Try.ntmps33
        go_upto_region 6 with (first
          | (go_at_call 37; refine (a1.out _).mono ?_; rintro e w1 ⟨rfl, hg1⟩)
          | (refine wpList_allocA _ rfl 67 rfl (zs 128) (zeroL _) ?_; intro w2 ha2 hg2)
          | (refine wpList_storeA _ rfl 67 _ _ rfl 128 infoL w1.heap.size (zs 128) Z (zs_len 128) hl0.out rfl rfl ha2 ?_; intro w3 ha3 hg3))
        have hG : Hid (w.grownBy w3 none) := Hid.mk' (grownBy_new (grownBy_trans hg1 hg2) hg3 (fun k hk => by have h5 := Option.some.inj hk; have h6 := hg1.size; omega))
        have a2 := Hid.mk' (index_some w1.heap.size 0 128 128 Z hl0.out u w3 (ArrAt.runes ha3) (by omega) (by omega) i hI0.out)
        clear ha2 ha3 hg1 hg2 hg3
        generalize w1.heap.size = B at *
        go_wp2_with (go_at_call 27; refine a2.out.mono ?_; rintro e w4 ⟨rfl, rfl⟩)
        go_ret2
        exact ⟨rfl, hG.out⟩
set_option maxRecDepth 100000 in
set_option maxHeartbeats 1000000 in
theorem byte_none (u : Int) (hu : I32 u) (w : World) (hR : Hid (onR u = none)) : Calls Try.prog 33 #[.int .i32 u] w fun e w' => e = .returned (.tuple #[.int .u8 0, .bool false]) ∧ w.grownBy w' none := by
  unfold I32 at hu
  obtain ⟨hu1, hu2⟩ := hu
  by_cases h9 : u = 65533
  · subst h9
    clear hR
    go_enter Try.func33, Try.ntmps33
    go_wp2
    go_ret2
    exact ⟨rfl, ⟨rfl, rfl, rfl, Nat.le_refl _, fun _ _ _ => rfl⟩⟩
  · have h9' : (u == 65533) = false := by simpa using h9
    have h : ¬ (0 ≤ u ∧ u < 128) := fun h => by
      have := onR_low h.1 h.2
      rw [hR.out] at this
      cases this
    have hx := onR_high h9 h
    rw [hR.out] at hx
    cases hI : ixR (toI tl) u with
    | some i => rw [hI] at hx; cases hx
    | none =>
      have hl0 := Hid.mk' tlI_len
      have a1 := Hid.mk' (fun w => scalars_any w)
      have hI0 := Hid.mk' hI
      generalize toI tl = Z at *
      clear hR h9 hx hI
      by_cases h0 : 0 ≤ u
      · have h1 : ¬ u < 128 := fun e => h ⟨h0, e⟩
        clear h
        go_enter Try.func33, Try.ntmps33
        go_upto_region 6 with (first
          | (go_at_call 37; refine (a1.out _).mono ?_; rintro e w1 ⟨rfl, hg1⟩)
          | (refine wpList_allocA _ rfl 67 rfl (zs 128) (zeroL _) ?_; intro w2 ha2 hg2)
          | (refine wpList_storeA _ rfl 67 _ _ rfl 128 infoL w1.heap.size (zs 128) Z (zs_len 128) hl0.out rfl rfl ha2 ?_; intro w3 ha3 hg3))
        have hG : Hid (w.grownBy w3 none) := Hid.mk' (grownBy_new (grownBy_trans hg1 hg2) hg3 (fun k hk => by have h5 := Option.some.inj hk; have h6 := hg1.size; omega))
        have a2 := Hid.mk' (index_none w1.heap.size 0 128 128 Z hl0.out u w3 (ArrAt.runes ha3) (by omega) (by omega) hI0.out)
        clear ha2 ha3 hg1 hg2 hg3
        generalize w1.heap.size = B at *
        go_wp2_with (go_at_call 27; refine a2.out.mono ?_; rintro e w4 ⟨rfl, rfl⟩)
        go_ret2
        exact ⟨rfl, hG.out⟩
      · clear h
        go_enter Try.func33, Try.ntmps33
        go_upto_region 6 with (first
          | (go_at_call 37; refine (a1.out _).mono ?_; rintro e w1 ⟨rfl, hg1⟩)
          | (refine wpList_allocA _ rfl 67 rfl (zs 128) (zeroL _) ?_; intro w2 ha2 hg2)
          | (refine wpList_storeA _ rfl 67 _ _ rfl 128 infoL w1.heap.size (zs 128) Z (zs_len 128) hl0.out rfl rfl ha2 ?_; intro w3 ha3 hg3))
        have hG : Hid (w.grownBy w3 none) := Hid.mk' (grownBy_new (grownBy_trans hg1 hg2) hg3 (fun k hk => by have h5 := Option.some.inj hk; have h6 := hg1.size; omega))
        have a2 := Hid.mk' (index_none w1.heap.size 0 128 128 Z hl0.out u w3 (ArrAt.runes ha3) (by omega) (by omega) hI0.out)
        clear ha2 ha3 hg1 hg2 hg3
        generalize w1.heap.size = B at *
        go_wp2_with (go_at_call 27; refine a2.out.mono ?_; rintro e w4 ⟨rfl, rfl⟩)
        go_ret2
        exact ⟨rfl, hG.out⟩
end Go.Proofs.Ytfehmbicolllkaa.C13

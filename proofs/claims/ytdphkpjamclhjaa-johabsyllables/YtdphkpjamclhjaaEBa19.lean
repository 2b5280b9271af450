/- JohabBack: walks, a way each. -/
import Derived.Test.YtdphkpjamclhjaaJX19
import Derived.Test.YtdphkpjamclhjaaCw
import Derived.Test.YtdphkpjamclhjaaConvApp
import Derived.Test.YtdphkpjamclhjaaRegion
import Derived.Deep.RegionHeld3
import Derived.BigQuiet
namespace Go.Proofs.Ytdphkpjamclhjaa.C19
open Go.ChangeShapes Go.WideShapes Go.ChangeAt Go.RowKit Go.Proofs.Ytdphkpjamclhjaa.Mem Go.Proofs.Ytdphkpjamclhjaa.Cb Go.Proofs.Ytdphkpjamclhjaa.Sp
set_option linter.unusedVariables false
set_option linter.unusedSimpArgs false

set_option maxRecDepth 100000 in
set_option maxHeartbeats 1000000 in
theorem back_none_more {P : World → Prop} (C : Con P) (u : Int) (ao : Option Addr) (cap : Nat) (L : List UInt8) (hu : I32 u) (hS : sE u = (11, [])) (hG : gE L = (1, 0, 0, 0)) (w : World) (hw : P w) (hB : Bytes w ao L) (hLc : L.length ≤ cap) (hcm : cap ≤ 140737488351232) : Calls Try.prog 6 #[.int .i32 u, .slice ao L.length cap] w fun e w' => e = .returned (.bool true) ∧ w.grownBy w' none := by
  have a0 := Hid.mk' (fun w hw => works_any C w hw)
  have Kp := Hid.mk' (fun (a b : World) (h : P a) (g : a.grownBy b none) => C.keep h g)
  have hq := Hid.mk' hw
  have a1 : Hid (∀ w, P w → Calls Try.prog 11 #[.int .i32 u] w fun e w' => e = .returned (pV 11 ⟨#[]⟩) ∧ w.grownBy w' none) := C.put u hu _ _ hS
  have a3 := C.got L _ _ _ _ hG
  obtain ⟨i0, hi, hz0, hz1, hz2⟩ := info_parts info5
  have HB : Hid (Bytes w ao L) := Hid.mk' hB
  have hLl : L.length ≤ 140737488351232 := by omega
  clear hw C hu hS hG hB
  go_enter Try.func6, Try.ntmps6
  go_upto_region 3 with (go_at_call 17; refine (a0.out _ hq.out).mono ?_; rintro e w2 ⟨rfl, hg1, hp1⟩; have hq2 := Hid.mk' hp1; have hG0 := Hid.mk' hg1)
  clear hg1 hp1 a0 hq
  go_upto_region 4 with (first
    | (go_at_call 11; refine (a1.out _ hq2.out).mono ?_; rintro e w3 ⟨rfl, hg3⟩)
    | (refine wpList_allocC _ rfl 32 rfl (pZ 0 ⟨#[]⟩) (zeroP _) ?_; intro w4 p4 hg4)
    | (refine wpList_storeC _ rfl 32 _ _ rfl _ (pZ 0 ⟨#[]⟩) (pZ 11 ⟨#[]⟩) infoP rfl (pC_one _ _ _ _ _ _) rfl rfl p4 ?_; intro w5 p5 hg5))
  have hG5 : Hid (w2.grownBy w5 none) := Hid.mk' (grownBy_new (gt hg3 hg4) hg5 (fun k hk => by have h5 := Option.some.inj hk; have h6 := hg3.size; omega))
  have hGw : Hid (w.grownBy w5 none) := Hid.mk' (gt hG0.out hG5.out)
  have hq5 := Hid.mk' (Kp.out _ _ hq2.out hG5.out)
  clear hg3 hg4 hg5 p4 hq2 hG0 hG5 a1
  generalize w3.heap.size = PB at *
  have HB5 : Hid (Bytes w5 ao L) := Hid.mk' (HB.out.kept0 hGw.out)
  have hS0 : (fun w' : World => w'.cell? ⟨PB, 0, none⟩ = some (.int .i64 11)) w5.drew := p5.cell 0 (v := .int .i64 11) rfl
  clear p5
  refine wp_region_held_drew (S := fun w' : World => w'.cell? ⟨PB, 0, none⟩ = some (.int .i64 11)) (by kernel_rfl) hS0 (fun hHeld => ?_)
  refine wpAnyH_take (i := 0) (v := ?_) rfl (by kernel_rfl) (by kernel_rfl) (by kernel_rfl) (fun _ _ _ h => h) (Or.inl ⟨by rfl, ?_⟩) (by assumption) ?_; rotate_left
  · (intro w hSw; (try dsimp only at hSw); go_simp; try with_reducible rfl)
  try simp only [List.getElem_toArray, List.getElem_cons_zero, Act.put, List.setIfInBounds_toArray, List.set_cons_zero, List.set_cons_succ]
  refine wpAnyH_take (i := 1) (v := ?_) rfl (by kernel_rfl) (by kernel_rfl) (by kernel_rfl) (fun _ _ _ h => h) (Or.inl ⟨by rfl, ?_⟩) (by assumption) ?_; rotate_left
  · (intro w hSw; (try dsimp only at hSw); go_simp; try with_reducible rfl)
  try simp only [List.getElem_toArray, List.getElem_cons_zero, List.getElem_cons_succ, Act.put, List.setIfInBounds_toArray, List.set_cons_zero, List.set_cons_succ]
  refine wpAnyH_take (i := 2) (v := ?_) rfl (by kernel_rfl) (by kernel_rfl) (by kernel_rfl) (fun _ _ _ h => h) (Or.inl ⟨by rfl, ?_⟩) (by assumption) ?_; rotate_left
  · (intro w hSw; (try dsimp only at hSw); go_simp; try with_reducible rfl)
  try simp only [List.getElem_toArray, List.getElem_cons_zero, List.getElem_cons_succ, Act.put, List.setIfInBounds_toArray, List.set_cons_zero, List.set_cons_succ]
  refine wpAnyH_take (i := 3) (v := ?_) rfl (by kernel_rfl) (by kernel_rfl) (by kernel_rfl) (fun _ _ _ h => h) (Or.inl ⟨by rfl, ?_⟩) (by assumption) ?_; rotate_left
  · (intro w hSw; (try dsimp only at hSw); go_simp; try with_reducible rfl)
  try simp only [List.getElem_toArray, List.getElem_cons_zero, List.getElem_cons_succ, Act.put, List.setIfInBounds_toArray, List.set_cons_zero, List.set_cons_succ]
  refine wpAnyH_take (i := 4) (v := undef) rfl (by kernel_rfl) (by kernel_rfl) (by kernel_rfl) (fun _ _ _ h => h) (Or.inr ⟨by rfl, rfl⟩) (by assumption) ?_
  try simp only [List.getElem_toArray, List.getElem_cons_zero, List.getElem_cons_succ, Act.put, List.setIfInBounds_toArray, List.set_cons_zero, List.set_cons_succ]
  refine wpAnyH_take (i := 5) (v := undef) rfl (by kernel_rfl) (by kernel_rfl) (by kernel_rfl) (fun _ _ _ h => h) (Or.inr ⟨by rfl, rfl⟩) (by assumption) ?_
  try simp only [List.getElem_toArray, List.getElem_cons_zero, List.getElem_cons_succ, Act.put, List.setIfInBounds_toArray, List.set_cons_zero, List.set_cons_succ]
  refine wpAnyH_take (i := 6) (v := undef) rfl (by kernel_rfl) (by kernel_rfl) (by kernel_rfl) (fun _ _ _ h => h) (Or.inr ⟨by rfl, rfl⟩) (by assumption) ?_
  try simp only [List.getElem_toArray, List.getElem_cons_zero, List.getElem_cons_succ, Act.put, List.setIfInBounds_toArray, List.set_cons_zero, List.set_cons_succ]
  refine wpAnyH_take (i := 7) (v := undef) rfl (by kernel_rfl) (by kernel_rfl) (by kernel_rfl) (fun _ _ _ h => h) (Or.inr ⟨by rfl, rfl⟩) (by assumption) ?_
  try simp only [List.getElem_toArray, List.getElem_cons_zero, List.getElem_cons_succ, Act.put, List.setIfInBounds_toArray, List.set_cons_zero, List.set_cons_succ]
  refine wpAnyH_take (i := 8) (v := undef) rfl (by kernel_rfl) (by kernel_rfl) (by kernel_rfl) (fun _ _ _ h => h) (Or.inr ⟨by rfl, rfl⟩) (by assumption) ?_
  try simp only [List.getElem_toArray, List.getElem_cons_zero, List.getElem_cons_succ, Act.put, List.setIfInBounds_toArray, List.set_cons_zero, List.set_cons_succ]
  refine wpAnyH_take (i := 9) (v := undef) rfl (by kernel_rfl) (by kernel_rfl) (by kernel_rfl) (fun _ _ _ h => h) (Or.inr ⟨by rfl, rfl⟩) (by assumption) ?_
  try simp only [List.getElem_toArray, List.getElem_cons_zero, List.getElem_cons_succ, Act.put, List.setIfInBounds_toArray, List.set_cons_zero, List.set_cons_succ]
  refine wpAnyH_take (i := 10) (v := undef) rfl (by kernel_rfl) (by kernel_rfl) (by kernel_rfl) (fun _ _ _ h => h) (Or.inr ⟨by rfl, rfl⟩) (by assumption) ?_
  try simp only [List.getElem_toArray, List.getElem_cons_zero, List.getElem_cons_succ, Act.put, List.setIfInBounds_toArray, List.set_cons_zero, List.set_cons_succ]
  refine wpAnyH_take (i := 11) (v := undef) rfl (by kernel_rfl) (by kernel_rfl) (by kernel_rfl) (fun _ _ _ h => h) (Or.inr ⟨by rfl, rfl⟩) (by assumption) ?_
  try simp only [List.getElem_toArray, List.getElem_cons_zero, List.getElem_cons_succ, Act.put, List.setIfInBounds_toArray, List.set_cons_zero, List.set_cons_succ]
  refine wpAnyH_take (i := 12) (v := undef) rfl (by kernel_rfl) (by kernel_rfl) (by kernel_rfl) (fun _ _ _ h => h) (Or.inr ⟨by rfl, rfl⟩) (by assumption) ?_
  try simp only [List.getElem_toArray, List.getElem_cons_zero, List.getElem_cons_succ, Act.put, List.setIfInBounds_toArray, List.set_cons_zero, List.set_cons_succ]
  refine wpAnyH_take (i := 13) (v := undef) rfl (by kernel_rfl) (by kernel_rfl) (by kernel_rfl) (fun _ _ _ h => h) (Or.inr ⟨by rfl, rfl⟩) (by assumption) ?_
  try simp only [List.getElem_toArray, List.getElem_cons_zero, List.getElem_cons_succ, Act.put, List.setIfInBounds_toArray, List.set_cons_zero, List.set_cons_succ]
  refine wpAnyH_take (i := 14) (v := undef) rfl (by kernel_rfl) (by kernel_rfl) (by kernel_rfl) (fun _ _ _ h => h) (Or.inr ⟨by rfl, rfl⟩) (by assumption) ?_
  try simp only [List.getElem_toArray, List.getElem_cons_zero, List.getElem_cons_succ, Act.put, List.setIfInBounds_toArray, List.set_cons_zero, List.set_cons_succ]
  refine wpAnyH_take (i := 15) (v := undef) rfl (by kernel_rfl) (by kernel_rfl) (by kernel_rfl) (fun _ _ _ h => h) (Or.inr ⟨by rfl, rfl⟩) (by assumption) ?_
  try simp only [List.getElem_toArray, List.getElem_cons_zero, List.getElem_cons_succ, Act.put, List.setIfInBounds_toArray, List.set_cons_zero, List.set_cons_succ]
  refine wpAnyH_take (i := 16) (v := ?_) rfl (by kernel_rfl) (by kernel_rfl) (by kernel_rfl) (fun _ _ _ h => h) (Or.inl ⟨by rfl, ?_⟩) (by assumption) ?_; rotate_left
  · (intro w hSw; (try dsimp only at hSw); go_simp; try with_reducible rfl)
  try simp only [List.getElem_toArray, List.getElem_cons_zero, List.getElem_cons_succ, Act.put, List.setIfInBounds_toArray, List.set_cons_zero, List.set_cons_succ]
  refine wpAnyH_done (by kernel_rfl) ?_ _
  obtain ⟨w8, hw8⟩ : ∃ w8, w5.drew = w8 := ⟨_, rfl⟩
  have hg58 : Hid (w5.grownBy w8 none) := Hid.mk' (by rw [← hw8]; exact grownBy_drew (grownBy_refl w5 none))
  have hG8 : Hid (w.grownBy w8 none) := Hid.mk' (gt hGw.out hg58.out)
  have hq8 := Hid.mk' (Kp.out _ _ hq5.out hg58.out)
  have HB8 : Hid (Bytes w8 ao L) := Hid.mk' (HB5.out.kept0 hg58.out)
  rw [hw8]
  clear hw8 hg58 hGw hq5 HB5 hS0 hHeld
  go_upto_region 7 with (first
    | (go_at_call 9; refine (a3.out _ rfl ao cap _ HB8.out hLc (by omega) hq8.out).mono ?_; rintro e w9 ⟨rfl, hg9⟩)
    | (refine wpList_allocC _ rfl 28 rfl (gZ 0 0 0 0) (zeroG _) ?_; intro w10 g10 hg10)
    | (refine wpList_storeC _ rfl 28 _ _ rfl _ (gZ 0 0 0 0) (gZ 1 0 0 0) infoG rfl (gC_one _ _ _ _ _ _ _ _ _) rfl rfl g10 ?_; intro w11 g11 hg11))
  have hG11 : Hid (w8.grownBy w11 none) := Hid.mk' (grownBy_new (gt hg9 hg10) hg11 (fun k hk => by have h5 := Option.some.inj hk; have h6 := hg9.size; omega))
  have hGx : Hid (w.grownBy w11 none) := Hid.mk' (gt hG8.out hG11.out)
  have hq11 := Hid.mk' (Kp.out _ _ hq8.out hG11.out)
  clear hg9 hg10 hg11 g10 a3 hG8 hq8 HB8 hG11
  generalize w9.heap.size = GB at *
  have z0 := g11.cell 0 (v := .int .i64 1) rfl
  have z1 := g11.cell 1 (v := .int .i64 0) rfl
  go_wp2
  go_ret
  exact ⟨rfl, hGx.out⟩
set_option maxRecDepth 100000 in
set_option maxHeartbeats 1000000 in
theorem back_none_ill {P : World → Prop} (C : Con P) (u : Int) (ao : Option Addr) (cap : Nat) (L : List UInt8) (hu : I32 u) (hS : sE u = (11, [])) (m : Nat) (hG : gE L = (10, (m : Int), 0, 0)) (hm1 : 1 ≤ m) (hm2 : m ≤ 2) (hm3 : m ≤ L.length) (w : World) (hw : P w) (hB : Bytes w ao L) (hLc : L.length ≤ cap) (hcm : cap ≤ 140737488351232) : Calls Try.prog 6 #[.int .i32 u, .slice ao L.length cap] w fun e w' => e = .returned (.bool true) ∧ w.grownBy w' none := by
  have a0 := Hid.mk' (fun w hw => works_any C w hw)
  have Kp := Hid.mk' (fun (a b : World) (h : P a) (g : a.grownBy b none) => C.keep h g)
  have hq := Hid.mk' hw
  have a1 : Hid (∀ w, P w → Calls Try.prog 11 #[.int .i32 u] w fun e w' => e = .returned (pV 11 ⟨#[]⟩) ∧ w.grownBy w' none) := C.put u hu _ _ hS
  have a3 := C.got L _ _ _ _ hG
  have hm1' : (1 : Int) ≤ (m : Int) := by omega
  have hm2' : (m : Int) ≤ 2 := by omega
  have hm3' : (m : Int) ≤ (L.length : Int) := by omega
  obtain ⟨i0, hi, hz0, hz1, hz2⟩ := info_parts info5
  have HB : Hid (Bytes w ao L) := Hid.mk' hB
  have hLl : L.length ≤ 140737488351232 := by omega
  clear hw C hu hS hG hB hm1 hm2 hm3
  go_enter Try.func6, Try.ntmps6
  go_upto_region 3 with (go_at_call 17; refine (a0.out _ hq.out).mono ?_; rintro e w2 ⟨rfl, hg1, hp1⟩; have hq2 := Hid.mk' hp1; have hG0 := Hid.mk' hg1)
  clear hg1 hp1 a0 hq
  go_upto_region 4 with (first
    | (go_at_call 11; refine (a1.out _ hq2.out).mono ?_; rintro e w3 ⟨rfl, hg3⟩)
    | (refine wpList_allocC _ rfl 32 rfl (pZ 0 ⟨#[]⟩) (zeroP _) ?_; intro w4 p4 hg4)
    | (refine wpList_storeC _ rfl 32 _ _ rfl _ (pZ 0 ⟨#[]⟩) (pZ 11 ⟨#[]⟩) infoP rfl (pC_one _ _ _ _ _ _) rfl rfl p4 ?_; intro w5 p5 hg5))
  have hG5 : Hid (w2.grownBy w5 none) := Hid.mk' (grownBy_new (gt hg3 hg4) hg5 (fun k hk => by have h5 := Option.some.inj hk; have h6 := hg3.size; omega))
  have hGw : Hid (w.grownBy w5 none) := Hid.mk' (gt hG0.out hG5.out)
  have hq5 := Hid.mk' (Kp.out _ _ hq2.out hG5.out)
  clear hg3 hg4 hg5 p4 hq2 hG0 hG5 a1
  generalize w3.heap.size = PB at *
  have HB5 : Hid (Bytes w5 ao L) := Hid.mk' (HB.out.kept0 hGw.out)
  have hS0 : (fun w' : World => w'.cell? ⟨PB, 0, none⟩ = some (.int .i64 11)) w5.drew := p5.cell 0 (v := .int .i64 11) rfl
  clear p5
  refine wp_region_held_drew (S := fun w' : World => w'.cell? ⟨PB, 0, none⟩ = some (.int .i64 11)) (by kernel_rfl) hS0 (fun hHeld => ?_)
  refine wpAnyH_take (i := 0) (v := ?_) rfl (by kernel_rfl) (by kernel_rfl) (by kernel_rfl) (fun _ _ _ h => h) (Or.inl ⟨by rfl, ?_⟩) (by assumption) ?_; rotate_left
  · (intro w hSw; (try dsimp only at hSw); go_simp; try with_reducible rfl)
  try simp only [List.getElem_toArray, List.getElem_cons_zero, Act.put, List.setIfInBounds_toArray, List.set_cons_zero, List.set_cons_succ]
  refine wpAnyH_take (i := 1) (v := ?_) rfl (by kernel_rfl) (by kernel_rfl) (by kernel_rfl) (fun _ _ _ h => h) (Or.inl ⟨by rfl, ?_⟩) (by assumption) ?_; rotate_left
  · (intro w hSw; (try dsimp only at hSw); go_simp; try with_reducible rfl)
  try simp only [List.getElem_toArray, List.getElem_cons_zero, List.getElem_cons_succ, Act.put, List.setIfInBounds_toArray, List.set_cons_zero, List.set_cons_succ]
  refine wpAnyH_take (i := 2) (v := ?_) rfl (by kernel_rfl) (by kernel_rfl) (by kernel_rfl) (fun _ _ _ h => h) (Or.inl ⟨by rfl, ?_⟩) (by assumption) ?_; rotate_left
  · (intro w hSw; (try dsimp only at hSw); go_simp; try with_reducible rfl)
  try simp only [List.getElem_toArray, List.getElem_cons_zero, List.getElem_cons_succ, Act.put, List.setIfInBounds_toArray, List.set_cons_zero, List.set_cons_succ]
  refine wpAnyH_take (i := 3) (v := ?_) rfl (by kernel_rfl) (by kernel_rfl) (by kernel_rfl) (fun _ _ _ h => h) (Or.inl ⟨by rfl, ?_⟩) (by assumption) ?_; rotate_left
  · (intro w hSw; (try dsimp only at hSw); go_simp; try with_reducible rfl)
  try simp only [List.getElem_toArray, List.getElem_cons_zero, List.getElem_cons_succ, Act.put, List.setIfInBounds_toArray, List.set_cons_zero, List.set_cons_succ]
  refine wpAnyH_take (i := 4) (v := undef) rfl (by kernel_rfl) (by kernel_rfl) (by kernel_rfl) (fun _ _ _ h => h) (Or.inr ⟨by rfl, rfl⟩) (by assumption) ?_
  try simp only [List.getElem_toArray, List.getElem_cons_zero, List.getElem_cons_succ, Act.put, List.setIfInBounds_toArray, List.set_cons_zero, List.set_cons_succ]
  refine wpAnyH_take (i := 5) (v := undef) rfl (by kernel_rfl) (by kernel_rfl) (by kernel_rfl) (fun _ _ _ h => h) (Or.inr ⟨by rfl, rfl⟩) (by assumption) ?_
  try simp only [List.getElem_toArray, List.getElem_cons_zero, List.getElem_cons_succ, Act.put, List.setIfInBounds_toArray, List.set_cons_zero, List.set_cons_succ]
  refine wpAnyH_take (i := 6) (v := undef) rfl (by kernel_rfl) (by kernel_rfl) (by kernel_rfl) (fun _ _ _ h => h) (Or.inr ⟨by rfl, rfl⟩) (by assumption) ?_
  try simp only [List.getElem_toArray, List.getElem_cons_zero, List.getElem_cons_succ, Act.put, List.setIfInBounds_toArray, List.set_cons_zero, List.set_cons_succ]
  refine wpAnyH_take (i := 7) (v := undef) rfl (by kernel_rfl) (by kernel_rfl) (by kernel_rfl) (fun _ _ _ h => h) (Or.inr ⟨by rfl, rfl⟩) (by assumption) ?_
  try simp only [List.getElem_toArray, List.getElem_cons_zero, List.getElem_cons_succ, Act.put, List.setIfInBounds_toArray, List.set_cons_zero, List.set_cons_succ]
  refine wpAnyH_take (i := 8) (v := undef) rfl (by kernel_rfl) (by kernel_rfl) (by kernel_rfl) (fun _ _ _ h => h) (Or.inr ⟨by rfl, rfl⟩) (by assumption) ?_
  try simp only [List.getElem_toArray, List.getElem_cons_zero, List.getElem_cons_succ, Act.put, List.setIfInBounds_toArray, List.set_cons_zero, List.set_cons_succ]
  refine wpAnyH_take (i := 9) (v := undef) rfl (by kernel_rfl) (by kernel_rfl) (by kernel_rfl) (fun _ _ _ h => h) (Or.inr ⟨by rfl, rfl⟩) (by assumption) ?_
  try simp only [List.getElem_toArray, List.getElem_cons_zero, List.getElem_cons_succ, Act.put, List.setIfInBounds_toArray, List.set_cons_zero, List.set_cons_succ]
  refine wpAnyH_take (i := 10) (v := undef) rfl (by kernel_rfl) (by kernel_rfl) (by kernel_rfl) (fun _ _ _ h => h) (Or.inr ⟨by rfl, rfl⟩) (by assumption) ?_
  try simp only [List.getElem_toArray, List.getElem_cons_zero, List.getElem_cons_succ, Act.put, List.setIfInBounds_toArray, List.set_cons_zero, List.set_cons_succ]
  refine wpAnyH_take (i := 11) (v := undef) rfl (by kernel_rfl) (by kernel_rfl) (by kernel_rfl) (fun _ _ _ h => h) (Or.inr ⟨by rfl, rfl⟩) (by assumption) ?_
  try simp only [List.getElem_toArray, List.getElem_cons_zero, List.getElem_cons_succ, Act.put, List.setIfInBounds_toArray, List.set_cons_zero, List.set_cons_succ]
  refine wpAnyH_take (i := 12) (v := undef) rfl (by kernel_rfl) (by kernel_rfl) (by kernel_rfl) (fun _ _ _ h => h) (Or.inr ⟨by rfl, rfl⟩) (by assumption) ?_
  try simp only [List.getElem_toArray, List.getElem_cons_zero, List.getElem_cons_succ, Act.put, List.setIfInBounds_toArray, List.set_cons_zero, List.set_cons_succ]
  refine wpAnyH_take (i := 13) (v := undef) rfl (by kernel_rfl) (by kernel_rfl) (by kernel_rfl) (fun _ _ _ h => h) (Or.inr ⟨by rfl, rfl⟩) (by assumption) ?_
  try simp only [List.getElem_toArray, List.getElem_cons_zero, List.getElem_cons_succ, Act.put, List.setIfInBounds_toArray, List.set_cons_zero, List.set_cons_succ]
  refine wpAnyH_take (i := 14) (v := undef) rfl (by kernel_rfl) (by kernel_rfl) (by kernel_rfl) (fun _ _ _ h => h) (Or.inr ⟨by rfl, rfl⟩) (by assumption) ?_
  try simp only [List.getElem_toArray, List.getElem_cons_zero, List.getElem_cons_succ, Act.put, List.setIfInBounds_toArray, List.set_cons_zero, List.set_cons_succ]
  refine wpAnyH_take (i := 15) (v := undef) rfl (by kernel_rfl) (by kernel_rfl) (by kernel_rfl) (fun _ _ _ h => h) (Or.inr ⟨by rfl, rfl⟩) (by assumption) ?_
  try simp only [List.getElem_toArray, List.getElem_cons_zero, List.getElem_cons_succ, Act.put, List.setIfInBounds_toArray, List.set_cons_zero, List.set_cons_succ]
  refine wpAnyH_take (i := 16) (v := ?_) rfl (by kernel_rfl) (by kernel_rfl) (by kernel_rfl) (fun _ _ _ h => h) (Or.inl ⟨by rfl, ?_⟩) (by assumption) ?_; rotate_left
  · (intro w hSw; (try dsimp only at hSw); go_simp; try with_reducible rfl)
  try simp only [List.getElem_toArray, List.getElem_cons_zero, List.getElem_cons_succ, Act.put, List.setIfInBounds_toArray, List.set_cons_zero, List.set_cons_succ]
  refine wpAnyH_done (by kernel_rfl) ?_ _
  obtain ⟨w8, hw8⟩ : ∃ w8, w5.drew = w8 := ⟨_, rfl⟩
  have hg58 : Hid (w5.grownBy w8 none) := Hid.mk' (by rw [← hw8]; exact grownBy_drew (grownBy_refl w5 none))
  have hG8 : Hid (w.grownBy w8 none) := Hid.mk' (gt hGw.out hg58.out)
  have hq8 := Hid.mk' (Kp.out _ _ hq5.out hg58.out)
  have HB8 : Hid (Bytes w8 ao L) := Hid.mk' (HB5.out.kept0 hg58.out)
  rw [hw8]
  clear hw8 hg58 hGw hq5 HB5 hS0 hHeld
  go_upto_region 7 with (first
    | (go_at_call 9; refine (a3.out _ rfl ao cap _ HB8.out hLc (by omega) hq8.out).mono ?_; rintro e w9 ⟨rfl, hg9⟩)
    | (refine wpList_allocC _ rfl 28 rfl (gZ 0 0 0 0) (zeroG _) ?_; intro w10 g10 hg10)
    | (refine wpList_storeC _ rfl 28 _ _ rfl _ (gZ 0 0 0 0) (gZ 10 (m : Int) 0 0) infoG rfl (gC_one _ _ _ _ _ _ _ _ _) rfl rfl g10 ?_; intro w11 g11 hg11))
  have hG11 : Hid (w8.grownBy w11 none) := Hid.mk' (grownBy_new (gt hg9 hg10) hg11 (fun k hk => by have h5 := Option.some.inj hk; have h6 := hg9.size; omega))
  have hGx : Hid (w.grownBy w11 none) := Hid.mk' (gt hG8.out hG11.out)
  have hq11 := Hid.mk' (Kp.out _ _ hq8.out hG11.out)
  clear hg9 hg10 hg11 g10 a3 hG8 hq8 HB8 hG11
  generalize w9.heap.size = GB at *
  have z0 := g11.cell 0 (v := .int .i64 10) rfl
  have z1 := g11.cell 1 (v := .int .i64 (m : Int)) rfl
  go_wp2
  go_ret
  exact ⟨rfl, hGx.out⟩
set_option maxRecDepth 100000 in
set_option maxHeartbeats 1000000 in
theorem back_none_ok {P : World → Prop} (C : Con P) (u : Int) (ao : Option Addr) (cap : Nat) (L : List UInt8) (hu : I32 u) (hS : sE u = (11, [])) (m v : Nat) (hG : gE L = (0, (m : Int), 1, (v : Int))) (hv : v ≤ 65535) (hm1 : 1 ≤ m) (hm2 : m ≤ 2) (hm3 : m ≤ L.length) (hS2 : sE (v : Int) = (0, L.take m)) (w : World) (hw : P w) (hB : Bytes w ao L) (hLc : L.length ≤ cap) (hcm : cap ≤ 140737488351232) : Calls Try.prog 6 #[.int .i32 u, .slice ao L.length cap] w fun e w' => e = .returned (.bool true) ∧ w.grownBy w' none := by
  have a0 := Hid.mk' (fun w hw => works_any C w hw)
  have Kp := Hid.mk' (fun (a b : World) (h : P a) (g : a.grownBy b none) => C.keep h g)
  have hq := Hid.mk' hw
  have a1 : Hid (∀ w, P w → Calls Try.prog 11 #[.int .i32 u] w fun e w' => e = .returned (pV 11 ⟨#[]⟩) ∧ w.grownBy w' none) := C.put u hu _ _ hS
  have a3 := C.got L _ _ _ _ hG
  have a4 := C.put (v : Int) (by unfold I32; omega) _ _ hS2
  have htl : (L.take m).length = m := by rw [List.length_take]; omega
  have hcvt : Hid (∀ wx, Bytes wx ao L → (convert 22 9 (.slice ao m cap)).run Try.prog wx = .ok (.string (str (L.take m))) wx) := Hid.mk' (fun wx h => by
    have := conv (h.take m) 22 9 cap Try.underlying22 Try.underlying5 Try.underlying9
    rw [htl] at this
    exact this)
  generalize str (L.take m) = s2 at *
  have hd1 : decide ((m : Int) ≤ (L.length : Int)) = true := by simp; omega
  have hd2 : (0 : Int) ≤ (m : Int) := by omega
  have hd3 : (m : Int) ≤ (cap : Int) := by omega
  have hd4 : m ≤ cap := by omega
  obtain ⟨i0, hi, hz0, hz1, hz2⟩ := info_parts info5
  have HB : Hid (Bytes w ao L) := Hid.mk' hB
  have hLl : L.length ≤ 140737488351232 := by omega
  clear hw C hu hS hG hB hS2 htl
  go_enter Try.func6, Try.ntmps6
  go_upto_region 3 with (go_at_call 17; refine (a0.out _ hq.out).mono ?_; rintro e w2 ⟨rfl, hg1, hp1⟩; have hq2 := Hid.mk' hp1; have hG0 := Hid.mk' hg1)
  clear hg1 hp1 a0 hq
  go_upto_region 4 with (first
    | (go_at_call 11; refine (a1.out _ hq2.out).mono ?_; rintro e w3 ⟨rfl, hg3⟩)
    | (refine wpList_allocC _ rfl 32 rfl (pZ 0 ⟨#[]⟩) (zeroP _) ?_; intro w4 p4 hg4)
    | (refine wpList_storeC _ rfl 32 _ _ rfl _ (pZ 0 ⟨#[]⟩) (pZ 11 ⟨#[]⟩) infoP rfl (pC_one _ _ _ _ _ _) rfl rfl p4 ?_; intro w5 p5 hg5))
  have hG5 : Hid (w2.grownBy w5 none) := Hid.mk' (grownBy_new (gt hg3 hg4) hg5 (fun k hk => by have h5 := Option.some.inj hk; have h6 := hg3.size; omega))
  have hGw : Hid (w.grownBy w5 none) := Hid.mk' (gt hG0.out hG5.out)
  have hq5 := Hid.mk' (Kp.out _ _ hq2.out hG5.out)
  clear hg3 hg4 hg5 p4 hq2 hG0 hG5 a1
  generalize w3.heap.size = PB at *
  have HB5 : Hid (Bytes w5 ao L) := Hid.mk' (HB.out.kept0 hGw.out)
  have hS0 : (fun w' : World => w'.cell? ⟨PB, 0, none⟩ = some (.int .i64 11)) w5.drew := p5.cell 0 (v := .int .i64 11) rfl
  clear p5
  refine wp_region_held_drew (S := fun w' : World => w'.cell? ⟨PB, 0, none⟩ = some (.int .i64 11)) (by kernel_rfl) hS0 (fun hHeld => ?_)
  refine wpAnyH_take (i := 0) (v := ?_) rfl (by kernel_rfl) (by kernel_rfl) (by kernel_rfl) (fun _ _ _ h => h) (Or.inl ⟨by rfl, ?_⟩) (by assumption) ?_; rotate_left
  · (intro w hSw; (try dsimp only at hSw); go_simp; try with_reducible rfl)
  try simp only [List.getElem_toArray, List.getElem_cons_zero, Act.put, List.setIfInBounds_toArray, List.set_cons_zero, List.set_cons_succ]
  refine wpAnyH_take (i := 1) (v := ?_) rfl (by kernel_rfl) (by kernel_rfl) (by kernel_rfl) (fun _ _ _ h => h) (Or.inl ⟨by rfl, ?_⟩) (by assumption) ?_; rotate_left
  · (intro w hSw; (try dsimp only at hSw); go_simp; try with_reducible rfl)
  try simp only [List.getElem_toArray, List.getElem_cons_zero, List.getElem_cons_succ, Act.put, List.setIfInBounds_toArray, List.set_cons_zero, List.set_cons_succ]
  refine wpAnyH_take (i := 2) (v := ?_) rfl (by kernel_rfl) (by kernel_rfl) (by kernel_rfl) (fun _ _ _ h => h) (Or.inl ⟨by rfl, ?_⟩) (by assumption) ?_; rotate_left
  · (intro w hSw; (try dsimp only at hSw); go_simp; try with_reducible rfl)
  try simp only [List.getElem_toArray, List.getElem_cons_zero, List.getElem_cons_succ, Act.put, List.setIfInBounds_toArray, List.set_cons_zero, List.set_cons_succ]
  refine wpAnyH_take (i := 3) (v := ?_) rfl (by kernel_rfl) (by kernel_rfl) (by kernel_rfl) (fun _ _ _ h => h) (Or.inl ⟨by rfl, ?_⟩) (by assumption) ?_; rotate_left
  · (intro w hSw; (try dsimp only at hSw); go_simp; try with_reducible rfl)
  try simp only [List.getElem_toArray, List.getElem_cons_zero, List.getElem_cons_succ, Act.put, List.setIfInBounds_toArray, List.set_cons_zero, List.set_cons_succ]
  refine wpAnyH_take (i := 4) (v := undef) rfl (by kernel_rfl) (by kernel_rfl) (by kernel_rfl) (fun _ _ _ h => h) (Or.inr ⟨by rfl, rfl⟩) (by assumption) ?_
  try simp only [List.getElem_toArray, List.getElem_cons_zero, List.getElem_cons_succ, Act.put, List.setIfInBounds_toArray, List.set_cons_zero, List.set_cons_succ]
  refine wpAnyH_take (i := 5) (v := undef) rfl (by kernel_rfl) (by kernel_rfl) (by kernel_rfl) (fun _ _ _ h => h) (Or.inr ⟨by rfl, rfl⟩) (by assumption) ?_
  try simp only [List.getElem_toArray, List.getElem_cons_zero, List.getElem_cons_succ, Act.put, List.setIfInBounds_toArray, List.set_cons_zero, List.set_cons_succ]
  refine wpAnyH_take (i := 6) (v := undef) rfl (by kernel_rfl) (by kernel_rfl) (by kernel_rfl) (fun _ _ _ h => h) (Or.inr ⟨by rfl, rfl⟩) (by assumption) ?_
  try simp only [List.getElem_toArray, List.getElem_cons_zero, List.getElem_cons_succ, Act.put, List.setIfInBounds_toArray, List.set_cons_zero, List.set_cons_succ]
  refine wpAnyH_take (i := 7) (v := undef) rfl (by kernel_rfl) (by kernel_rfl) (by kernel_rfl) (fun _ _ _ h => h) (Or.inr ⟨by rfl, rfl⟩) (by assumption) ?_
  try simp only [List.getElem_toArray, List.getElem_cons_zero, List.getElem_cons_succ, Act.put, List.setIfInBounds_toArray, List.set_cons_zero, List.set_cons_succ]
  refine wpAnyH_take (i := 8) (v := undef) rfl (by kernel_rfl) (by kernel_rfl) (by kernel_rfl) (fun _ _ _ h => h) (Or.inr ⟨by rfl, rfl⟩) (by assumption) ?_
  try simp only [List.getElem_toArray, List.getElem_cons_zero, List.getElem_cons_succ, Act.put, List.setIfInBounds_toArray, List.set_cons_zero, List.set_cons_succ]
  refine wpAnyH_take (i := 9) (v := undef) rfl (by kernel_rfl) (by kernel_rfl) (by kernel_rfl) (fun _ _ _ h => h) (Or.inr ⟨by rfl, rfl⟩) (by assumption) ?_
  try simp only [List.getElem_toArray, List.getElem_cons_zero, List.getElem_cons_succ, Act.put, List.setIfInBounds_toArray, List.set_cons_zero, List.set_cons_succ]
  refine wpAnyH_take (i := 10) (v := undef) rfl (by kernel_rfl) (by kernel_rfl) (by kernel_rfl) (fun _ _ _ h => h) (Or.inr ⟨by rfl, rfl⟩) (by assumption) ?_
  try simp only [List.getElem_toArray, List.getElem_cons_zero, List.getElem_cons_succ, Act.put, List.setIfInBounds_toArray, List.set_cons_zero, List.set_cons_succ]
  refine wpAnyH_take (i := 11) (v := undef) rfl (by kernel_rfl) (by kernel_rfl) (by kernel_rfl) (fun _ _ _ h => h) (Or.inr ⟨by rfl, rfl⟩) (by assumption) ?_
  try simp only [List.getElem_toArray, List.getElem_cons_zero, List.getElem_cons_succ, Act.put, List.setIfInBounds_toArray, List.set_cons_zero, List.set_cons_succ]
  refine wpAnyH_take (i := 12) (v := undef) rfl (by kernel_rfl) (by kernel_rfl) (by kernel_rfl) (fun _ _ _ h => h) (Or.inr ⟨by rfl, rfl⟩) (by assumption) ?_
  try simp only [List.getElem_toArray, List.getElem_cons_zero, List.getElem_cons_succ, Act.put, List.setIfInBounds_toArray, List.set_cons_zero, List.set_cons_succ]
  refine wpAnyH_take (i := 13) (v := undef) rfl (by kernel_rfl) (by kernel_rfl) (by kernel_rfl) (fun _ _ _ h => h) (Or.inr ⟨by rfl, rfl⟩) (by assumption) ?_
  try simp only [List.getElem_toArray, List.getElem_cons_zero, List.getElem_cons_succ, Act.put, List.setIfInBounds_toArray, List.set_cons_zero, List.set_cons_succ]
  refine wpAnyH_take (i := 14) (v := undef) rfl (by kernel_rfl) (by kernel_rfl) (by kernel_rfl) (fun _ _ _ h => h) (Or.inr ⟨by rfl, rfl⟩) (by assumption) ?_
  try simp only [List.getElem_toArray, List.getElem_cons_zero, List.getElem_cons_succ, Act.put, List.setIfInBounds_toArray, List.set_cons_zero, List.set_cons_succ]
  refine wpAnyH_take (i := 15) (v := undef) rfl (by kernel_rfl) (by kernel_rfl) (by kernel_rfl) (fun _ _ _ h => h) (Or.inr ⟨by rfl, rfl⟩) (by assumption) ?_
  try simp only [List.getElem_toArray, List.getElem_cons_zero, List.getElem_cons_succ, Act.put, List.setIfInBounds_toArray, List.set_cons_zero, List.set_cons_succ]
  refine wpAnyH_take (i := 16) (v := ?_) rfl (by kernel_rfl) (by kernel_rfl) (by kernel_rfl) (fun _ _ _ h => h) (Or.inl ⟨by rfl, ?_⟩) (by assumption) ?_; rotate_left
  · (intro w hSw; (try dsimp only at hSw); go_simp; try with_reducible rfl)
  try simp only [List.getElem_toArray, List.getElem_cons_zero, List.getElem_cons_succ, Act.put, List.setIfInBounds_toArray, List.set_cons_zero, List.set_cons_succ]
  refine wpAnyH_done (by kernel_rfl) ?_ _
  obtain ⟨w8, hw8⟩ : ∃ w8, w5.drew = w8 := ⟨_, rfl⟩
  have hg58 : Hid (w5.grownBy w8 none) := Hid.mk' (by rw [← hw8]; exact grownBy_drew (grownBy_refl w5 none))
  have hG8 : Hid (w.grownBy w8 none) := Hid.mk' (gt hGw.out hg58.out)
  have hq8 := Hid.mk' (Kp.out _ _ hq5.out hg58.out)
  have HB8 : Hid (Bytes w8 ao L) := Hid.mk' (HB5.out.kept0 hg58.out)
  rw [hw8]
  clear hw8 hg58 hGw hq5 HB5 hS0 hHeld
  go_upto_region 7 with (first
    | (go_at_call 9; refine (a3.out _ rfl ao cap _ HB8.out hLc (by omega) hq8.out).mono ?_; rintro e w9 ⟨rfl, hg9⟩)
    | (refine wpList_allocC _ rfl 28 rfl (gZ 0 0 0 0) (zeroG _) ?_; intro w10 g10 hg10)
    | (refine wpList_storeC _ rfl 28 _ _ rfl _ (gZ 0 0 0 0) (gZ 0 (m : Int) 1 (v : Int)) infoG rfl (gC_one _ _ _ _ _ _ _ _ _) rfl rfl g10 ?_; intro w11 g11 hg11))
  have hG11 : Hid (w8.grownBy w11 none) := Hid.mk' (grownBy_new (gt hg9 hg10) hg11 (fun k hk => by have h5 := Option.some.inj hk; have h6 := hg9.size; omega))
  have hGx : Hid (w.grownBy w11 none) := Hid.mk' (gt hG8.out hG11.out)
  have hq11 := Hid.mk' (Kp.out _ _ hq8.out hG11.out)
  have HB11 : Hid (Bytes w11 ao L) := Hid.mk' (HB8.out.kept0 hG11.out)
  clear hg9 hg10 hg11 g10 a3 hG8 hq8 HB8 hG11
  generalize w9.heap.size = GB at *
  have z0 := g11.cell 0 (v := .int .i64 0) rfl
  go_upto_region 9 with (fail)
  have hcl2 : Hid (∀ wx, w11.grownBy wx none → (fun w' => w'.cell? ⟨GB, 1, none⟩ = some (.int .i64 (m : Int)) ∧ w'.cell? ⟨GB, 3, none⟩ = some (.int .i32 (v : Int)) ∧ (convert 22 9 (.slice ao m cap)).run Try.prog w' = .ok (.string s2) w') wx) := Hid.mk' (fun wx hg => ⟨(g11.kept0 hg).cell 1 rfl, (g11.kept0 hg).cell 3 rfl, hcvt.out _ (HB11.out.kept0 hg)⟩)
  have hS0 := hcl2.out _ (grownBy_drew (grownBy_refl w11 none))
  clear g11 z0
  refine wp_region_held_drew (S := fun w' => w'.cell? ⟨GB, 1, none⟩ = some (.int .i64 (m : Int)) ∧ w'.cell? ⟨GB, 3, none⟩ = some (.int .i32 (v : Int)) ∧ (convert 22 9 (.slice ao m cap)).run Try.prog w' = .ok (.string s2) w') (by kernel_rfl) hS0 (fun hHeld => ?_)
  refine wpAnyH_take (i := 0) (v := ?_) rfl (by kernel_rfl) (by kernel_rfl) (by kernel_rfl) (fun _ _ _ h => h) (Or.inl ⟨by rfl, ?_⟩) (by assumption) ?_; rotate_left
  · (intro w hSw; (try dsimp only at hSw); go_simp; try with_reducible rfl)
  try simp only [List.getElem_toArray, List.getElem_cons_zero, Act.put, List.setIfInBounds_toArray, List.set_cons_zero, List.set_cons_succ]
  refine wpAnyH_take (i := 1) (v := ?_) rfl (by kernel_rfl) (by kernel_rfl) (by kernel_rfl) (fun _ _ _ h => h) (Or.inl ⟨by rfl, ?_⟩) (by assumption) ?_; rotate_left
  · (intro w hSw; (try dsimp only at hSw); go_simp; try with_reducible rfl)
  try simp only [List.getElem_toArray, List.getElem_cons_zero, List.getElem_cons_succ, Act.put, List.setIfInBounds_toArray, List.set_cons_zero, List.set_cons_succ]
  refine wpAnyH_take (i := 2) (v := ?_) rfl (by kernel_rfl) (by kernel_rfl) (by kernel_rfl) (fun _ _ _ h => h) (Or.inl ⟨by rfl, ?_⟩) (by assumption) ?_; rotate_left
  · (intro w hSw; (try dsimp only at hSw); go_simp; try with_reducible rfl)
  try simp only [List.getElem_toArray, List.getElem_cons_zero, List.getElem_cons_succ, Act.put, List.setIfInBounds_toArray, List.set_cons_zero, List.set_cons_succ]
  refine wpAnyH_take (i := 3) (v := ?_) rfl (by kernel_rfl) (by kernel_rfl) (by kernel_rfl) (fun _ _ _ h => h) (Or.inl ⟨by rfl, ?_⟩) (by assumption) ?_; rotate_left
  · (intro w hSw; (try dsimp only at hSw); go_simp; try with_reducible rfl)
  try simp only [List.getElem_toArray, List.getElem_cons_zero, List.getElem_cons_succ, Act.put, List.setIfInBounds_toArray, List.set_cons_zero, List.set_cons_succ]
  refine wpAnyH_take (i := 4) (v := ?_) rfl (by kernel_rfl) (by kernel_rfl) (by kernel_rfl) (fun _ _ _ h => h) (Or.inl ⟨by rfl, ?_⟩) (by assumption) ?_; rotate_left
  · (intro w hSw; (try dsimp only at hSw); go_simp; try with_reducible rfl)
  try simp only [List.getElem_toArray, List.getElem_cons_zero, List.getElem_cons_succ, Act.put, List.setIfInBounds_toArray, List.set_cons_zero, List.set_cons_succ]
  refine wpAnyH_take (i := 5) (v := ?_) rfl (by kernel_rfl) (by kernel_rfl) (by kernel_rfl) (fun _ _ _ h => h) (Or.inl ⟨by rfl, ?_⟩) (by assumption) ?_; rotate_left
  · (intro w hSw; (try dsimp only at hSw); go_simp; try with_reducible rfl)
  try simp only [List.getElem_toArray, List.getElem_cons_zero, List.getElem_cons_succ, Act.put, List.setIfInBounds_toArray, List.set_cons_zero, List.set_cons_succ]
  refine wpAnyH_take (i := 6) (v := ?_) rfl (by kernel_rfl) (by kernel_rfl) (by kernel_rfl) (fun _ _ _ h => h) (Or.inl ⟨by rfl, ?_⟩) (by assumption) ?_; rotate_left
  · (intro w hSw; (try dsimp only at hSw); go_simp; try with_reducible rfl)
  try simp only [List.getElem_toArray, List.getElem_cons_zero, List.getElem_cons_succ, Act.put, List.setIfInBounds_toArray, List.set_cons_zero, List.set_cons_succ]
  refine wpAnyH_take (i := 7) (v := ?_) rfl (by kernel_rfl) (by kernel_rfl) (by kernel_rfl) (fun _ _ _ h => h) (Or.inl ⟨by rfl, ?_⟩) (by assumption) ?_; rotate_left
  · (intro w hSw; (try dsimp only at hSw); go_simp; try with_reducible rfl)
  try simp only [List.getElem_toArray, List.getElem_cons_zero, List.getElem_cons_succ, Act.put, List.setIfInBounds_toArray, List.set_cons_zero, List.set_cons_succ]
  refine wpAnyH_take (i := 9) (v := ?_) rfl (by kernel_rfl) (by kernel_rfl) (by kernel_rfl) (fun _ _ _ h => h) (Or.inl ⟨by rfl, ?_⟩) (by assumption) ?_; rotate_left
  · (intro w hSw; (try dsimp only at hSw); go_simp; try with_reducible rfl)
  try simp only [List.getElem_toArray, List.getElem_cons_zero, List.getElem_cons_succ, Act.put, List.setIfInBounds_toArray, List.set_cons_zero, List.set_cons_succ]
  refine wpAnyH_take (i := 10) (v := ?_) rfl (by kernel_rfl) (by kernel_rfl) (by kernel_rfl) (fun _ _ _ h => h) (Or.inl ⟨by rfl, ?_⟩) (by assumption) ?_; rotate_left
  · (intro w hSw; (try dsimp only at hSw); go_simp; try with_reducible rfl)
  try simp only [List.getElem_toArray, List.getElem_cons_zero, List.getElem_cons_succ, Act.put, List.setIfInBounds_toArray, List.set_cons_zero, List.set_cons_succ]
  refine wpAnyH_take (i := 11) (v := ?_) rfl (by kernel_rfl) (by kernel_rfl) (by kernel_rfl) (fun _ _ _ h => h) (Or.inl ⟨by rfl, ?_⟩) (by assumption) ?_; rotate_left
  · (intro w hSw; (try dsimp only at hSw); go_simp; try with_reducible rfl)
  try simp only [List.getElem_toArray, List.getElem_cons_zero, List.getElem_cons_succ, Act.put, List.setIfInBounds_toArray, List.set_cons_zero, List.set_cons_succ]
  refine wpAnyH_take (i := 12) (v := ?_) rfl (by kernel_rfl) (by kernel_rfl) (by kernel_rfl) (fun _ _ _ h => h) (Or.inl ⟨by rfl, ?_⟩) (by assumption) ?_; rotate_left
  · (intro w hSw; (try dsimp only at hSw); go_simp; try with_reducible rfl)
  try simp only [List.getElem_toArray, List.getElem_cons_zero, List.getElem_cons_succ, Act.put, List.setIfInBounds_toArray, List.set_cons_zero, List.set_cons_succ]
  refine wpAnyH_take (i := 13) (v := ?_) rfl (by kernel_rfl) (by kernel_rfl) (by kernel_rfl) (fun _ _ _ h => h) (Or.inl ⟨by rfl, ?_⟩) (by assumption) ?_; rotate_left
  · (intro w hSw; (try dsimp only at hSw); go_simp; try with_reducible rfl)
  try simp only [List.getElem_toArray, List.getElem_cons_zero, List.getElem_cons_succ, Act.put, List.setIfInBounds_toArray, List.set_cons_zero, List.set_cons_succ]
  refine wpAnyH_take (i := 14) (v := ?_) rfl (by kernel_rfl) (by kernel_rfl) (by kernel_rfl) (fun _ _ _ h => h) (Or.inl ⟨by rfl, ?_⟩) (by assumption) ?_; rotate_left
  · (intro w hSw; (try dsimp only at hSw); go_simp; try with_reducible rfl)
  try simp only [List.getElem_toArray, List.getElem_cons_zero, List.getElem_cons_succ, Act.put, List.setIfInBounds_toArray, List.set_cons_zero, List.set_cons_succ]
  refine wpAnyH_ready (rs := [8]) (by kernel_rfl) (by simp) ?_
  refine AllReadyH.cons rfl (fun K hK => ?_) AllReadyH.nil
  go_simp
  refine (a4.out _ (Kp.out _ _ hq11.out (grownBy_drew (grownBy_refl w11 none)))).mono ?_; rintro e w12 ⟨rfl, hg12⟩; have hg1112 : Hid (w11.grownBy w12 none) := Hid.mk' (grownBy_of_drew hg12); try dsimp only
  refine hK.out _ _ (hcl2.out _ hg1112.out) (fun hHeld => ?_)
  clear hK K
  try simp only [List.getElem_toArray, List.getElem_cons_zero, List.getElem_cons_succ, Act.put, List.setIfInBounds_toArray, List.set_cons_zero, List.set_cons_succ]
  refine wpAnyH_take (i := 15) (v := ?_) rfl (by kernel_rfl) (by kernel_rfl) (by kernel_rfl) (fun _ _ _ h => h) (Or.inl ⟨by rfl, ?_⟩) (by assumption) ?_; rotate_left
  · (intro w hSw; (try dsimp only at hSw); go_simp; try with_reducible rfl)
  try simp only [List.getElem_toArray, List.getElem_cons_zero, List.getElem_cons_succ, Act.put, List.setIfInBounds_toArray, List.set_cons_zero, List.set_cons_succ]
  refine wpAnyH_take (i := 16) (v := ?_) rfl (by kernel_rfl) (by kernel_rfl) (by kernel_rfl) (fun _ _ _ h => h) (Or.inl ⟨by rfl, ?_⟩) (by assumption) ?_; rotate_left
  · (intro w hSw; (try dsimp only at hSw); go_simp; try with_reducible rfl)
  try simp only [List.getElem_toArray, List.getElem_cons_zero, List.getElem_cons_succ, Act.put, List.setIfInBounds_toArray, List.set_cons_zero, List.set_cons_succ]
  refine wpAnyH_take (i := 17) (v := ?_) rfl (by kernel_rfl) (by kernel_rfl) (by kernel_rfl) (fun _ _ _ h => h) (Or.inl ⟨by rfl, ?_⟩) (by assumption) ?_; rotate_left
  · (intro w hSw; (try dsimp only at hSw); go_simp; try with_reducible rfl)
  try simp only [List.getElem_toArray, List.getElem_cons_zero, List.getElem_cons_succ, Act.put, List.setIfInBounds_toArray, List.set_cons_zero, List.set_cons_succ]
  refine wpAnyH_done (by kernel_rfl) ?_ _
  go_wp2
  go_ret
  exact ⟨rfl, gt hGx.out hg1112.out⟩
end Go.Proofs.Ytdphkpjamclhjaa.C19

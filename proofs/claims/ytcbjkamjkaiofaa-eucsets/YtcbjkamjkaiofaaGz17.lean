/- EBb17, EBc17, EB17, EL17, EQ17, EZ17, joined. -/
import Derived.Test.YtcbjkamjkaiofaaER17
import Derived.Test.YtcbjkamjkaiofaaCw
import Derived.Test.YtcbjkamjkaiofaaConvApp
import Derived.Test.YtcbjkamjkaiofaaRegion
import Derived.Deep.RegionHeld3
import Derived.BigQuiet
import Derived.Test.YtcbjkamjkaiofaaEBa17
import Derived.Test.YtcbjkamjkaiofaaEO17
import Derived.Test.YtcbjkamjkaiofaaEOs17
import Derived.Below
/- EucBack: walks, a way each. -/
namespace Go.Proofs.Ytcbjkamjkaiofaa.C17
open Go.ChangeShapes Go.WideShapes Go.ChangeAt Go.RowKit Go.Proofs.Ytcbjkamjkaiofaa.Mem Go.Proofs.Ytcbjkamjkaiofaa.Cb Go.Proofs.Ytcbjkamjkaiofaa.Sp
set_option linter.unusedVariables false
set_option linter.unusedSimpArgs false

set_option maxRecDepth 100000 in
set_option maxHeartbeats 1000000 in
theorem back_ok_more {P : World → Prop} (C : Con P) (u : Int) (a : Int) (r3 : Nat) (hr3 : wrap64 ((IntKind.u64.wrap a).tmod 3) = (r3 : Int)) (hr3l : r3 < 3) (k : Int) (hk : has k = true) (hkI : I64 k) (hcell : ∀ (w : World) (fr : Nat × Nat), (w.alloc (.cells #[.int .i64 81, .int .i64 84, .int .i64 86] 3 fr)).cell? ⟨w.heap.size, r3, none⟩ = some (.int .i64 k)) (ao : Option Addr) (cap : Nat) (L : List UInt8) (hu : I32 u) (bs : List UInt8) (hbl : bs.length ≤ 2) (hS : sE k u = (0, bs)) (hG : gE k L = (1, 0, 0, 0)) (w : World) (hw : P w) (hB : Bytes w ao L) (hLc : L.length ≤ cap) (hcm : cap ≤ 140737488351232) : Calls Try.prog 5 #[.int .i64 a, .int .i32 u, .slice ao L.length cap] w fun e w' => e = .returned (.bool true) ∧ w.grownBy w' none := by
  have a0 := Hid.mk' (fun w hw => works_any C w hw)
  have Kp := Hid.mk' (fun (a b : World) (h : P a) (g : a.grownBy b none) => C.keep h g)
  have hq := Hid.mk' hw
  have hcell0 := Hid.mk' hcell
  have hr30 : (0 : Int) ≤ (r3 : Int) := by omega
  have hr31 : (r3 : Int) < 3 := by omega
  have a1 := C.put k hkI u hu _ _ hS
  have a2 : Hid (∀ ao cap w, Bytes w ao (bs ++ L) → (bs ++ L).length ≤ cap → cap ≤ 9223372036854775807 → P w → Calls Try.prog 8 #[.int .i64 k, .slice ao (bs ++ L).length cap] w fun e w' => e = .returned (gV 0 (bs.length : Int) 1 u) ∧ w.grownBy w' none) := Hid.mk' (fun ao cap w h1 h2 h3 h4 => (C.got k hkI (bs ++ L) _ _ _ _ (back_plain hk hS L)).out _ rfl ao cap w h1 h2 h3 h4)
  have hsz : (str bs).size = bs.length := str_size _
  have hsd : (str bs).data.toList = bs := str_data _
  have huu : (u == u) = true := by simp
  have a3 := C.got k hkI L _ _ _ _ hG
  obtain ⟨i0, hi, hz0, hz1, hz2⟩ := info_parts info5
  have HB : Hid (Bytes w ao L) := Hid.mk' hB
  have hLl : L.length ≤ 140737488351232 := by omega
  generalize str bs = s at *
  obtain ⟨n, hn⟩ : ∃ n, bs.length = n := ⟨_, rfl⟩
  have hn0 := Hid.mk' hn
  have hsd0 := Hid.mk' hsd
  rw [hn] at hsz a2 hbl
  have hsz0 := Hid.mk' hsz
  clear hn hsd
  clear hw C hu hS hG hB hk hkI hcell
  go_enter Try.func5, Try.ntmps5
  go_upto_region 4 with (go_at_call 14; refine (a0.out _ hq.out).mono ?_; rintro e w1 ⟨rfl, hg1, hp1⟩; have hq1 := Hid.mk' hp1)
  have hc3 := hcell0.out w1 (0, 0)
  have hG0 : Hid (w.grownBy (w1.alloc (.cells #[.int .i64 81, .int .i64 84, .int .i64 86] 3)) none) := Hid.mk' (gt hg1 (World.grownBy_alloc _ _ _))
  have hq2 : Hid (P (w1.alloc (.cells #[.int .i64 81, .int .i64 84, .int .i64 86] 3))) := Hid.mk' (Kp.out _ _ hq1.out (World.grownBy_alloc _ _ _))
  clear hg1 hp1 hq1 hcell0 a0 hq
  go_upto_region 5 with (fail)
  clear hr3 hc3
  generalize w1.alloc (.cells #[.int .i64 81, .int .i64 84, .int .i64 86] 3) = w2 at *
  generalize w1.heap.size = LB at *
  go_upto_region 6 with (first
    | (go_at_call 12; refine (a1.out _ hq2.out).mono ?_; rintro e w3 ⟨rfl, hg3⟩)
    | (refine wpList_allocC _ rfl 33 rfl (pZ 0 ⟨#[]⟩) (zeroP _) ?_; intro w4 p4 hg4)
    | (refine wpList_storeC _ rfl 33 _ _ rfl _ (pZ 0 ⟨#[]⟩) (pZ 0 s) infoP rfl (pC_one _ _ _ _ _ _) rfl rfl p4 ?_; intro w5 p5 hg5))
  have hG5 : Hid (w2.grownBy w5 none) := Hid.mk' (grownBy_new (gt hg3 hg4) hg5 (fun k hk => by have h5 := Option.some.inj hk; have h6 := hg3.size; omega))
  have hGw : Hid (w.grownBy w5 none) := Hid.mk' (gt hG0.out hG5.out)
  have hq5 := Hid.mk' (Kp.out _ _ hq2.out hG5.out)
  clear hg3 hg4 hg5 p4 hq2 hG0 hG5 a1
  generalize w3.heap.size = PB at *
  have HB5 : Hid (Bytes w5 ao L) := Hid.mk' (HB.out.kept0 hGw.out)
  have hcl : Hid (∀ wx, w5.grownBy wx none → (fun w' => w'.cell? ⟨PB, 0, none⟩ = some (.int .i64 0) ∧ w'.cell? ⟨PB, 1, none⟩ = some (.string s)) wx) := Hid.mk' (fun wx hg => ⟨(p5.kept0 hg).cell 0 rfl, (p5.kept0 hg).cell 1 rfl⟩)
  obtain ⟨c6, w6, hcvt, hE6, hg6⟩ := conv_own (P := Try.prog) w5.drew 9 22 s Try.underlying9 Try.underlying22 Try.underlying5 (by have := hsz0.out; omega)
  rw [hsd0.out] at hcvt hE6
  have hg56 : Hid (w5.grownBy w6 none) := Hid.mk' (grownBy_of_drew hg6)
  obtain ⟨ao7, c7, w7, hrun, hB7, hg7, hq71, hq72⟩ := run_append_EC (P := Try.prog) w6 22 22 22 i0 Try.underlying22 hi hz0 hz1 hz2 w5.drew.heap.size c6 bs hE6 (.slice ao L.length cap) L (src_of (HB5.out.kept0 hg56.out) 22 cap Try.underlying22) (by have := hn0.out; omega)
  have hg57 : Hid (w5.grownBy w7 none) := Hid.mk' (grownBy_new hg56.out hg7 (fun g e => by have h5 := Option.some.inj e; have h6 : w5.drew.heap.size = w5.heap.size := rfl; omega))
  replace hq72 : c7 ≤ 9223372036854775807 := hq72
  obtain ⟨M, hM⟩ : ∃ M, bs ++ L = M := ⟨_, rfl⟩
  rw [hM] at a2 hrun hB7 hq71
  clear hM
  rw [hn0.out] at hcvt hrun
  have hS0 := hcl.out _ (grownBy_drew (grownBy_refl w5 none))
  have hB70 := Hid.mk' hB7
  clear hE6 hg6 hg7 hB7 p5 hn0 hsd0
  refine wp_region_held_drew (S := fun w' => w'.cell? ⟨PB, 0, none⟩ = some (.int .i64 0) ∧ w'.cell? ⟨PB, 1, none⟩ = some (.string s)) (by kernel_rfl) hS0 (fun hHeld => ?_)
  refine wpAnyH_take (i := 0) (v := ?_) rfl (by kernel_rfl) (by kernel_rfl) (by kernel_rfl) (fun _ _ _ h => h) (Or.inl ⟨by rfl, ?_⟩) (by assumption) ?_; rotate_left
  · (intro w hSw; (try dsimp only at hSw); go_simp; try with_reducible rfl)
  try simp only [List.getElem_toArray, List.getElem_cons_zero, Act.put, List.setIfInBounds_toArray, List.set_cons_zero, List.set_cons_succ]
  refine wpAnyH_take (i := 1) (v := ?_) rfl (by kernel_rfl) (by kernel_rfl) (by kernel_rfl) (fun _ _ _ h => h) (Or.inl ⟨by rfl, ?_⟩) (by assumption) ?_; rotate_left
  · (intro w hSw; (try dsimp only at hSw); go_simp; try with_reducible rfl)
  try simp only [List.getElem_toArray, List.getElem_cons_zero, List.getElem_cons_succ, Act.put, List.setIfInBounds_toArray, List.set_cons_zero, List.set_cons_succ]
  refine wpAnyH_take (i := 2) (v := ?_) rfl (by kernel_rfl) (by kernel_rfl) (by kernel_rfl) (fun _ _ _ h => h) (Or.inl ⟨by rfl, ?_⟩) (by assumption) ?_; rotate_left
  · (intro w hSw; (try dsimp only at hSw); go_simp; try with_reducible rfl)
  try simp only [List.getElem_toArray, List.getElem_cons_zero, List.getElem_cons_succ, Act.put, List.setIfInBounds_toArray, List.set_cons_zero, List.set_cons_succ]
  refine wpAnyH_take (i := 3) (v := ?_) rfl (by kernel_rfl) (by kernel_rfl) (by kernel_rfl) (fun _ _ _ h => h) (Or.inl ⟨by rfl, ?_⟩) (by assumption) ?_; rotate_left
  · (intro w hSw; (try dsimp only at hSw); go_simp; try with_reducible rfl)
  try simp only [List.getElem_toArray, List.getElem_cons_zero, List.getElem_cons_succ, Act.put, List.setIfInBounds_toArray, List.set_cons_zero, List.set_cons_succ]
  refine wpAnyH_take (i := 4) (v := ?_) rfl (by kernel_rfl) (by kernel_rfl) (by kernel_rfl) (fun _ _ _ h => h) (Or.inl ⟨by rfl, ?_⟩) (by assumption) ?_; rotate_left
  · (intro w hSw; (try dsimp only at hSw); go_simp; try with_reducible rfl)
  try simp only [List.getElem_toArray, List.getElem_cons_zero, List.getElem_cons_succ, Act.put, List.setIfInBounds_toArray, List.set_cons_zero, List.set_cons_succ]
  refine wpAnyH_take (i := 5) (v := ?_) rfl (by kernel_rfl) (by kernel_rfl) (by kernel_rfl) (fun _ _ _ h => h) (Or.inl ⟨by rfl, ?_⟩) (by assumption) ?_; rotate_left
  · (intro w hSw; (try dsimp only at hSw); go_simp; try with_reducible rfl)
  try simp only [List.getElem_toArray, List.getElem_cons_zero, List.getElem_cons_succ, Act.put, List.setIfInBounds_toArray, List.set_cons_zero, List.set_cons_succ]
  refine wpAnyH_take (i := 6) (v := ?_) rfl (by kernel_rfl) (by kernel_rfl) (by kernel_rfl) (fun _ _ _ h => h) (Or.inl ⟨by rfl, ?_⟩) (by assumption) ?_; rotate_left
  · (intro w hSw; (try dsimp only at hSw); go_simp; try with_reducible rfl)
  try simp only [List.getElem_toArray, List.getElem_cons_zero, List.getElem_cons_succ, Act.put, List.setIfInBounds_toArray, List.set_cons_zero, List.set_cons_succ]
  refine wpAnyH_take (i := 8) (v := ?_) rfl (by kernel_rfl) (by kernel_rfl) (by kernel_rfl) (fun _ _ _ h => h) (Or.inl ⟨by rfl, ?_⟩) (by assumption) ?_; rotate_left
  · (intro w hSw; (try dsimp only at hSw); go_simp; try with_reducible rfl)
  try simp only [List.getElem_toArray, List.getElem_cons_zero, List.getElem_cons_succ, Act.put, List.setIfInBounds_toArray, List.set_cons_zero, List.set_cons_succ]
  refine wpAnyH_take (i := 11) (v := ?_) rfl (by kernel_rfl) (by kernel_rfl) (by kernel_rfl) (fun _ _ _ h => h) (Or.inl ⟨by rfl, ?_⟩) (by assumption) ?_; rotate_left
  · (intro w hSw; (try dsimp only at hSw); go_simp; try with_reducible rfl)
  try simp only [List.getElem_toArray, List.getElem_cons_zero, List.getElem_cons_succ, Act.put, List.setIfInBounds_toArray, List.set_cons_zero, List.set_cons_succ]
  refine wpAnyH_take (i := 12) (v := ?_) rfl (by kernel_rfl) (by kernel_rfl) (by kernel_rfl) (fun _ _ _ h => h) (Or.inl ⟨by rfl, ?_⟩) (by assumption) ?_; rotate_left
  · (intro w hSw; (try dsimp only at hSw); go_simp; try with_reducible rfl)
  try simp only [List.getElem_toArray, List.getElem_cons_zero, List.getElem_cons_succ, Act.put, List.setIfInBounds_toArray, List.set_cons_zero, List.set_cons_succ]
  refine wpAnyH_take (i := 13) (v := ?_) rfl (by kernel_rfl) (by kernel_rfl) (by kernel_rfl) (fun _ _ _ h => h) (Or.inl ⟨by rfl, ?_⟩) (by assumption) ?_; rotate_left
  · (intro w hSw; (try dsimp only at hSw); go_simp; try with_reducible rfl)
  try simp only [List.getElem_toArray, List.getElem_cons_zero, List.getElem_cons_succ, Act.put, List.setIfInBounds_toArray, List.set_cons_zero, List.set_cons_succ]
  refine wpAnyH_take (i := 14) (v := ?_) rfl (by kernel_rfl) (by kernel_rfl) (by kernel_rfl) (fun _ _ _ h => h) (Or.inl ⟨by rfl, ?_⟩) (by assumption) ?_; rotate_left
  · (intro w hSw; (try dsimp only at hSw); go_simp; try with_reducible rfl)
  try simp only [List.getElem_toArray, List.getElem_cons_zero, List.getElem_cons_succ, Act.put, List.setIfInBounds_toArray, List.set_cons_zero, List.set_cons_succ]
  refine wpAnyH_take (i := 15) (v := ?_) rfl (by kernel_rfl) (by kernel_rfl) (by kernel_rfl) (fun _ _ _ h => h) (Or.inl ⟨by rfl, ?_⟩) (by assumption) ?_; rotate_left
  · (intro w hSw; (try dsimp only at hSw); go_simp; try with_reducible rfl)
  try simp only [List.getElem_toArray, List.getElem_cons_zero, List.getElem_cons_succ, Act.put, List.setIfInBounds_toArray, List.set_cons_zero, List.set_cons_succ]
  refine wpAnyH_ready (rs := [7]) (by kernel_rfl) (by simp) ?_
  refine AllReadyH.cons rfl (fun K hK => ?_) AllReadyH.nil
  refine step_run (by rfl) (exec_convert _ _ _ (by rfl) (by simp [Act.eval]) hcvt) ?_
  refine hK.out _ _ (hcl.out _ hg56.out) (fun hHeld => ?_)
  clear hK K
  try simp only [List.getElem_toArray, List.getElem_cons_zero, List.getElem_cons_succ, Act.put, List.setIfInBounds_toArray, List.set_cons_zero, List.set_cons_succ]
  refine wpAnyH_ready (rs := [9]) (by kernel_rfl) (by simp) ?_
  refine AllReadyH.cons rfl (fun K hK => ?_) AllReadyH.nil
  refine step_run (by rfl) (exec_append _ _ _ _ (by rfl) (by simp [Act.eval]) (by simp [Act.eval]) hrun) ?_
  refine hK.out _ _ (hcl.out _ hg57.out) (fun hHeld => ?_)
  clear hK K
  try simp only [List.getElem_toArray, List.getElem_cons_zero, List.getElem_cons_succ, Act.put, List.setIfInBounds_toArray, List.set_cons_zero, List.set_cons_succ]
  refine wpAnyH_ready (rs := [10]) (by kernel_rfl) (by simp) ?_
  refine AllReadyH.cons rfl (fun K hK => ?_) AllReadyH.nil
  go_simp
  refine (a2.out ao7 c7 _ hB70.out hq71 hq72 (Kp.out _ _ hq5.out hg57.out)).mono ?_; rintro e w8 ⟨rfl, hg8⟩; have hg58 : Hid (w5.grownBy w8 none) := Hid.mk' (gt hg57.out hg8); try dsimp only
  refine hK.out _ _ (hcl.out _ hg58.out) (fun hHeld => ?_)
  clear hK K
  try simp only [List.getElem_toArray, List.getElem_cons_zero, List.getElem_cons_succ, Act.put, List.setIfInBounds_toArray, List.set_cons_zero, List.set_cons_succ]
  refine wpAnyH_take (i := 16) (v := ?_) rfl (by kernel_rfl) (by kernel_rfl) (by kernel_rfl) (fun _ _ _ h => h) (Or.inl ⟨by rfl, ?_⟩) (by assumption) ?_; rotate_left
  · (intro w hSw; (try dsimp only at hSw); go_simp; try with_reducible rfl)
  try simp only [List.getElem_toArray, List.getElem_cons_zero, List.getElem_cons_succ, Act.put, List.setIfInBounds_toArray, List.set_cons_zero, List.set_cons_succ]
  refine wpAnyH_take (i := 17) (v := ?_) rfl (by kernel_rfl) (by kernel_rfl) (by kernel_rfl) (fun _ _ _ h => h) (Or.inl ⟨by rfl, ?_⟩) (by assumption) ?_; rotate_left
  · (intro w hSw; (try dsimp only at hSw); go_simp; try with_reducible rfl)
  try simp only [List.getElem_toArray, List.getElem_cons_zero, List.getElem_cons_succ, Act.put, List.setIfInBounds_toArray, List.set_cons_zero, List.set_cons_succ]
  refine wpAnyH_done (by kernel_rfl) ?_ _
  have hG8 : Hid (w.grownBy w8 none) := Hid.mk' (gt hGw.out hg58.out)
  have hq8 := Hid.mk' (Kp.out _ _ hq5.out hg58.out)
  have HB8 : Hid (Bytes w8 ao L) := Hid.mk' (HB5.out.kept0 hg58.out)
  clear hg56 hg57 hg58 hg8 hcvt hrun hB70 hq71 hq72 a2 hGw hq5 HB5 hcl hS0 hHeld
  go_upto_region 9 with (first
    | (go_at_call 8; refine (a3.out _ rfl ao cap _ HB8.out hLc (by omega) hq8.out).mono ?_; rintro e w9 ⟨rfl, hg9⟩)
    | (refine wpList_allocC _ rfl 28 rfl (gZ 0 0 0 0) (zeroG _) ?_; intro w10 g10 hg10)
    | (refine wpList_storeC _ rfl 28 _ _ rfl _ (gZ 0 0 0 0) (gZ 1 0 0 0) infoG rfl (gC_one _ _ _ _ _ _ _ _ _) rfl rfl g10 ?_; intro w11 g11 hg11))
  have hG11 : Hid (w8.grownBy w11 none) := Hid.mk' (grownBy_new (gt hg9 hg10) hg11 (fun k hk => by have h5 := Option.some.inj hk; have h6 := hg9.size; omega))
  have hGx : Hid (w.grownBy w11 none) := Hid.mk' (gt hG8.out hG11.out)
  have hq11 := Hid.mk' (Kp.out _ _ hq8.out hG11.out)
  clear hg9 hg10 hg11 g10 a3 hG8 hq8 HB8 hG11
  generalize w9.heap.size = GB at *
  have z0 := g11.cell 0 (v := .int .i64 1) rfl
  have z1 := g11.cell 1 (v := .int .i64 0) rfl
  go_wp2
  go_ret
  exact ⟨rfl, hGx.out⟩
set_option maxRecDepth 100000 in
set_option maxHeartbeats 1000000 in
theorem back_ok_ill {P : World → Prop} (C : Con P) (u : Int) (a : Int) (r3 : Nat) (hr3 : wrap64 ((IntKind.u64.wrap a).tmod 3) = (r3 : Int)) (hr3l : r3 < 3) (k : Int) (hk : has k = true) (hkI : I64 k) (hcell : ∀ (w : World) (fr : Nat × Nat), (w.alloc (.cells #[.int .i64 81, .int .i64 84, .int .i64 86] 3 fr)).cell? ⟨w.heap.size, r3, none⟩ = some (.int .i64 k)) (ao : Option Addr) (cap : Nat) (L : List UInt8) (hu : I32 u) (bs : List UInt8) (hbl : bs.length ≤ 2) (hS : sE k u = (0, bs)) (m : Nat) (hG : gE k L = (10, (m : Int), 0, 0)) (hm1 : 1 ≤ m) (hm2 : m ≤ 2) (hm3 : m ≤ L.length) (w : World) (hw : P w) (hB : Bytes w ao L) (hLc : L.length ≤ cap) (hcm : cap ≤ 140737488351232) : Calls Try.prog 5 #[.int .i64 a, .int .i32 u, .slice ao L.length cap] w fun e w' => e = .returned (.bool true) ∧ w.grownBy w' none := by
  have a0 := Hid.mk' (fun w hw => works_any C w hw)
  have Kp := Hid.mk' (fun (a b : World) (h : P a) (g : a.grownBy b none) => C.keep h g)
  have hq := Hid.mk' hw
  have hcell0 := Hid.mk' hcell
  have hr30 : (0 : Int) ≤ (r3 : Int) := by omega
  have hr31 : (r3 : Int) < 3 := by omega
  have a1 := C.put k hkI u hu _ _ hS
  have a2 : Hid (∀ ao cap w, Bytes w ao (bs ++ L) → (bs ++ L).length ≤ cap → cap ≤ 9223372036854775807 → P w → Calls Try.prog 8 #[.int .i64 k, .slice ao (bs ++ L).length cap] w fun e w' => e = .returned (gV 0 (bs.length : Int) 1 u) ∧ w.grownBy w' none) := Hid.mk' (fun ao cap w h1 h2 h3 h4 => (C.got k hkI (bs ++ L) _ _ _ _ (back_plain hk hS L)).out _ rfl ao cap w h1 h2 h3 h4)
  have hsz : (str bs).size = bs.length := str_size _
  have hsd : (str bs).data.toList = bs := str_data _
  have huu : (u == u) = true := by simp
  have a3 := C.got k hkI L _ _ _ _ hG
  have hm1' : (1 : Int) ≤ (m : Int) := by omega
  have hm2' : (m : Int) ≤ 2 := by omega
  have hm3' : (m : Int) ≤ (L.length : Int) := by omega
  obtain ⟨i0, hi, hz0, hz1, hz2⟩ := info_parts info5
  have HB : Hid (Bytes w ao L) := Hid.mk' hB
  have hLl : L.length ≤ 140737488351232 := by omega
  generalize str bs = s at *
  obtain ⟨n, hn⟩ : ∃ n, bs.length = n := ⟨_, rfl⟩
  have hn0 := Hid.mk' hn
  have hsd0 := Hid.mk' hsd
  rw [hn] at hsz a2 hbl
  have hsz0 := Hid.mk' hsz
  clear hn hsd
  clear hw C hu hS hG hB hk hkI hcell hm1 hm2 hm3
  go_enter Try.func5, Try.ntmps5
  go_upto_region 4 with (go_at_call 14; refine (a0.out _ hq.out).mono ?_; rintro e w1 ⟨rfl, hg1, hp1⟩; have hq1 := Hid.mk' hp1)
  have hc3 := hcell0.out w1 (0, 0)
  have hG0 : Hid (w.grownBy (w1.alloc (.cells #[.int .i64 81, .int .i64 84, .int .i64 86] 3)) none) := Hid.mk' (gt hg1 (World.grownBy_alloc _ _ _))
  have hq2 : Hid (P (w1.alloc (.cells #[.int .i64 81, .int .i64 84, .int .i64 86] 3))) := Hid.mk' (Kp.out _ _ hq1.out (World.grownBy_alloc _ _ _))
  clear hg1 hp1 hq1 hcell0 a0 hq
  go_upto_region 5 with (fail)
  clear hr3 hc3
  generalize w1.alloc (.cells #[.int .i64 81, .int .i64 84, .int .i64 86] 3) = w2 at *
  generalize w1.heap.size = LB at *
  go_upto_region 6 with (first
    | (go_at_call 12; refine (a1.out _ hq2.out).mono ?_; rintro e w3 ⟨rfl, hg3⟩)
    | (refine wpList_allocC _ rfl 33 rfl (pZ 0 ⟨#[]⟩) (zeroP _) ?_; intro w4 p4 hg4)
    | (refine wpList_storeC _ rfl 33 _ _ rfl _ (pZ 0 ⟨#[]⟩) (pZ 0 s) infoP rfl (pC_one _ _ _ _ _ _) rfl rfl p4 ?_; intro w5 p5 hg5))
  have hG5 : Hid (w2.grownBy w5 none) := Hid.mk' (grownBy_new (gt hg3 hg4) hg5 (fun k hk => by have h5 := Option.some.inj hk; have h6 := hg3.size; omega))
  have hGw : Hid (w.grownBy w5 none) := Hid.mk' (gt hG0.out hG5.out)
  have hq5 := Hid.mk' (Kp.out _ _ hq2.out hG5.out)
  clear hg3 hg4 hg5 p4 hq2 hG0 hG5 a1
  generalize w3.heap.size = PB at *
  have HB5 : Hid (Bytes w5 ao L) := Hid.mk' (HB.out.kept0 hGw.out)
  have hcl : Hid (∀ wx, w5.grownBy wx none → (fun w' => w'.cell? ⟨PB, 0, none⟩ = some (.int .i64 0) ∧ w'.cell? ⟨PB, 1, none⟩ = some (.string s)) wx) := Hid.mk' (fun wx hg => ⟨(p5.kept0 hg).cell 0 rfl, (p5.kept0 hg).cell 1 rfl⟩)
  obtain ⟨c6, w6, hcvt, hE6, hg6⟩ := conv_own (P := Try.prog) w5.drew 9 22 s Try.underlying9 Try.underlying22 Try.underlying5 (by have := hsz0.out; omega)
  rw [hsd0.out] at hcvt hE6
  have hg56 : Hid (w5.grownBy w6 none) := Hid.mk' (grownBy_of_drew hg6)
  obtain ⟨ao7, c7, w7, hrun, hB7, hg7, hq71, hq72⟩ := run_append_EC (P := Try.prog) w6 22 22 22 i0 Try.underlying22 hi hz0 hz1 hz2 w5.drew.heap.size c6 bs hE6 (.slice ao L.length cap) L (src_of (HB5.out.kept0 hg56.out) 22 cap Try.underlying22) (by have := hn0.out; omega)
  have hg57 : Hid (w5.grownBy w7 none) := Hid.mk' (grownBy_new hg56.out hg7 (fun g e => by have h5 := Option.some.inj e; have h6 : w5.drew.heap.size = w5.heap.size := rfl; omega))
  replace hq72 : c7 ≤ 9223372036854775807 := hq72
  obtain ⟨M, hM⟩ : ∃ M, bs ++ L = M := ⟨_, rfl⟩
  rw [hM] at a2 hrun hB7 hq71
  clear hM
  rw [hn0.out] at hcvt hrun
  have hS0 := hcl.out _ (grownBy_drew (grownBy_refl w5 none))
  have hB70 := Hid.mk' hB7
  clear hE6 hg6 hg7 hB7 p5 hn0 hsd0
  refine wp_region_held_drew (S := fun w' => w'.cell? ⟨PB, 0, none⟩ = some (.int .i64 0) ∧ w'.cell? ⟨PB, 1, none⟩ = some (.string s)) (by kernel_rfl) hS0 (fun hHeld => ?_)
  refine wpAnyH_take (i := 0) (v := ?_) rfl (by kernel_rfl) (by kernel_rfl) (by kernel_rfl) (fun _ _ _ h => h) (Or.inl ⟨by rfl, ?_⟩) (by assumption) ?_; rotate_left
  · (intro w hSw; (try dsimp only at hSw); go_simp; try with_reducible rfl)
  try simp only [List.getElem_toArray, List.getElem_cons_zero, Act.put, List.setIfInBounds_toArray, List.set_cons_zero, List.set_cons_succ]
  refine wpAnyH_take (i := 1) (v := ?_) rfl (by kernel_rfl) (by kernel_rfl) (by kernel_rfl) (fun _ _ _ h => h) (Or.inl ⟨by rfl, ?_⟩) (by assumption) ?_; rotate_left
  · (intro w hSw; (try dsimp only at hSw); go_simp; try with_reducible rfl)
  try simp only [List.getElem_toArray, List.getElem_cons_zero, List.getElem_cons_succ, Act.put, List.setIfInBounds_toArray, List.set_cons_zero, List.set_cons_succ]
  refine wpAnyH_take (i := 2) (v := ?_) rfl (by kernel_rfl) (by kernel_rfl) (by kernel_rfl) (fun _ _ _ h => h) (Or.inl ⟨by rfl, ?_⟩) (by assumption) ?_; rotate_left
  · (intro w hSw; (try dsimp only at hSw); go_simp; try with_reducible rfl)
  try simp only [List.getElem_toArray, List.getElem_cons_zero, List.getElem_cons_succ, Act.put, List.setIfInBounds_toArray, List.set_cons_zero, List.set_cons_succ]
  refine wpAnyH_take (i := 3) (v := ?_) rfl (by kernel_rfl) (by kernel_rfl) (by kernel_rfl) (fun _ _ _ h => h) (Or.inl ⟨by rfl, ?_⟩) (by assumption) ?_; rotate_left
  · (intro w hSw; (try dsimp only at hSw); go_simp; try with_reducible rfl)
  try simp only [List.getElem_toArray, List.getElem_cons_zero, List.getElem_cons_succ, Act.put, List.setIfInBounds_toArray, List.set_cons_zero, List.set_cons_succ]
  refine wpAnyH_take (i := 4) (v := ?_) rfl (by kernel_rfl) (by kernel_rfl) (by kernel_rfl) (fun _ _ _ h => h) (Or.inl ⟨by rfl, ?_⟩) (by assumption) ?_; rotate_left
  · (intro w hSw; (try dsimp only at hSw); go_simp; try with_reducible rfl)
  try simp only [List.getElem_toArray, List.getElem_cons_zero, List.getElem_cons_succ, Act.put, List.setIfInBounds_toArray, List.set_cons_zero, List.set_cons_succ]
  refine wpAnyH_take (i := 5) (v := ?_) rfl (by kernel_rfl) (by kernel_rfl) (by kernel_rfl) (fun _ _ _ h => h) (Or.inl ⟨by rfl, ?_⟩) (by assumption) ?_; rotate_left
  · (intro w hSw; (try dsimp only at hSw); go_simp; try with_reducible rfl)
  try simp only [List.getElem_toArray, List.getElem_cons_zero, List.getElem_cons_succ, Act.put, List.setIfInBounds_toArray, List.set_cons_zero, List.set_cons_succ]
  refine wpAnyH_take (i := 6) (v := ?_) rfl (by kernel_rfl) (by kernel_rfl) (by kernel_rfl) (fun _ _ _ h => h) (Or.inl ⟨by rfl, ?_⟩) (by assumption) ?_; rotate_left
  · (intro w hSw; (try dsimp only at hSw); go_simp; try with_reducible rfl)
  try simp only [List.getElem_toArray, List.getElem_cons_zero, List.getElem_cons_succ, Act.put, List.setIfInBounds_toArray, List.set_cons_zero, List.set_cons_succ]
  refine wpAnyH_take (i := 8) (v := ?_) rfl (by kernel_rfl) (by kernel_rfl) (by kernel_rfl) (fun _ _ _ h => h) (Or.inl ⟨by rfl, ?_⟩) (by assumption) ?_; rotate_left
  · (intro w hSw; (try dsimp only at hSw); go_simp; try with_reducible rfl)
  try simp only [List.getElem_toArray, List.getElem_cons_zero, List.getElem_cons_succ, Act.put, List.setIfInBounds_toArray, List.set_cons_zero, List.set_cons_succ]
  refine wpAnyH_take (i := 11) (v := ?_) rfl (by kernel_rfl) (by kernel_rfl) (by kernel_rfl) (fun _ _ _ h => h) (Or.inl ⟨by rfl, ?_⟩) (by assumption) ?_; rotate_left
  · (intro w hSw; (try dsimp only at hSw); go_simp; try with_reducible rfl)
  try simp only [List.getElem_toArray, List.getElem_cons_zero, List.getElem_cons_succ, Act.put, List.setIfInBounds_toArray, List.set_cons_zero, List.set_cons_succ]
  refine wpAnyH_take (i := 12) (v := ?_) rfl (by kernel_rfl) (by kernel_rfl) (by kernel_rfl) (fun _ _ _ h => h) (Or.inl ⟨by rfl, ?_⟩) (by assumption) ?_; rotate_left
  · (intro w hSw; (try dsimp only at hSw); go_simp; try with_reducible rfl)
  try simp only [List.getElem_toArray, List.getElem_cons_zero, List.getElem_cons_succ, Act.put, List.setIfInBounds_toArray, List.set_cons_zero, List.set_cons_succ]
  refine wpAnyH_take (i := 13) (v := ?_) rfl (by kernel_rfl) (by kernel_rfl) (by kernel_rfl) (fun _ _ _ h => h) (Or.inl ⟨by rfl, ?_⟩) (by assumption) ?_; rotate_left
  · (intro w hSw; (try dsimp only at hSw); go_simp; try with_reducible rfl)
  try simp only [List.getElem_toArray, List.getElem_cons_zero, List.getElem_cons_succ, Act.put, List.setIfInBounds_toArray, List.set_cons_zero, List.set_cons_succ]
  refine wpAnyH_take (i := 14) (v := ?_) rfl (by kernel_rfl) (by kernel_rfl) (by kernel_rfl) (fun _ _ _ h => h) (Or.inl ⟨by rfl, ?_⟩) (by assumption) ?_; rotate_left
  · (intro w hSw; (try dsimp only at hSw); go_simp; try with_reducible rfl)
  try simp only [List.getElem_toArray, List.getElem_cons_zero, List.getElem_cons_succ, Act.put, List.setIfInBounds_toArray, List.set_cons_zero, List.set_cons_succ]
  refine wpAnyH_take (i := 15) (v := ?_) rfl (by kernel_rfl) (by kernel_rfl) (by kernel_rfl) (fun _ _ _ h => h) (Or.inl ⟨by rfl, ?_⟩) (by assumption) ?_; rotate_left
  · (intro w hSw; (try dsimp only at hSw); go_simp; try with_reducible rfl)
  try simp only [List.getElem_toArray, List.getElem_cons_zero, List.getElem_cons_succ, Act.put, List.setIfInBounds_toArray, List.set_cons_zero, List.set_cons_succ]
  refine wpAnyH_ready (rs := [7]) (by kernel_rfl) (by simp) ?_
  refine AllReadyH.cons rfl (fun K hK => ?_) AllReadyH.nil
  refine step_run (by rfl) (exec_convert _ _ _ (by rfl) (by simp [Act.eval]) hcvt) ?_
  refine hK.out _ _ (hcl.out _ hg56.out) (fun hHeld => ?_)
  clear hK K
  try simp only [List.getElem_toArray, List.getElem_cons_zero, List.getElem_cons_succ, Act.put, List.setIfInBounds_toArray, List.set_cons_zero, List.set_cons_succ]
  refine wpAnyH_ready (rs := [9]) (by kernel_rfl) (by simp) ?_
  refine AllReadyH.cons rfl (fun K hK => ?_) AllReadyH.nil
  refine step_run (by rfl) (exec_append _ _ _ _ (by rfl) (by simp [Act.eval]) (by simp [Act.eval]) hrun) ?_
  refine hK.out _ _ (hcl.out _ hg57.out) (fun hHeld => ?_)
  clear hK K
  try simp only [List.getElem_toArray, List.getElem_cons_zero, List.getElem_cons_succ, Act.put, List.setIfInBounds_toArray, List.set_cons_zero, List.set_cons_succ]
  refine wpAnyH_ready (rs := [10]) (by kernel_rfl) (by simp) ?_
  refine AllReadyH.cons rfl (fun K hK => ?_) AllReadyH.nil
  go_simp
  refine (a2.out ao7 c7 _ hB70.out hq71 hq72 (Kp.out _ _ hq5.out hg57.out)).mono ?_; rintro e w8 ⟨rfl, hg8⟩; have hg58 : Hid (w5.grownBy w8 none) := Hid.mk' (gt hg57.out hg8); try dsimp only
  refine hK.out _ _ (hcl.out _ hg58.out) (fun hHeld => ?_)
  clear hK K
  try simp only [List.getElem_toArray, List.getElem_cons_zero, List.getElem_cons_succ, Act.put, List.setIfInBounds_toArray, List.set_cons_zero, List.set_cons_succ]
  refine wpAnyH_take (i := 16) (v := ?_) rfl (by kernel_rfl) (by kernel_rfl) (by kernel_rfl) (fun _ _ _ h => h) (Or.inl ⟨by rfl, ?_⟩) (by assumption) ?_; rotate_left
  · (intro w hSw; (try dsimp only at hSw); go_simp; try with_reducible rfl)
  try simp only [List.getElem_toArray, List.getElem_cons_zero, List.getElem_cons_succ, Act.put, List.setIfInBounds_toArray, List.set_cons_zero, List.set_cons_succ]
  refine wpAnyH_take (i := 17) (v := ?_) rfl (by kernel_rfl) (by kernel_rfl) (by kernel_rfl) (fun _ _ _ h => h) (Or.inl ⟨by rfl, ?_⟩) (by assumption) ?_; rotate_left
  · (intro w hSw; (try dsimp only at hSw); go_simp; try with_reducible rfl)
  try simp only [List.getElem_toArray, List.getElem_cons_zero, List.getElem_cons_succ, Act.put, List.setIfInBounds_toArray, List.set_cons_zero, List.set_cons_succ]
  refine wpAnyH_done (by kernel_rfl) ?_ _
  have hG8 : Hid (w.grownBy w8 none) := Hid.mk' (gt hGw.out hg58.out)
  have hq8 := Hid.mk' (Kp.out _ _ hq5.out hg58.out)
  have HB8 : Hid (Bytes w8 ao L) := Hid.mk' (HB5.out.kept0 hg58.out)
  clear hg56 hg57 hg58 hg8 hcvt hrun hB70 hq71 hq72 a2 hGw hq5 HB5 hcl hS0 hHeld
  go_upto_region 9 with (first
    | (go_at_call 8; refine (a3.out _ rfl ao cap _ HB8.out hLc (by omega) hq8.out).mono ?_; rintro e w9 ⟨rfl, hg9⟩)
    | (refine wpList_allocC _ rfl 28 rfl (gZ 0 0 0 0) (zeroG _) ?_; intro w10 g10 hg10)
    | (refine wpList_storeC _ rfl 28 _ _ rfl _ (gZ 0 0 0 0) (gZ 10 (m : Int) 0 0) infoG rfl (gC_one _ _ _ _ _ _ _ _ _) rfl rfl g10 ?_; intro w11 g11 hg11))
  have hG11 : Hid (w8.grownBy w11 none) := Hid.mk' (grownBy_new (gt hg9 hg10) hg11 (fun k hk => by have h5 := Option.some.inj hk; have h6 := hg9.size; omega))
  have hGx : Hid (w.grownBy w11 none) := Hid.mk' (gt hG8.out hG11.out)
  have hq11 := Hid.mk' (Kp.out _ _ hq8.out hG11.out)
  clear hg9 hg10 hg11 g10 a3 hG8 hq8 HB8 hG11
  generalize w9.heap.size = GB at *
  have z0 := g11.cell 0 (v := .int .i64 10) rfl
  have z1 := g11.cell 1 (v := .int .i64 (m : Int)) rfl
  go_wp2
  go_ret
  exact ⟨rfl, hGx.out⟩
end Go.Proofs.Ytcbjkamjkaiofaa.C17

/- EucBack: walks, a way each. -/
namespace Go.Proofs.Ytcbjkamjkaiofaa.C17
open Go.ChangeShapes Go.WideShapes Go.ChangeAt Go.RowKit Go.Proofs.Ytcbjkamjkaiofaa.Mem Go.Proofs.Ytcbjkamjkaiofaa.Cb Go.Proofs.Ytcbjkamjkaiofaa.Sp
set_option linter.unusedVariables false
set_option linter.unusedSimpArgs false

set_option maxRecDepth 100000 in
set_option maxHeartbeats 1000000 in
theorem back_ok_ok {P : World → Prop} (C : Con P) (u : Int) (a : Int) (r3 : Nat) (hr3 : wrap64 ((IntKind.u64.wrap a).tmod 3) = (r3 : Int)) (hr3l : r3 < 3) (k : Int) (hk : has k = true) (hkI : I64 k) (hcell : ∀ (w : World) (fr : Nat × Nat), (w.alloc (.cells #[.int .i64 81, .int .i64 84, .int .i64 86] 3 fr)).cell? ⟨w.heap.size, r3, none⟩ = some (.int .i64 k)) (ao : Option Addr) (cap : Nat) (L : List UInt8) (hu : I32 u) (bs : List UInt8) (hbl : bs.length ≤ 2) (hS : sE k u = (0, bs)) (m v : Nat) (b2 : List UInt8) (hG : gE k L = (0, (m : Int), 1, (v : Int))) (hv : v ≤ 65535) (hb2l : b2.length ≤ 2) (hS2 : sE k (v : Int) = (0, b2)) (w : World) (hw : P w) (hB : Bytes w ao L) (hLc : L.length ≤ cap) (hcm : cap ≤ 140737488351232) : Calls Try.prog 5 #[.int .i64 a, .int .i32 u, .slice ao L.length cap] w fun e w' => e = .returned (.bool true) ∧ w.grownBy w' none := by
  have a0 := Hid.mk' (fun w hw => works_any C w hw)
  have Kp := Hid.mk' (fun (a b : World) (h : P a) (g : a.grownBy b none) => C.keep h g)
  have hq := Hid.mk' hw
  have hcell0 := Hid.mk' hcell
  have hr30 : (0 : Int) ≤ (r3 : Int) := by omega
  have hr31 : (r3 : Int) < 3 := by omega
  have a1 := C.put k hkI u hu _ _ hS
  have a2 : Hid (∀ ao cap w, Bytes w ao (bs ++ L) → (bs ++ L).length ≤ cap → cap ≤ 9223372036854775807 → P w → Calls Try.prog 8 #[.int .i64 k, .slice ao (bs ++ L).length cap] w fun e w' => e = .returned (gV 0 (bs.length : Int) 1 u) ∧ w.grownBy w' none) := Hid.mk' (fun ao cap w h1 h2 h3 h4 => (C.got k hkI (bs ++ L) _ _ _ _ (back_plain hk hS L)).out _ rfl ao cap w h1 h2 h3 h4)
  have hsz : (str bs).size = bs.length := str_size _
  have hsd : (str bs).data.toList = bs := str_data _
  have huu : (u == u) = true := by simp
  have a3 := C.got k hkI L _ _ _ _ hG
  have a4 := C.put k hkI (v : Int) (by unfold I32; omega) _ _ hS2
  have a5 : Hid (∀ ao cap w, Bytes w ao b2 → b2.length ≤ cap → cap ≤ 9223372036854775807 → P w → Calls Try.prog 8 #[.int .i64 k, .slice ao b2.length cap] w fun e w' => e = .returned (gV 0 (b2.length : Int) 1 (v : Int)) ∧ w.grownBy w' none) := Hid.mk' (fun ao cap w h1 h2 h3 h4 => (C.got k hkI b2 _ _ _ _ (by have := back_plain hk hS2 []; rwa [List.append_nil] at this)).out _ rfl ao cap w h1 h2 h3 h4)
  have hsz2 : (str b2).size = b2.length := str_size _
  have hsd2 : (str b2).data.toList = b2 := str_data _
  have hvv : ((v : Int) == (v : Int)) = true := by simp
  obtain ⟨i0, hi, hz0, hz1, hz2⟩ := info_parts info5
  have HB : Hid (Bytes w ao L) := Hid.mk' hB
  have hLl : L.length ≤ 140737488351232 := by omega
  generalize str bs = s at *
  obtain ⟨n, hn⟩ : ∃ n, bs.length = n := ⟨_, rfl⟩
  have hn0 := Hid.mk' hn
  have hsd0 := Hid.mk' hsd
  rw [hn] at hsz a2 hbl
  have hsz0 := Hid.mk' hsz
  clear hn hsd
  generalize str b2 = s2 at *
  obtain ⟨n2, hn2⟩ : ∃ n, b2.length = n := ⟨_, rfl⟩
  have hn20 := Hid.mk' hn2
  have hsd20 := Hid.mk' hsd2
  rw [hn2] at hsz2 a5 hb2l
  have hsz20 := Hid.mk' hsz2
  clear hn2 hsd2
  clear hw C hu hS hG hB hk hkI hcell hS2
  go_enter Try.func5, Try.ntmps5
  go_upto_region 4 with (go_at_call 14; refine (a0.out _ hq.out).mono ?_; rintro e w1 ⟨rfl, hg1, hp1⟩; have hq1 := Hid.mk' hp1)
  have hc3 := hcell0.out w1 (0, 0)
  have hG0 : Hid (w.grownBy (w1.alloc (.cells #[.int .i64 81, .int .i64 84, .int .i64 86] 3)) none) := Hid.mk' (gt hg1 (World.grownBy_alloc _ _ _))
  have hq2 : Hid (P (w1.alloc (.cells #[.int .i64 81, .int .i64 84, .int .i64 86] 3))) := Hid.mk' (Kp.out _ _ hq1.out (World.grownBy_alloc _ _ _))
  clear hg1 hp1 hq1 hcell0 a0 hq
  go_upto_region 5 with (fail)
  clear hr3 hc3
  generalize w1.alloc (.cells #[.int .i64 81, .int .i64 84, .int .i64 86] 3) = w2 at *
  generalize w1.heap.size = LB at *
  go_upto_region 6 with (first
    | (go_at_call 12; refine (a1.out _ hq2.out).mono ?_; rintro e w3 ⟨rfl, hg3⟩)
    | (refine wpList_allocC _ rfl 33 rfl (pZ 0 ⟨#[]⟩) (zeroP _) ?_; intro w4 p4 hg4)
    | (refine wpList_storeC _ rfl 33 _ _ rfl _ (pZ 0 ⟨#[]⟩) (pZ 0 s) infoP rfl (pC_one _ _ _ _ _ _) rfl rfl p4 ?_; intro w5 p5 hg5))
  have hG5 : Hid (w2.grownBy w5 none) := Hid.mk' (grownBy_new (gt hg3 hg4) hg5 (fun k hk => by have h5 := Option.some.inj hk; have h6 := hg3.size; omega))
  have hGw : Hid (w.grownBy w5 none) := Hid.mk' (gt hG0.out hG5.out)
  have hq5 := Hid.mk' (Kp.out _ _ hq2.out hG5.out)
  clear hg3 hg4 hg5 p4 hq2 hG0 hG5 a1
  generalize w3.heap.size = PB at *
  have HB5 : Hid (Bytes w5 ao L) := Hid.mk' (HB.out.kept0 hGw.out)
  have hcl : Hid (∀ wx, w5.grownBy wx none → (fun w' => w'.cell? ⟨PB, 0, none⟩ = some (.int .i64 0) ∧ w'.cell? ⟨PB, 1, none⟩ = some (.string s)) wx) := Hid.mk' (fun wx hg => ⟨(p5.kept0 hg).cell 0 rfl, (p5.kept0 hg).cell 1 rfl⟩)
  obtain ⟨c6, w6, hcvt, hE6, hg6⟩ := conv_own (P := Try.prog) w5.drew 9 22 s Try.underlying9 Try.underlying22 Try.underlying5 (by have := hsz0.out; omega)
  rw [hsd0.out] at hcvt hE6
  have hg56 : Hid (w5.grownBy w6 none) := Hid.mk' (grownBy_of_drew hg6)
  obtain ⟨ao7, c7, w7, hrun, hB7, hg7, hq71, hq72⟩ := run_append_EC (P := Try.prog) w6 22 22 22 i0 Try.underlying22 hi hz0 hz1 hz2 w5.drew.heap.size c6 bs hE6 (.slice ao L.length cap) L (src_of (HB5.out.kept0 hg56.out) 22 cap Try.underlying22) (by have := hn0.out; omega)
  have hg57 : Hid (w5.grownBy w7 none) := Hid.mk' (grownBy_new hg56.out hg7 (fun g e => by have h5 := Option.some.inj e; have h6 : w5.drew.heap.size = w5.heap.size := rfl; omega))
  replace hq72 : c7 ≤ 9223372036854775807 := hq72
  obtain ⟨M, hM⟩ : ∃ M, bs ++ L = M := ⟨_, rfl⟩
  rw [hM] at a2 hrun hB7 hq71
  clear hM
  rw [hn0.out] at hcvt hrun
  have hS0 := hcl.out _ (grownBy_drew (grownBy_refl w5 none))
  have hB70 := Hid.mk' hB7
  clear hE6 hg6 hg7 hB7 p5 hn0 hsd0
  refine wp_region_held_drew (S := fun w' => w'.cell? ⟨PB, 0, none⟩ = some (.int .i64 0) ∧ w'.cell? ⟨PB, 1, none⟩ = some (.string s)) (by kernel_rfl) hS0 (fun hHeld => ?_)
  refine wpAnyH_take (i := 0) (v := ?_) rfl (by kernel_rfl) (by kernel_rfl) (by kernel_rfl) (fun _ _ _ h => h) (Or.inl ⟨by rfl, ?_⟩) (by assumption) ?_; rotate_left
  · (intro w hSw; (try dsimp only at hSw); go_simp; try with_reducible rfl)
  try simp only [List.getElem_toArray, List.getElem_cons_zero, Act.put, List.setIfInBounds_toArray, List.set_cons_zero, List.set_cons_succ]
  refine wpAnyH_take (i := 1) (v := ?_) rfl (by kernel_rfl) (by kernel_rfl) (by kernel_rfl) (fun _ _ _ h => h) (Or.inl ⟨by rfl, ?_⟩) (by assumption) ?_; rotate_left
  · (intro w hSw; (try dsimp only at hSw); go_simp; try with_reducible rfl)
  try simp only [List.getElem_toArray, List.getElem_cons_zero, List.getElem_cons_succ, Act.put, List.setIfInBounds_toArray, List.set_cons_zero, List.set_cons_succ]
  refine wpAnyH_take (i := 2) (v := ?_) rfl (by kernel_rfl) (by kernel_rfl) (by kernel_rfl) (fun _ _ _ h => h) (Or.inl ⟨by rfl, ?_⟩) (by assumption) ?_; rotate_left
  · (intro w hSw; (try dsimp only at hSw); go_simp; try with_reducible rfl)
  try simp only [List.getElem_toArray, List.getElem_cons_zero, List.getElem_cons_succ, Act.put, List.setIfInBounds_toArray, List.set_cons_zero, List.set_cons_succ]
  refine wpAnyH_take (i := 3) (v := ?_) rfl (by kernel_rfl) (by kernel_rfl) (by kernel_rfl) (fun _ _ _ h => h) (Or.inl ⟨by rfl, ?_⟩) (by assumption) ?_; rotate_left
  · (intro w hSw; (try dsimp only at hSw); go_simp; try with_reducible rfl)
  try simp only [List.getElem_toArray, List.getElem_cons_zero, List.getElem_cons_succ, Act.put, List.setIfInBounds_toArray, List.set_cons_zero, List.set_cons_succ]
  refine wpAnyH_take (i := 4) (v := ?_) rfl (by kernel_rfl) (by kernel_rfl) (by kernel_rfl) (fun _ _ _ h => h) (Or.inl ⟨by rfl, ?_⟩) (by assumption) ?_; rotate_left
  · (intro w hSw; (try dsimp only at hSw); go_simp; try with_reducible rfl)
  try simp only [List.getElem_toArray, List.getElem_cons_zero, List.getElem_cons_succ, Act.put, List.setIfInBounds_toArray, List.set_cons_zero, List.set_cons_succ]
  refine wpAnyH_take (i := 5) (v := ?_) rfl (by kernel_rfl) (by kernel_rfl) (by kernel_rfl) (fun _ _ _ h => h) (Or.inl ⟨by rfl, ?_⟩) (by assumption) ?_; rotate_left
  · (intro w hSw; (try dsimp only at hSw); go_simp; try with_reducible rfl)
  try simp only [List.getElem_toArray, List.getElem_cons_zero, List.getElem_cons_succ, Act.put, List.setIfInBounds_toArray, List.set_cons_zero, List.set_cons_succ]
  refine wpAnyH_take (i := 6) (v := ?_) rfl (by kernel_rfl) (by kernel_rfl) (by kernel_rfl) (fun _ _ _ h => h) (Or.inl ⟨by rfl, ?_⟩) (by assumption) ?_; rotate_left
  · (intro w hSw; (try dsimp only at hSw); go_simp; try with_reducible rfl)
  try simp only [List.getElem_toArray, List.getElem_cons_zero, List.getElem_cons_succ, Act.put, List.setIfInBounds_toArray, List.set_cons_zero, List.set_cons_succ]
  refine wpAnyH_take (i := 8) (v := ?_) rfl (by kernel_rfl) (by kernel_rfl) (by kernel_rfl) (fun _ _ _ h => h) (Or.inl ⟨by rfl, ?_⟩) (by assumption) ?_; rotate_left
  · (intro w hSw; (try dsimp only at hSw); go_simp; try with_reducible rfl)
  try simp only [List.getElem_toArray, List.getElem_cons_zero, List.getElem_cons_succ, Act.put, List.setIfInBounds_toArray, List.set_cons_zero, List.set_cons_succ]
  refine wpAnyH_take (i := 11) (v := ?_) rfl (by kernel_rfl) (by kernel_rfl) (by kernel_rfl) (fun _ _ _ h => h) (Or.inl ⟨by rfl, ?_⟩) (by assumption) ?_; rotate_left
  · (intro w hSw; (try dsimp only at hSw); go_simp; try with_reducible rfl)
  try simp only [List.getElem_toArray, List.getElem_cons_zero, List.getElem_cons_succ, Act.put, List.setIfInBounds_toArray, List.set_cons_zero, List.set_cons_succ]
  refine wpAnyH_take (i := 12) (v := ?_) rfl (by kernel_rfl) (by kernel_rfl) (by kernel_rfl) (fun _ _ _ h => h) (Or.inl ⟨by rfl, ?_⟩) (by assumption) ?_; rotate_left
  · (intro w hSw; (try dsimp only at hSw); go_simp; try with_reducible rfl)
  try simp only [List.getElem_toArray, List.getElem_cons_zero, List.getElem_cons_succ, Act.put, List.setIfInBounds_toArray, List.set_cons_zero, List.set_cons_succ]
  refine wpAnyH_take (i := 13) (v := ?_) rfl (by kernel_rfl) (by kernel_rfl) (by kernel_rfl) (fun _ _ _ h => h) (Or.inl ⟨by rfl, ?_⟩) (by assumption) ?_; rotate_left
  · (intro w hSw; (try dsimp only at hSw); go_simp; try with_reducible rfl)
  try simp only [List.getElem_toArray, List.getElem_cons_zero, List.getElem_cons_succ, Act.put, List.setIfInBounds_toArray, List.set_cons_zero, List.set_cons_succ]
  refine wpAnyH_take (i := 14) (v := ?_) rfl (by kernel_rfl) (by kernel_rfl) (by kernel_rfl) (fun _ _ _ h => h) (Or.inl ⟨by rfl, ?_⟩) (by assumption) ?_; rotate_left
  · (intro w hSw; (try dsimp only at hSw); go_simp; try with_reducible rfl)
  try simp only [List.getElem_toArray, List.getElem_cons_zero, List.getElem_cons_succ, Act.put, List.setIfInBounds_toArray, List.set_cons_zero, List.set_cons_succ]
  refine wpAnyH_take (i := 15) (v := ?_) rfl (by kernel_rfl) (by kernel_rfl) (by kernel_rfl) (fun _ _ _ h => h) (Or.inl ⟨by rfl, ?_⟩) (by assumption) ?_; rotate_left
  · (intro w hSw; (try dsimp only at hSw); go_simp; try with_reducible rfl)
  try simp only [List.getElem_toArray, List.getElem_cons_zero, List.getElem_cons_succ, Act.put, List.setIfInBounds_toArray, List.set_cons_zero, List.set_cons_succ]
  refine wpAnyH_ready (rs := [7]) (by kernel_rfl) (by simp) ?_
  refine AllReadyH.cons rfl (fun K hK => ?_) AllReadyH.nil
  refine step_run (by rfl) (exec_convert _ _ _ (by rfl) (by simp [Act.eval]) hcvt) ?_
  refine hK.out _ _ (hcl.out _ hg56.out) (fun hHeld => ?_)
  clear hK K
  try simp only [List.getElem_toArray, List.getElem_cons_zero, List.getElem_cons_succ, Act.put, List.setIfInBounds_toArray, List.set_cons_zero, List.set_cons_succ]
  refine wpAnyH_ready (rs := [9]) (by kernel_rfl) (by simp) ?_
  refine AllReadyH.cons rfl (fun K hK => ?_) AllReadyH.nil
  refine step_run (by rfl) (exec_append _ _ _ _ (by rfl) (by simp [Act.eval]) (by simp [Act.eval]) hrun) ?_
  refine hK.out _ _ (hcl.out _ hg57.out) (fun hHeld => ?_)
  clear hK K
  try simp only [List.getElem_toArray, List.getElem_cons_zero, List.getElem_cons_succ, Act.put, List.setIfInBounds_toArray, List.set_cons_zero, List.set_cons_succ]
  refine wpAnyH_ready (rs := [10]) (by kernel_rfl) (by simp) ?_
  refine AllReadyH.cons rfl (fun K hK => ?_) AllReadyH.nil
  go_simp
  refine (a2.out ao7 c7 _ hB70.out hq71 hq72 (Kp.out _ _ hq5.out hg57.out)).mono ?_; rintro e w8 ⟨rfl, hg8⟩; have hg58 : Hid (w5.grownBy w8 none) := Hid.mk' (gt hg57.out hg8); try dsimp only
  refine hK.out _ _ (hcl.out _ hg58.out) (fun hHeld => ?_)
  clear hK K
  try simp only [List.getElem_toArray, List.getElem_cons_zero, List.getElem_cons_succ, Act.put, List.setIfInBounds_toArray, List.set_cons_zero, List.set_cons_succ]
  refine wpAnyH_take (i := 16) (v := ?_) rfl (by kernel_rfl) (by kernel_rfl) (by kernel_rfl) (fun _ _ _ h => h) (Or.inl ⟨by rfl, ?_⟩) (by assumption) ?_; rotate_left
  · (intro w hSw; (try dsimp only at hSw); go_simp; try with_reducible rfl)
  try simp only [List.getElem_toArray, List.getElem_cons_zero, List.getElem_cons_succ, Act.put, List.setIfInBounds_toArray, List.set_cons_zero, List.set_cons_succ]
  refine wpAnyH_take (i := 17) (v := ?_) rfl (by kernel_rfl) (by kernel_rfl) (by kernel_rfl) (fun _ _ _ h => h) (Or.inl ⟨by rfl, ?_⟩) (by assumption) ?_; rotate_left
  · (intro w hSw; (try dsimp only at hSw); go_simp; try with_reducible rfl)
  try simp only [List.getElem_toArray, List.getElem_cons_zero, List.getElem_cons_succ, Act.put, List.setIfInBounds_toArray, List.set_cons_zero, List.set_cons_succ]
  refine wpAnyH_done (by kernel_rfl) ?_ _
  have hG8 : Hid (w.grownBy w8 none) := Hid.mk' (gt hGw.out hg58.out)
  have hq8 := Hid.mk' (Kp.out _ _ hq5.out hg58.out)
  have HB8 : Hid (Bytes w8 ao L) := Hid.mk' (HB5.out.kept0 hg58.out)
  clear hg56 hg57 hg58 hg8 hcvt hrun hB70 hq71 hq72 a2 hGw hq5 HB5 hcl hS0 hHeld
  go_upto_region 9 with (first
    | (go_at_call 8; refine (a3.out _ rfl ao cap _ HB8.out hLc (by omega) hq8.out).mono ?_; rintro e w9 ⟨rfl, hg9⟩)
    | (refine wpList_allocC _ rfl 28 rfl (gZ 0 0 0 0) (zeroG _) ?_; intro w10 g10 hg10)
    | (refine wpList_storeC _ rfl 28 _ _ rfl _ (gZ 0 0 0 0) (gZ 0 (m : Int) 1 (v : Int)) infoG rfl (gC_one _ _ _ _ _ _ _ _ _) rfl rfl g10 ?_; intro w11 g11 hg11))
  have hG11 : Hid (w8.grownBy w11 none) := Hid.mk' (grownBy_new (gt hg9 hg10) hg11 (fun k hk => by have h5 := Option.some.inj hk; have h6 := hg9.size; omega))
  have hGx : Hid (w.grownBy w11 none) := Hid.mk' (gt hG8.out hG11.out)
  have hq11 := Hid.mk' (Kp.out _ _ hq8.out hG11.out)
  clear hg9 hg10 hg11 g10 a3 hG8 hq8 HB8 hG11
  generalize w9.heap.size = GB at *
  have z0 := g11.cell 0 (v := .int .i64 0) rfl
  have z3 := g11.cell 3 (v := .int .i32 (v : Int)) rfl
  go_upto_region 12 with (first
    | (go_at_call 12; refine (a4.out _ hq11.out).mono ?_; rintro e w12 ⟨rfl, hg12⟩; have g12 := g11.kept0 hg12)
    | (refine wpList_allocC _ rfl 33 rfl (pZ 0 ⟨#[]⟩) (zeroP _) ?_; intro w13 p13 hg13)
    | (refine wpList_storeC _ rfl 33 _ _ rfl _ (pZ 0 ⟨#[]⟩) (pZ 0 s2) infoP rfl (pC_one _ _ _ _ _ _) rfl rfl p13 ?_; intro w14 p14 hg14))
  have hG14 : Hid (w12.grownBy w14 none) := Hid.mk' (grownBy_new hg13 hg14 (fun k hk => by have h5 := Option.some.inj hk; omega))
  have hGy : Hid (w.grownBy w14 none) := Hid.mk' (gt (gt hGx.out hg12) hG14.out)
  have hq14 := Hid.mk' (Kp.out _ _ (Kp.out _ _ hq11.out hg12) hG14.out)
  have g14 := g12.kept0 hG14.out
  clear hg12 hg13 hg14 p13 hq11 hGx z0 z3 g11 g12 a4
  generalize w12.heap.size = QB at *
  have hcl2 : Hid (∀ wx, w14.grownBy wx none → (fun w' => w'.cell? ⟨QB, 0, none⟩ = some (.int .i64 0) ∧ w'.cell? ⟨QB, 1, none⟩ = some (.string s2) ∧ w'.cell? ⟨GB, 3, none⟩ = some (.int .i32 (v : Int))) wx) := Hid.mk' (fun wx hg => ⟨(p14.kept0 hg).cell 0 rfl, (p14.kept0 hg).cell 1 rfl, (g14.kept0 hg).cell 3 rfl⟩)
  obtain ⟨c15, w15, hcvt2, hE15, hg15⟩ := conv_own (P := Try.prog) w14.drew 9 22 s2 Try.underlying9 Try.underlying22 Try.underlying5 (by have := hsz20.out; omega)
  rw [hsd20.out] at hcvt2 hE15
  have hB15 := Hid.mk' hE15.bytes
  obtain ⟨hq151, hq152⟩ : b2.length ≤ c15 ∧ c15 ≤ 9223372036854775807 := by
    obtain ⟨_, _, _, _, h1, h2, _, _⟩ := hE15
    simp only [maxLen] at h2
    exact ⟨h1, by omega⟩
  rw [hn20.out] at hcvt2 hq151
  have hg1415 : Hid (w14.grownBy w15 none) := Hid.mk' (grownBy_of_drew hg15)
  have hS0 := hcl2.out _ (grownBy_drew (grownBy_refl w14 none))
  clear hE15 hg15 p14 g14 hG14
  refine wp_region_held_drew (S := fun w' => w'.cell? ⟨QB, 0, none⟩ = some (.int .i64 0) ∧ w'.cell? ⟨QB, 1, none⟩ = some (.string s2) ∧ w'.cell? ⟨GB, 3, none⟩ = some (.int .i32 (v : Int))) (by kernel_rfl) hS0 (fun hHeld => ?_)
  refine wpAnyH_take (i := 0) (v := ?_) rfl (by kernel_rfl) (by kernel_rfl) (by kernel_rfl) (fun _ _ _ h => h) (Or.inl ⟨by rfl, ?_⟩) (by assumption) ?_; rotate_left
  · (intro w hSw; (try dsimp only at hSw); go_simp; try with_reducible rfl)
  try simp only [List.getElem_toArray, List.getElem_cons_zero, Act.put, List.setIfInBounds_toArray, List.set_cons_zero, List.set_cons_succ]
  refine wpAnyH_take (i := 1) (v := ?_) rfl (by kernel_rfl) (by kernel_rfl) (by kernel_rfl) (fun _ _ _ h => h) (Or.inl ⟨by rfl, ?_⟩) (by assumption) ?_; rotate_left
  · (intro w hSw; (try dsimp only at hSw); go_simp; try with_reducible rfl)
  try simp only [List.getElem_toArray, List.getElem_cons_zero, List.getElem_cons_succ, Act.put, List.setIfInBounds_toArray, List.set_cons_zero, List.set_cons_succ]
  refine wpAnyH_take (i := 2) (v := ?_) rfl (by kernel_rfl) (by kernel_rfl) (by kernel_rfl) (fun _ _ _ h => h) (Or.inl ⟨by rfl, ?_⟩) (by assumption) ?_; rotate_left
  · (intro w hSw; (try dsimp only at hSw); go_simp; try with_reducible rfl)
  try simp only [List.getElem_toArray, List.getElem_cons_zero, List.getElem_cons_succ, Act.put, List.setIfInBounds_toArray, List.set_cons_zero, List.set_cons_succ]
  refine wpAnyH_take (i := 3) (v := ?_) rfl (by kernel_rfl) (by kernel_rfl) (by kernel_rfl) (fun _ _ _ h => h) (Or.inl ⟨by rfl, ?_⟩) (by assumption) ?_; rotate_left
  · (intro w hSw; (try dsimp only at hSw); go_simp; try with_reducible rfl)
  try simp only [List.getElem_toArray, List.getElem_cons_zero, List.getElem_cons_succ, Act.put, List.setIfInBounds_toArray, List.set_cons_zero, List.set_cons_succ]
  refine wpAnyH_take (i := 4) (v := ?_) rfl (by kernel_rfl) (by kernel_rfl) (by kernel_rfl) (fun _ _ _ h => h) (Or.inl ⟨by rfl, ?_⟩) (by assumption) ?_; rotate_left
  · (intro w hSw; (try dsimp only at hSw); go_simp; try with_reducible rfl)
  try simp only [List.getElem_toArray, List.getElem_cons_zero, List.getElem_cons_succ, Act.put, List.setIfInBounds_toArray, List.set_cons_zero, List.set_cons_succ]
  refine wpAnyH_take (i := 5) (v := ?_) rfl (by kernel_rfl) (by kernel_rfl) (by kernel_rfl) (fun _ _ _ h => h) (Or.inl ⟨by rfl, ?_⟩) (by assumption) ?_; rotate_left
  · (intro w hSw; (try dsimp only at hSw); go_simp; try with_reducible rfl)
  try simp only [List.getElem_toArray, List.getElem_cons_zero, List.getElem_cons_succ, Act.put, List.setIfInBounds_toArray, List.set_cons_zero, List.set_cons_succ]
  refine wpAnyH_take (i := 6) (v := ?_) rfl (by kernel_rfl) (by kernel_rfl) (by kernel_rfl) (fun _ _ _ h => h) (Or.inl ⟨by rfl, ?_⟩) (by assumption) ?_; rotate_left
  · (intro w hSw; (try dsimp only at hSw); go_simp; try with_reducible rfl)
  try simp only [List.getElem_toArray, List.getElem_cons_zero, List.getElem_cons_succ, Act.put, List.setIfInBounds_toArray, List.set_cons_zero, List.set_cons_succ]
  refine wpAnyH_take (i := 9) (v := ?_) rfl (by kernel_rfl) (by kernel_rfl) (by kernel_rfl) (fun _ _ _ h => h) (Or.inl ⟨by rfl, ?_⟩) (by assumption) ?_; rotate_left
  · (intro w hSw; (try dsimp only at hSw); go_simp; try with_reducible rfl)
  try simp only [List.getElem_toArray, List.getElem_cons_zero, List.getElem_cons_succ, Act.put, List.setIfInBounds_toArray, List.set_cons_zero, List.set_cons_succ]
  refine wpAnyH_take (i := 10) (v := ?_) rfl (by kernel_rfl) (by kernel_rfl) (by kernel_rfl) (fun _ _ _ h => h) (Or.inl ⟨by rfl, ?_⟩) (by assumption) ?_; rotate_left
  · (intro w hSw; (try dsimp only at hSw); go_simp; try with_reducible rfl)
  try simp only [List.getElem_toArray, List.getElem_cons_zero, List.getElem_cons_succ, Act.put, List.setIfInBounds_toArray, List.set_cons_zero, List.set_cons_succ]
  refine wpAnyH_take (i := 11) (v := ?_) rfl (by kernel_rfl) (by kernel_rfl) (by kernel_rfl) (fun _ _ _ h => h) (Or.inl ⟨by rfl, ?_⟩) (by assumption) ?_; rotate_left
  · (intro w hSw; (try dsimp only at hSw); go_simp; try with_reducible rfl)
  try simp only [List.getElem_toArray, List.getElem_cons_zero, List.getElem_cons_succ, Act.put, List.setIfInBounds_toArray, List.set_cons_zero, List.set_cons_succ]
  refine wpAnyH_take (i := 12) (v := ?_) rfl (by kernel_rfl) (by kernel_rfl) (by kernel_rfl) (fun _ _ _ h => h) (Or.inl ⟨by rfl, ?_⟩) (by assumption) ?_; rotate_left
  · (intro w hSw; (try dsimp only at hSw); go_simp; try with_reducible rfl)
  try simp only [List.getElem_toArray, List.getElem_cons_zero, List.getElem_cons_succ, Act.put, List.setIfInBounds_toArray, List.set_cons_zero, List.set_cons_succ]
  refine wpAnyH_take (i := 13) (v := ?_) rfl (by kernel_rfl) (by kernel_rfl) (by kernel_rfl) (fun _ _ _ h => h) (Or.inl ⟨by rfl, ?_⟩) (by assumption) ?_; rotate_left
  · (intro w hSw; (try dsimp only at hSw); go_simp; try with_reducible rfl)
  try simp only [List.getElem_toArray, List.getElem_cons_zero, List.getElem_cons_succ, Act.put, List.setIfInBounds_toArray, List.set_cons_zero, List.set_cons_succ]
  refine wpAnyH_take (i := 14) (v := ?_) rfl (by kernel_rfl) (by kernel_rfl) (by kernel_rfl) (fun _ _ _ h => h) (Or.inl ⟨by rfl, ?_⟩) (by assumption) ?_; rotate_left
  · (intro w hSw; (try dsimp only at hSw); go_simp; try with_reducible rfl)
  try simp only [List.getElem_toArray, List.getElem_cons_zero, List.getElem_cons_succ, Act.put, List.setIfInBounds_toArray, List.set_cons_zero, List.set_cons_succ]
  refine wpAnyH_ready (rs := [7]) (by kernel_rfl) (by simp) ?_
  refine AllReadyH.cons rfl (fun K hK => ?_) AllReadyH.nil
  refine step_run (by rfl) (exec_convert _ _ _ (by rfl) (by simp [Act.eval]) hcvt2) ?_
  refine hK.out _ _ (hcl2.out _ hg1415.out) (fun hHeld => ?_)
  clear hK K
  try simp only [List.getElem_toArray, List.getElem_cons_zero, List.getElem_cons_succ, Act.put, List.setIfInBounds_toArray, List.set_cons_zero, List.set_cons_succ]
  refine wpAnyH_ready (rs := [8]) (by kernel_rfl) (by simp) ?_
  refine AllReadyH.cons rfl (fun K hK => ?_) AllReadyH.nil
  go_simp
  refine (a5.out _ c15 _ hB15.out hq151 hq152 (Kp.out _ _ hq14.out hg1415.out)).mono ?_; rintro e w16 ⟨rfl, hg16⟩; have hg1416 : Hid (w14.grownBy w16 none) := Hid.mk' (gt hg1415.out hg16); try dsimp only
  refine hK.out _ _ (hcl2.out _ hg1416.out) (fun hHeld => ?_)
  clear hK K
  try simp only [List.getElem_toArray, List.getElem_cons_zero, List.getElem_cons_succ, Act.put, List.setIfInBounds_toArray, List.set_cons_zero, List.set_cons_succ]
  refine wpAnyH_take (i := 15) (v := ?_) rfl (by kernel_rfl) (by kernel_rfl) (by kernel_rfl) (fun _ _ _ h => h) (Or.inl ⟨by rfl, ?_⟩) (by assumption) ?_; rotate_left
  · (intro w hSw; (try dsimp only at hSw); go_simp; try with_reducible rfl)
  try simp only [List.getElem_toArray, List.getElem_cons_zero, List.getElem_cons_succ, Act.put, List.setIfInBounds_toArray, List.set_cons_zero, List.set_cons_succ]
  refine wpAnyH_take (i := 16) (v := ?_) rfl (by kernel_rfl) (by kernel_rfl) (by kernel_rfl) (fun _ _ _ h => h) (Or.inl ⟨by rfl, ?_⟩) (by assumption) ?_; rotate_left
  · (intro w hSw; (try dsimp only at hSw); go_simp; try with_reducible rfl)
  try simp only [List.getElem_toArray, List.getElem_cons_zero, List.getElem_cons_succ, Act.put, List.setIfInBounds_toArray, List.set_cons_zero, List.set_cons_succ]
  refine wpAnyH_take (i := 17) (v := ?_) rfl (by kernel_rfl) (by kernel_rfl) (by kernel_rfl) (fun _ _ _ h => h) (Or.inl ⟨by rfl, ?_⟩) (by assumption) ?_; rotate_left
  · (intro w hSw; (try dsimp only at hSw); go_simp; try with_reducible rfl)
  try simp only [List.getElem_toArray, List.getElem_cons_zero, List.getElem_cons_succ, Act.put, List.setIfInBounds_toArray, List.set_cons_zero, List.set_cons_succ]
  refine wpAnyH_done (by kernel_rfl) ?_ _
  go_wp2
  go_ret
  exact ⟨rfl, gt hGy.out hg1416.out⟩
end Go.Proofs.Ytcbjkamjkaiofaa.C17

/- EucBack, whole: the ways joined. -/
namespace Go.Proofs.Ytcbjkamjkaiofaa.C17
open Go.ChangeShapes Go.WideShapes Go.ChangeAt Go.RowKit Go.Proofs.Ytcbjkamjkaiofaa.Mem Go.Proofs.Ytcbjkamjkaiofaa.Cb Go.Proofs.Ytcbjkamjkaiofaa.Sp
set_option linter.unusedVariables false

theorem se_two {k u : Int} (hk : has k = true) : sE k u = (11, []) ∨ ∃ bs, sE k u = (0, bs) ∧ bs.length ≤ 2 := by
  rcases set_ways (u := u) hk with ⟨_, _, h⟩ | ⟨_, h | ⟨x, y, h, _⟩⟩
  · exact .inr ⟨_, h, by simp⟩
  · exact .inl h
  · exact .inr ⟨_, h, by simp⟩
theorem back_walk {P : World → Prop} (C : Con P) (a u : Int) (hu : I32 u) (ao : Option Addr) (cap : Nat) (L : List UInt8) (w : World) (hw : P w) (hB : Bytes w ao L) (hLc : L.length ≤ cap) (hcm : cap ≤ 140737488351232) : Calls Try.prog 5 #[.int .i64 a, .int .i32 u, .slice ao L.length cap] w fun e w' => e = .returned (.bool true) ∧ w.grownBy w' none := by
  obtain ⟨r3, hr3, hr3l⟩ := mod_fit a 3 (by omega) (by omega)
  obtain ⟨k, hk, hkI, hcell⟩ := kind_at r3 hr3l
  rcases se_two (u := u) hk with hS | ⟨bs, hS, hbl⟩
  · rcases got_ways hk L with hG | ⟨m, hG, h1, h2, h3⟩ | ⟨m, v, b2, hG, hv, hS2⟩
    · exact back_none_more C u a r3 hr3 hr3l k hk hkI hcell ao cap L hu hS hG w hw hB hLc hcm
    · exact back_none_ill C u a r3 hr3 hr3l k hk hkI hcell ao cap L hu hS m hG h1 h2 h3 w hw hB hLc hcm
    · rcases se_two (u := (v : Int)) hk with h | ⟨b3, h, hl⟩
      · rw [h] at hS2; exact absurd (show (11 : Int) = 0 from congrArg Prod.fst hS2) (by decide)
      · obtain rfl : b3 = b2 := congrArg Prod.snd (h.symm.trans hS2)
        exact back_none_ok C u a r3 hr3 hr3l k hk hkI hcell ao cap L hu hS m v b3 hG hv hl hS2 w hw hB hLc hcm
  · rcases got_ways hk L with hG | ⟨m, hG, h1, h2, h3⟩ | ⟨m, v, b2, hG, hv, hS2⟩
    · exact back_ok_more C u a r3 hr3 hr3l k hk hkI hcell ao cap L hu bs hbl hS hG w hw hB hLc hcm
    · exact back_ok_ill C u a r3 hr3 hr3l k hk hkI hcell ao cap L hu bs hbl hS m hG h1 h2 h3 w hw hB hLc hcm
    · rcases se_two (u := (v : Int)) hk with h | ⟨b3, h, hl⟩
      · rw [h] at hS2; exact absurd (show (11 : Int) = 0 from congrArg Prod.fst hS2) (by decide)
      · obtain rfl : b3 = b2 := congrArg Prod.snd (h.symm.trans hS2)
        exact back_ok_ok C u a r3 hr3 hr3l k hk hkI hcell ao cap L hu bs hbl hS m v b3 hG hv hl hS2 w hw hB hLc hcm
end Go.Proofs.Ytcbjkamjkaiofaa.C17

/- EucPlain: the walk. -/
namespace Go.Proofs.Ytcbjkamjkaiofaa.C17
open Go.ChangeShapes Go.WideShapes Go.ChangeAt Go.RowKit Go.Proofs.Ytcbjkamjkaiofaa.Mem Go.Proofs.Ytcbjkamjkaiofaa.Cb Go.Proofs.Ytcbjkamjkaiofaa.Sp
set_option linter.unusedVariables false
set_option linter.unusedSimpArgs false

set_option maxRecDepth 100000 in
set_option maxHeartbeats 4000000 in
theorem plain_low {P : World → Prop} (C : Con P) (a : Int) (n : Nat) (hn : n < 128) (ao : Option Addr) (cap : Nat) (L : List UInt8) (w : World) (hw : P w) (hB : Bytes w ao L) (hLc : L.length ≤ cap) (hcm : cap ≤ 140737488351232) : Calls Try.prog 7 #[.int .i64 a, .int .i32 (n : Int), .slice ao L.length cap] w fun e w' => e = .returned (.bool true) ∧ w.grownBy w' none := by
  obtain ⟨r3, hr3, hr3l⟩ := mod_fit a 3 (by omega) (by omega)
  replace hr3 : wrap64 ((IntKind.u64.wrap a).tmod 3) = (r3 : Int) := hr3
  obtain ⟨k, hk, hkI, hcell⟩ := kind_at r3 hr3l
  have a0 := Hid.mk' (fun w hw => works_any C w hw)
  have K := Hid.mk' (fun (a b : World) (h : P a) (g : a.grownBy b none) => C.keep h g)
  have hq := Hid.mk' hw
  have hcell0 := Hid.mk' hcell
  have hr30 : (0 : Int) ≤ (r3 : Int) := by omega
  have hr31 : (r3 : Int) < 3 := by omega
  have hse : sE k (n : Int) = (0, [b8 n]) := by
    unfold sE
    rw [hk, if_neg (by simp), if_pos (by omega), Int.toNat_natCast]
  have a1 := C.put k hkI (n : Int) (by unfold I32; omega) _ _ hse
  have hge : gE k (b8 n :: L) = (0, 1, 1, (n : Int)) := by
    have := back_plain hk hse L
    simpa using this
  have a2 := C.got k hkI (b8 n :: L) _ _ _ _ hge
  have h8 : n < 256 := by omega
  have hn1 : (n : Int) < 128 := by omega
  have hn2 : (n : Int) < 256 := by omega
  have hn0 : (0 : Int) ≤ (n : Int) := by omega
  have hnn : ((n : Int) == (n : Int)) = true := by simp
  obtain ⟨i0, hi, hz0, hz1, hz2⟩ := info_parts info5
  have HB : Hid (Bytes w ao L) := Hid.mk' hB
  have hLl : L.length ≤ 140737488351232 := by omega
  have hcv := Hid.mk' (fun w => conv_one h8 w)
  have how := Hid.mk' (fun w => own_one h8 w)
  have hlen : (b8 n :: L).length = L.length + 1 := by simp
  have ha2 : Hid (∀ ao cap w, Bytes w ao (b8 n :: L) → L.length + 1 ≤ cap → cap ≤ 9223372036854775807 → P w → Calls Try.prog 8 #[.int .i64 k, .slice ao (L.length + 1) cap] w fun e w' => e = .returned (gV 0 1 1 (n : Int)) ∧ w.grownBy w' none) := Hid.mk' (fun ao cap w hB h1 h2 hw => a2.out _ hlen ao cap w hB h1 h2 hw)
  obtain ⟨M, hM⟩ : ∃ M, Hid (b8 n :: L = M) := ⟨_, Hid.mk' rfl⟩
  have hMl : M.length = L.length + 1 := by rw [← hM.out]; exact hlen
  rw [hM.out] at ha2
  generalize str [b8 n] = s at *
  clear hw C hk hkI hcell hse hge a2 hB hlen
  go_enter Try.func7, Try.ntmps7
  go_upto_region 4 with (go_at_call 14; refine (a0.out _ hq.out).mono ?_; rintro e w1 ⟨rfl, hg1, hp1⟩; have hq1 := Hid.mk' hp1)
  have hc3 := hcell0.out w1 (0, 0)
  have hG0 : Hid (w.grownBy (w1.alloc (.cells #[.int .i64 81, .int .i64 84, .int .i64 86] 3)) none) := Hid.mk' (gt hg1 (World.grownBy_alloc _ _ _))
  have hq2 : Hid (P (w1.alloc (.cells #[.int .i64 81, .int .i64 84, .int .i64 86] 3))) := Hid.mk' (K.out _ _ hq1.out (World.grownBy_alloc _ _ _))
  clear hg1 hp1 hq1 hcell0 a0 hq
  go_upto_region 5 with (fail)
  clear hr3 hc3
  generalize w1.alloc (.cells #[.int .i64 81, .int .i64 84, .int .i64 86] 3) = w2 at *
  generalize w1.heap.size = LB at *
  go_upto_region 6 with (first
    | (go_at_call 12; refine (a1.out _ hq2.out).mono ?_; rintro e w3 ⟨rfl, hg3⟩)
    | (refine wpList_allocC _ rfl 33 rfl (pZ 0 ⟨#[]⟩) (zeroP _) ?_; intro w4 p4 hg4)
    | (refine wpList_storeC _ rfl 33 _ _ rfl _ (pZ 0 ⟨#[]⟩) (pZ 0 s) infoP rfl (pC_one _ _ _ _ _ _) rfl rfl p4 ?_; intro w5 p5 hg5))
  have hG5 : Hid (w2.grownBy w5 none) := Hid.mk' (grownBy_new (gt hg3 hg4) hg5 (fun k hk => by have h5 := Option.some.inj hk; have h6 := hg3.size; omega))
  have hGw : Hid (w.grownBy w5 none) := Hid.mk' (gt hG0.out hG5.out)
  have hq5 := Hid.mk' (K.out _ _ hq2.out hG5.out)
  clear hg3 hg4 hg5 p4 hq2 hG0
  generalize w3.heap.size = PB at *
  have HB5 : Hid (Bytes w5 ao L) := Hid.mk' (HB.out.kept0 hGw.out)
  have hcv5 := hcv.out w5
  have hown5 : Hid (Own ((w5.alloc (.cells #[.int .u8 (n : Int)] 5)).alloc (.cells #[.int .u8 (n : Int)] 5)) (some ⟨w5.heap.size + 1, 0, none⟩) 1 [b8 n]) := Hid.mk' (by have := how.out (w5.alloc (.cells #[.int .u8 (n : Int)] 5)); simpa using this)
  go_wp2_with (first
    | (refine wpList_loadC _ rfl 33 _ rfl _ Try.underlying33 rfl PB (pZ 0 s) infoP rfl p5 ?_)
    | (at_builtin; refine want_append _ (by rfl) _ _ 22 22 rfl i0 Try.underlying22 hi hz0 hz1 hz2 _ _ [b8 n] rfl hown5.out _ rfl L (src_of ((HB5.out.alloc _).alloc _) 22 cap Try.underlying22) (by simp; omega) M (by rw [← hM.out]; rfl) ?_; intro ao' c' wa hown hga hat; rw [hMl]; have q1 := hown.cap_le; have q2 := hown.cap_max; rw [hMl] at q1; have hgA : Hid (w5.grownBy wa none) := Hid.mk' (grownBy_new (ga (ga (grownBy_refl _ _))) hga (by intro g e; simp [blk] at e; omega)))
    | (go_at_call 8; refine (ha2.out ao' c' _ hown.bytes q1 q2 (K.out _ _ hq5.out hgA.out)).mono ?_; rintro e wb ⟨rfl, hgb⟩))
  go_ret
  exact ⟨rfl, gt hGw.out (gt hgA.out hgb)⟩
set_option maxRecDepth 100000 in
set_option maxHeartbeats 4000000 in
theorem plain_none {P : World → Prop} (C : Con P) (a u : Int) (hu : I32 u) (r3 : Nat) (hr3 : wrap64 ((IntKind.u64.wrap a).tmod 3) = (r3 : Int)) (hr3l : r3 < 3) (k : Int) (hk : has k = true) (hkI : I64 k) (hcell : ∀ (w : World) (fr : Nat × Nat), (w.alloc (.cells #[.int .i64 81, .int .i64 84, .int .i64 86] 3 fr)).cell? ⟨w.heap.size, r3, none⟩ = some (.int .i64 k)) (hS : sE k u = (11, [])) (ao : Option Addr) (len cap : Nat) (w : World) (hw : P w) (T : Bool) (hT : decide (0 ≤ u) = T) (hT2 : T = true → decide (u < 128) = false) : Calls Try.prog 7 #[.int .i64 a, .int .i32 u, .slice ao len cap] w fun e w' => e = .returned (.bool true) ∧ w.grownBy w' none := by
  have a0 := Hid.mk' (fun w hw => works_any C w hw)
  have K := Hid.mk' (fun (a b : World) (h : P a) (g : a.grownBy b none) => C.keep h g)
  have hq := Hid.mk' hw
  have hcell0 := Hid.mk' hcell
  have hr30 : (0 : Int) ≤ (r3 : Int) := by omega
  have hr31 : (r3 : Int) < 3 := by omega
  have a1 : Hid (∀ w, P w → Calls Try.prog 12 #[.int .i64 k, .int .i32 u] w fun e w' => e = .returned (pV 11 ⟨#[]⟩) ∧ w.grownBy w' none) := C.put k hkI u hu _ _ hS
  clear hw C hk hkI hcell hu hS
  cases T
  all_goals
    first | (have hT3 := hT2 rfl; clear hT2) | clear hT2
    go_enter Try.func7, Try.ntmps7
    go_upto_region 4 with (go_at_call 14; refine (a0.out _ hq.out).mono ?_; rintro e w1 ⟨rfl, hg1, hp1⟩; have hq1 := Hid.mk' hp1)
    have hc3 := hcell0.out w1 (0, 0)
    have hG0 : Hid (w.grownBy (w1.alloc (.cells #[.int .i64 81, .int .i64 84, .int .i64 86] 3)) none) := Hid.mk' (gt hg1 (World.grownBy_alloc _ _ _))
    have hq2 : Hid (P (w1.alloc (.cells #[.int .i64 81, .int .i64 84, .int .i64 86] 3))) := Hid.mk' (K.out _ _ hq1.out (World.grownBy_alloc _ _ _))
    clear hg1 hp1 hq1 hcell0 a0 hq
    go_upto_region 5 with (fail)
    clear hr3 hc3
    generalize w1.alloc (.cells #[.int .i64 81, .int .i64 84, .int .i64 86] 3) = w2 at *
    generalize w1.heap.size = LB at *
    go_upto_region 6 with (first
      | (go_at_call 12; refine (a1.out _ hq2.out).mono ?_; rintro e w3 ⟨rfl, hg3⟩)
      | (refine wpList_allocC _ rfl 33 rfl (pZ 0 ⟨#[]⟩) (zeroP _) ?_; intro w4 p4 hg4)
      | (refine wpList_storeC _ rfl 33 _ _ rfl _ (pZ 0 ⟨#[]⟩) (pZ 11 ⟨#[]⟩) infoP rfl (pC_one _ _ _ _ _ _) rfl rfl p4 ?_; intro w5 p5 hg5))
    have hG5 : Hid (w2.grownBy w5 none) := Hid.mk' (grownBy_new (gt hg3 hg4) hg5 (fun k hk => by have h5 := Option.some.inj hk; have h6 := hg3.size; omega))
    have hGw : Hid (w.grownBy w5 none) := Hid.mk' (gt hG0.out hG5.out)
    have hq5 := Hid.mk' (K.out _ _ hq2.out hG5.out)
    clear hg3 hg4 hg5 p4 hq2 hG0
    generalize w3.heap.size = PB at *
    have y0 := p5.cell 0 (v := .int .i64 11) rfl
    have y1 := p5.cell 1 (v := .string ⟨#[]⟩) rfl
    have y2 := p5.cell 2 (v := .int .i64 0) rfl
    have y3 := p5.cell 3 (v := .int .i64 0) rfl
    have y4 := p5.cell 4 (v := .int .u32 0) rfl
    have y5 := p5.cell 5 (v := .int .i32 0) rfl
    go_wp2
    go_ret
    exact ⟨rfl, hGw.out⟩
set_option maxRecDepth 100000 in
set_option maxHeartbeats 4000000 in
theorem plain_two {P : World → Prop} (C : Con P) (a u : Int) (hu : I32 u) (r3 : Nat) (hr3 : wrap64 ((IntKind.u64.wrap a).tmod 3) = (r3 : Int)) (hr3l : r3 < 3) (k : Int) (hk : has k = true) (hkI : I64 k) (hcell : ∀ (w : World) (fr : Nat × Nat), (w.alloc (.cells #[.int .i64 81, .int .i64 84, .int .i64 86] 3 fr)).cell? ⟨w.heap.size, r3, none⟩ = some (.int .i64 k)) (x y : Nat) (hx : 128 ≤ x) (hx2 : x < 256) (hy : 128 ≤ y) (hy2 : y < 256) (hS : sE k u = (0, [b8 x, b8 y])) (ao : Option Addr) (len cap : Nat) (w : World) (hw : P w) (T : Bool) (hT : decide (0 ≤ u) = T) (hT2 : T = true → decide (u < 128) = false) : Calls Try.prog 7 #[.int .i64 a, .int .i32 u, .slice ao len cap] w fun e w' => e = .returned (.bool true) ∧ w.grownBy w' none := by
  have a0 := Hid.mk' (fun w hw => works_any C w hw)
  have K := Hid.mk' (fun (a b : World) (h : P a) (g : a.grownBy b none) => C.keep h g)
  have hq := Hid.mk' hw
  have hcell0 := Hid.mk' hcell
  have hr30 : (0 : Int) ≤ (r3 : Int) := by omega
  have hr31 : (r3 : Int) < 3 := by omega
  have a1 : Hid (∀ w, P w → Calls Try.prog 12 #[.int .i64 k, .int .i32 u] w fun e w' => e = .returned (pV 0 (str [b8 x, b8 y])) ∧ w.grownBy w' none) := C.put k hkI u hu _ _ hS
  have hsz : (str [b8 x, b8 y]).size = 2 := str_size _
  have j0 := index_of (L := [b8 x, b8 y]) (i := 0) (c := b8 x) rfl
  have j1 := index_of (L := [b8 x, b8 y]) (i := 1) (c := b8 y) rfl
  rw [b8_nat hx2] at j0
  rw [b8_nat hy2] at j1
  simp only [Int.natCast_zero, Int.natCast_one, Int.cast_ofNat_Int, Int.ofNat_eq_natCast] at j0 j1
  have hx3 : (128 : Int) ≤ (x : Int) := by omega
  have hy3 : (128 : Int) ≤ (y : Int) := by omega
  generalize str [b8 x, b8 y] = s at *
  clear hw C hk hkI hcell hu hS
  cases T
  all_goals
    first | (have hT3 := hT2 rfl; clear hT2) | clear hT2
    go_enter Try.func7, Try.ntmps7
    go_upto_region 4 with (go_at_call 14; refine (a0.out _ hq.out).mono ?_; rintro e w1 ⟨rfl, hg1, hp1⟩; have hq1 := Hid.mk' hp1)
    have hc3 := hcell0.out w1 (0, 0)
    have hG0 : Hid (w.grownBy (w1.alloc (.cells #[.int .i64 81, .int .i64 84, .int .i64 86] 3)) none) := Hid.mk' (gt hg1 (World.grownBy_alloc _ _ _))
    have hq2 : Hid (P (w1.alloc (.cells #[.int .i64 81, .int .i64 84, .int .i64 86] 3))) := Hid.mk' (K.out _ _ hq1.out (World.grownBy_alloc _ _ _))
    clear hg1 hp1 hq1 hcell0 a0 hq
    go_upto_region 5 with (fail)
    clear hr3 hc3
    generalize w1.alloc (.cells #[.int .i64 81, .int .i64 84, .int .i64 86] 3) = w2 at *
    generalize w1.heap.size = LB at *
    go_upto_region 6 with (first
      | (go_at_call 12; refine (a1.out _ hq2.out).mono ?_; rintro e w3 ⟨rfl, hg3⟩)
      | (refine wpList_allocC _ rfl 33 rfl (pZ 0 ⟨#[]⟩) (zeroP _) ?_; intro w4 p4 hg4)
      | (refine wpList_storeC _ rfl 33 _ _ rfl _ (pZ 0 ⟨#[]⟩) (pZ 0 s) infoP rfl (pC_one _ _ _ _ _ _) rfl rfl p4 ?_; intro w5 p5 hg5))
    have hG5 : Hid (w2.grownBy w5 none) := Hid.mk' (grownBy_new (gt hg3 hg4) hg5 (fun k hk => by have h5 := Option.some.inj hk; have h6 := hg3.size; omega))
    have hGw : Hid (w.grownBy w5 none) := Hid.mk' (gt hG0.out hG5.out)
    have hq5 := Hid.mk' (K.out _ _ hq2.out hG5.out)
    clear hg3 hg4 hg5 p4 hq2 hG0
    generalize w3.heap.size = PB at *
    have y0 := p5.cell 0 (v := .int .i64 0) rfl
    have y1 := p5.cell 1 (v := .string s) rfl
    have y2 := p5.cell 2 (v := .int .i64 0) rfl
    have y3 := p5.cell 3 (v := .int .i64 0) rfl
    have y4 := p5.cell 4 (v := .int .u32 0) rfl
    have y5 := p5.cell 5 (v := .int .i32 0) rfl
    go_wp2
    go_ret
    exact ⟨rfl, hGw.out⟩
theorem plain_walk {P : World → Prop} (C : Con P) (a u : Int) (hu : I32 u) (ao : Option Addr) (cap : Nat) (L : List UInt8) (w : World) (hw : P w) (hB : Bytes w ao L) (hLc : L.length ≤ cap) (hcm : cap ≤ 140737488351232) : Calls Try.prog 7 #[.int .i64 a, .int .i32 u, .slice ao L.length cap] w fun e w' => e = .returned (.bool true) ∧ w.grownBy w' none := by
  by_cases h1 : 0 ≤ u ∧ u < 128
  · obtain ⟨n, rfl⟩ : ∃ n : Nat, u = (n : Int) := ⟨u.toNat, by omega⟩
    exact plain_low C a n (by omega) ao cap L w hw hB hLc hcm
  · obtain ⟨r3, hr3, hr3l⟩ := mod_fit a 3 (by omega) (by omega)
    obtain ⟨k, hk, hkI, hcell⟩ := kind_at r3 hr3l
    have hT2 : decide (0 ≤ u) = true → decide (u < 128) = false := fun h => by have := of_decide_eq_true h; exact decide_eq_false (by omega)
    rcases set_ways (u := u) hk with ⟨h2, h3, _⟩ | ⟨_, h | ⟨x, y, h, hx, hx2, hy, hy2⟩⟩
    · exact absurd ⟨h2, h3⟩ h1
    · exact plain_none C a u hu r3 hr3 hr3l k hk hkI hcell h ao _ cap w hw _ rfl hT2
    · exact plain_two C a u hu r3 hr3 hr3l k hk hkI hcell x y hx hx2 hy hy2 h ao _ cap w hw _ rfl hT2
end Go.Proofs.Ytcbjkamjkaiofaa.C17

/- What the laws of layer 17 want of the program: its Get, Set whole; con. -/
namespace Go.Proofs.Ytcbjkamjkaiofaa.C17
open Go.ChangeShapes Go.WideShapes Go.ChangeAt Go.RowKit Go.Proofs.Ytcbjkamjkaiofaa.Mem Go.Proofs.Ytcbjkamjkaiofaa.Cb Go.Proofs.Ytcbjkamjkaiofaa.Sp
set_option linter.unusedVariables false
set_option linter.unusedSimpArgs false

theorem esc_81 (r c : Int) : esc 81 r c = C14.scP r c := by unfold esc; simp
theorem epl_81 (u : Int) : epl 81 u = C14.plT u := by unfold epl; simp
theorem pair_81 (b : UInt8) (r : List UInt8) (h1 : 161 ≤ b.toNat) (h2 : b.toNat ≤ 254) (bo : Option Addr) (n m : Nat) (w : World) (hB : Bytes w bo r) (hn : r.length = n) (hc : n ≤ m) (hcm : m ≤ 9223372036854775807) : Hid (∀ w1, w.grownBy w1 none → Calls Try.prog 19 #[.agg (sK 28 29 true), .int .u8 (b.toNat : Int), .slice bo n m] w1 fun e w2 => e = .returned (gotV (gE 81 (b :: r))) ∧ w1.grownBy w2 none) := Hid.mk' (fun w1 hg => by
  have hB1 := hB.kept0 hg
  have hb := b.toNat_lt
  subst hn
  unfold gE
  rw [if_neg (by decide)]
  simp only
  rw [if_neg (by omega), if_neg (fun h => by omega)]
  cases r with
  | nil => exact gp_one81 w1 _ bo m
  | cons c r =>
    obtain ⟨g, o, rfl, hy0⟩ := first_cell hB1
    have hcc := c.toNat_lt
    have hl5 : 0 < (c :: r).length := by simp
    simp only
    unfold gE2
    by_cases h5 : c.toNat < 161 ∨ 254 < c.toNat
    · rw [if_pos (by omega)]
      exact gp_bad81 w1 _ g o _ (Hid.mk' hy0) _ m hc hcm hl5 h5
    · rw [if_neg (by omega)]
      have e : two 81 b.toNat c.toNat = C14.scP ((b.toNat : Int) - 160) ((c.toNat : Int) - 160) := by
        unfold two
        rw [if_neg (by omega), esc_81]
      rw [e]
      cases he : C14.scP ((b.toNat : Int) - 160) ((c.toNat : Int) - 160) with
      | none => exact gp_none81 w1 _ g o _ (Hid.mk' hy0) _ m hc hcm hl5 (by omega) (by omega) (by omega) (by omega) _ _ rfl rfl (Hid.mk' he)
      | some q => exact gp_some81 w1 _ g o _ (Hid.mk' hy0) _ m hc hcm hl5 (by omega) (by omega) (by omega) (by omega) _ _ rfl rfl q (Hid.mk' he))
theorem esc_84 (r c : Int) : esc 84 r c = C15.scP r c := by unfold esc; simp
theorem epl_84 (u : Int) : epl 84 u = C15.plT u := by unfold epl; simp
theorem pair_84 (b : UInt8) (r : List UInt8) (h1 : 161 ≤ b.toNat) (h2 : b.toNat ≤ 254) (bo : Option Addr) (n m : Nat) (w : World) (hB : Bytes w bo r) (hn : r.length = n) (hc : n ≤ m) (hcm : m ≤ 9223372036854775807) : Hid (∀ w1, w.grownBy w1 none → Calls Try.prog 19 #[.agg (sK 30 31 false), .int .u8 (b.toNat : Int), .slice bo n m] w1 fun e w2 => e = .returned (gotV (gE 84 (b :: r))) ∧ w1.grownBy w2 none) := Hid.mk' (fun w1 hg => by
  have hB1 := hB.kept0 hg
  have hb := b.toNat_lt
  subst hn
  unfold gE
  rw [if_neg (by decide)]
  simp only
  rw [if_neg (by omega), if_neg (fun h => by omega)]
  cases r with
  | nil => exact gp_one84 w1 _ bo m
  | cons c r =>
    obtain ⟨g, o, rfl, hy0⟩ := first_cell hB1
    have hcc := c.toNat_lt
    have hl5 : 0 < (c :: r).length := by simp
    simp only
    unfold gE2
    by_cases h5 : c.toNat < 161 ∨ 254 < c.toNat
    · rw [if_pos (by omega)]
      exact gp_bad84 w1 _ g o _ (Hid.mk' hy0) _ m hc hcm hl5 h5
    · rw [if_neg (by omega)]
      have e : two 84 b.toNat c.toNat = C15.scP ((b.toNat : Int) - 160) ((c.toNat : Int) - 160) := by
        unfold two
        rw [if_neg (by omega), esc_84]
      rw [e]
      cases he : C15.scP ((b.toNat : Int) - 160) ((c.toNat : Int) - 160) with
      | none => exact gp_none84 w1 _ g o _ (Hid.mk' hy0) _ m hc hcm hl5 (by omega) (by omega) (by omega) (by omega) _ _ rfl rfl (Hid.mk' he)
      | some q => exact gp_some84 w1 _ g o _ (Hid.mk' hy0) _ m hc hcm hl5 (by omega) (by omega) (by omega) (by omega) _ _ rfl rfl q (Hid.mk' he))
theorem esc_86 (r c : Int) : esc 86 r c = C16.scP r c := by unfold esc; simp
theorem epl_86 (u : Int) : epl 86 u = C16.plT u := by unfold epl; simp
theorem pair_86 (b : UInt8) (r : List UInt8) (h1 : 161 ≤ b.toNat) (h2 : b.toNat ≤ 254) (bo : Option Addr) (n m : Nat) (w : World) (hB : Bytes w bo r) (hn : r.length = n) (hc : n ≤ m) (hcm : m ≤ 9223372036854775807) : Hid (∀ w1, w.grownBy w1 none → Calls Try.prog 19 #[.agg (sK 32 33 false), .int .u8 (b.toNat : Int), .slice bo n m] w1 fun e w2 => e = .returned (gotV (gE 86 (b :: r))) ∧ w1.grownBy w2 none) := Hid.mk' (fun w1 hg => by
  have hB1 := hB.kept0 hg
  have hb := b.toNat_lt
  subst hn
  unfold gE
  rw [if_neg (by decide)]
  simp only
  rw [if_neg (by omega), if_neg (fun h => by omega)]
  cases r with
  | nil => exact gp_one86 w1 _ bo m
  | cons c r =>
    obtain ⟨g, o, rfl, hy0⟩ := first_cell hB1
    have hcc := c.toNat_lt
    have hl5 : 0 < (c :: r).length := by simp
    simp only
    unfold gE2
    by_cases h5 : c.toNat < 161 ∨ 254 < c.toNat
    · rw [if_pos (by omega)]
      exact gp_bad86 w1 _ g o _ (Hid.mk' hy0) _ m hc hcm hl5 h5
    · rw [if_neg (by omega)]
      have e : two 86 b.toNat c.toNat = C16.scP ((b.toNat : Int) - 160) ((c.toNat : Int) - 160) := by
        unfold two
        rw [if_neg (by omega), esc_86]
      rw [e]
      cases he : C16.scP ((b.toNat : Int) - 160) ((c.toNat : Int) - 160) with
      | none => exact gp_none86 w1 _ g o _ (Hid.mk' hy0) _ m hc hcm hl5 (by omega) (by omega) (by omega) (by omega) _ _ rfl rfl (Hid.mk' he)
      | some q => exact gp_some86 w1 _ g o _ (Hid.mk' hy0) _ m hc hcm hl5 (by omega) (by omega) (by omega) (by omega) _ _ rfl rfl q (Hid.mk' he))
theorem half_81 (b : UInt8) (r : List UInt8) (h1 : b.toNat = 142) (bo : Option Addr) (n m : Nat) (w : World) (hB : Bytes w bo r) (hn : r.length = n) (hc : n ≤ m) (hcm : m ≤ 9223372036854775807) : Hid (∀ w1, w.grownBy w1 none → Calls Try.prog 17 #[.slice bo n m] w1 fun e w2 => e = .returned (gotV (gE 81 (b :: r))) ∧ w1.grownBy w2 none) := Hid.mk' (fun w1 hg => by
  have hB1 := hB.kept0 hg
  subst hn
  unfold gE
  rw [if_neg (by decide)]
  simp only
  rw [if_neg (by omega), if_neg (fun h => h.1 (by simpa using h1))]
  cases r with
  | nil => exact gh_one w1 bo m
  | cons c r =>
    obtain ⟨g, o, rfl, hy0⟩ := first_cell hB1
    have hcc := c.toNat_lt
    have hl5 : 0 < (c :: r).length := by simp
    simp only
    unfold gE2
    by_cases h5 : c.toNat < 161 ∨ 223 < c.toNat
    · rw [if_pos (by omega)]
      cases he : C14.haR c.toNat with
      | none => exact gh_bad w1 g o _ (Hid.mk' hy0) _ m hc hcm hl5 (by omega) (Hid.mk' he)
      | some q =>
        have h6 : c.toNat < 161 := by
          rcases h5 with h5 | h5
          · exact h5
          · unfold C14.haR at he
            rw [if_neg (by omega), if_neg (by omega), if_neg (by omega), if_neg (by omega)] at he
            cases he
        exact gh_low w1 g o _ (Hid.mk' hy0) _ m hc hcm hl5 h6 q (Hid.mk' he)
    · rw [if_neg (by omega)]
      have e : two 81 b.toNat c.toNat = some (65377 + (c.toNat - 161)) := by
        unfold two
        rw [if_pos ⟨h1, rfl⟩]
        exact haR_kana (n := 0) (by omega) (by omega)
      rw [e]
      exact gh_ok w1 g o _ (Hid.mk' hy0) _ m hc hcm hl5 (by omega) (by omega) _ (Hid.mk' (haR_kana (n := 0) (by omega) (by omega))))
theorem rest_n {w : World} {g o cap : Nat} {b : UInt8} {r : List UInt8} (h : Bytes w (some ⟨g, o, none⟩) (b :: r)) (hc : (b :: r).length ≤ cap) (h1 : ¬ cap = 1) : Bytes w (some ⟨g, o + 1, none⟩) r := by
  have h2 := h.drop 1 cap hc
  rw [if_neg h1] at h2
  exact h2
theorem rest_z {w : World} {g o : Nat} : Bytes w (some ⟨g, o, none⟩) [] := .inr ⟨_, rfl, fun j hj => by simp at hj⟩
theorem get_81 (ao : Option Addr) (cap : Nat) (L : List UInt8) (w : World) (hB : Bytes w ao L) (hc : L.length ≤ cap) (hcm : cap ≤ 9223372036854775807) : Calls Try.prog 8 #[.int .i64 81, .slice ao L.length cap] w fun e w' => e = .returned (gotV (gE 81 L)) ∧ w.grownBy w' none := by
  cases L with
  | nil => exact pg_more81 ao cap w
  | cons b r =>
    have hB0 := hB
    obtain ⟨g, o, rfl, hy0⟩ := first_cell hB
    have hy := Hid.mk' hy0
    have hb := b.toNat_lt
    have hl1 : 0 < (b :: r).length := by simp
    have hl4 : (((b :: r).length : Int) == 0) = false := by simp; omega
    by_cases h1 : b.toNat < 128
    · have e : gE 81 (b :: r) = (0, 1, 1, (b.toNat : Int)) := by
        unfold gE
        rw [if_neg (by decide)]
        simp only
        rw [if_pos h1]
      rw [e]
      exact pg_low81 w g o _ hy _ cap hc hcm hl1 hl4 h1
    · by_cases h2 : b.toNat < 161 ∨ 254 < b.toNat
      · by_cases h3 : b.toNat = 142
        · by_cases hq : cap = 1
          · subst hq
            obtain rfl : r = [] := by cases r with | nil => rfl | cons x y => simp at hc
            have hp := half_81 b [] h3 _ 0 0 w (rest_z (g := g) (o := o)) rfl (by omega) (by omega)
            exact pg_halfz w g o _ hy (by omega) (by simp; omega) _ _ _ _ hp
          · have hp := half_81 b r h3 _ ((b :: r).length - 1) (cap - 1) w (rest_n hB0 hc hq) (by simp) (by simp at hc ⊢; omega) (by omega)
            exact pg_halfn w g o _ hy _ cap hc hcm hl1 hl4 hq (by omega) (by simp; omega) _ _ _ _ hp
        · have e : gE 81 (b :: r) = (10, 1, 0, 0) := by
            unfold gE
            rw [if_neg (by decide)]
            simp only
            rw [if_neg h1, if_pos (by omega)]
          rw [e]
          exact pg_bad81 w g o _ hy _ cap hc hcm hl1 hl4 (by omega) h3 h2
      · by_cases hq : cap = 1
        · subst hq
          obtain rfl : r = [] := by cases r with | nil => rfl | cons x y => simp at hc
          have hp := pair_81 b [] (by omega) (by omega) _ 0 0 w (rest_z (g := g) (o := o)) rfl (by omega) (by omega)
          exact pg_pairz81 w g o _ hy (by omega) (by omega) _ _ _ _ hp
        · have hp := pair_81 b r (by omega) (by omega) _ ((b :: r).length - 1) (cap - 1) w (rest_n hB0 hc hq) (by simp) (by simp at hc ⊢; omega) (by omega)
          exact pg_pairn81 w g o _ hy _ cap hc hcm hl1 hl4 hq (by omega) (by omega) _ _ _ _ hp
theorem set_any81 (u : Int) (w : World) : Calls Try.prog 12 #[.int .i64 81, .int .i32 u] w fun e w' => e = .returned (putV (sE 81 u)) ∧ w.grownBy w' none := by
  unfold sE
  rw [if_neg (by decide)]
  by_cases h1 : 0 ≤ u ∧ u < 128
  · rw [if_pos h1]
    obtain ⟨n, rfl⟩ : ∃ n : Nat, u = (n : Int) := ⟨u.toNat, by omega⟩
    rw [Int.toNat_natCast]
    exact ps_low81 n (by omega) w
  · rw [if_neg h1]
    cases ep : epl 81 u with
    | mk A q =>
    obtain ⟨B, ok⟩ := q
    have ep2 := ep
    rw [epl_81] at ep2
    cases ok with
    | true =>
      obtain ⟨r1, r2, c1, c2, u0, he⟩ := epl_back ep
      exact ps_place81 u (by omega) A B r2 c2 (Hid.mk' ep2) (A + 160) (B + 160) rfl rfl w
    | false =>
      simp only
      by_cases h3 : u < 0
      · rw [if_neg (by omega)]
        exact ps_nonea81 u h3 A B (Hid.mk' ep2) w
      · by_cases h4 : u < 65377
        · rw [if_neg (by omega)]
          exact ps_noneb81 u (by omega) h4 A B (Hid.mk' ep2) w
        · by_cases h5 : 65439 < u
          · rw [if_neg (by omega)]
            exact ps_nonec81 u h5 A B (Hid.mk' ep2) w
          · rw [if_pos ⟨trivial, by omega, by omega⟩]
            exact ps_half u (by omega) (by omega) _ (by omega) (Hid.mk' (hbR_kana (by omega) (by omega))) A B (Hid.mk' ep2) w
theorem get_84 (ao : Option Addr) (cap : Nat) (L : List UInt8) (w : World) (hB : Bytes w ao L) (hc : L.length ≤ cap) (hcm : cap ≤ 9223372036854775807) : Calls Try.prog 8 #[.int .i64 84, .slice ao L.length cap] w fun e w' => e = .returned (gotV (gE 84 L)) ∧ w.grownBy w' none := by
  cases L with
  | nil => exact pg_more84 ao cap w
  | cons b r =>
    have hB0 := hB
    obtain ⟨g, o, rfl, hy0⟩ := first_cell hB
    have hy := Hid.mk' hy0
    have hb := b.toNat_lt
    have hl1 : 0 < (b :: r).length := by simp
    have hl4 : (((b :: r).length : Int) == 0) = false := by simp; omega
    by_cases h1 : b.toNat < 128
    · have e : gE 84 (b :: r) = (0, 1, 1, (b.toNat : Int)) := by
        unfold gE
        rw [if_neg (by decide)]
        simp only
        rw [if_pos h1]
      rw [e]
      exact pg_low84 w g o _ hy _ cap hc hcm hl1 hl4 h1
    · by_cases h2 : b.toNat < 161 ∨ 254 < b.toNat
      · by_cases h3 : b.toNat = 142
        · have e : gE 84 (b :: r) = (10, 1, 0, 0) := by
            unfold gE
            rw [if_neg (by decide)]
            simp only
            rw [if_neg h1, if_pos (by omega)]
          rw [e]
          exact pg_badl84 w g o _ hy _ cap hc hcm hl1 hl4 (by omega) (by omega) (by simp; omega)
        · have e : gE 84 (b :: r) = (10, 1, 0, 0) := by
            unfold gE
            rw [if_neg (by decide)]
            simp only
            rw [if_neg h1, if_pos (by omega)]
          rw [e]
          exact pg_bad84 w g o _ hy _ cap hc hcm hl1 hl4 (by omega) h3 h2
      · by_cases hq : cap = 1
        · subst hq
          obtain rfl : r = [] := by cases r with | nil => rfl | cons x y => simp at hc
          have hp := pair_84 b [] (by omega) (by omega) _ 0 0 w (rest_z (g := g) (o := o)) rfl (by omega) (by omega)
          exact pg_pairz84 w g o _ hy (by omega) (by omega) _ _ _ _ hp
        · have hp := pair_84 b r (by omega) (by omega) _ ((b :: r).length - 1) (cap - 1) w (rest_n hB0 hc hq) (by simp) (by simp at hc ⊢; omega) (by omega)
          exact pg_pairn84 w g o _ hy _ cap hc hcm hl1 hl4 hq (by omega) (by omega) _ _ _ _ hp
theorem set_any84 (u : Int) (w : World) : Calls Try.prog 12 #[.int .i64 84, .int .i32 u] w fun e w' => e = .returned (putV (sE 84 u)) ∧ w.grownBy w' none := by
  unfold sE
  rw [if_neg (by decide)]
  by_cases h1 : 0 ≤ u ∧ u < 128
  · rw [if_pos h1]
    obtain ⟨n, rfl⟩ : ∃ n : Nat, u = (n : Int) := ⟨u.toNat, by omega⟩
    rw [Int.toNat_natCast]
    exact ps_low84 n (by omega) w
  · rw [if_neg h1]
    cases ep : epl 84 u with
    | mk A q =>
    obtain ⟨B, ok⟩ := q
    have ep2 := ep
    rw [epl_84] at ep2
    cases ok with
    | true =>
      obtain ⟨r1, r2, c1, c2, u0, he⟩ := epl_back ep
      exact ps_place84 u (by omega) A B r2 c2 (Hid.mk' ep2) (A + 160) (B + 160) rfl rfl w
    | false =>
      simp only
      by_cases h3 : u < 0
      · rw [if_neg (by omega)]
        exact ps_nonea84 u h3 A B (Hid.mk' ep2) w
      · rw [if_neg (by omega)]
        exact ps_noneb84 u (by omega) A B (Hid.mk' ep2) w
theorem get_86 (ao : Option Addr) (cap : Nat) (L : List UInt8) (w : World) (hB : Bytes w ao L) (hc : L.length ≤ cap) (hcm : cap ≤ 9223372036854775807) : Calls Try.prog 8 #[.int .i64 86, .slice ao L.length cap] w fun e w' => e = .returned (gotV (gE 86 L)) ∧ w.grownBy w' none := by
  cases L with
  | nil => exact pg_more86 ao cap w
  | cons b r =>
    have hB0 := hB
    obtain ⟨g, o, rfl, hy0⟩ := first_cell hB
    have hy := Hid.mk' hy0
    have hb := b.toNat_lt
    have hl1 : 0 < (b :: r).length := by simp
    have hl4 : (((b :: r).length : Int) == 0) = false := by simp; omega
    by_cases h1 : b.toNat < 128
    · have e : gE 86 (b :: r) = (0, 1, 1, (b.toNat : Int)) := by
        unfold gE
        rw [if_neg (by decide)]
        simp only
        rw [if_pos h1]
      rw [e]
      exact pg_low86 w g o _ hy _ cap hc hcm hl1 hl4 h1
    · by_cases h2 : b.toNat < 161 ∨ 254 < b.toNat
      · by_cases h3 : b.toNat = 142
        · have e : gE 86 (b :: r) = (10, 1, 0, 0) := by
            unfold gE
            rw [if_neg (by decide)]
            simp only
            rw [if_neg h1, if_pos (by omega)]
          rw [e]
          exact pg_badl86 w g o _ hy _ cap hc hcm hl1 hl4 (by omega) (by omega) (by simp; omega)
        · have e : gE 86 (b :: r) = (10, 1, 0, 0) := by
            unfold gE
            rw [if_neg (by decide)]
            simp only
            rw [if_neg h1, if_pos (by omega)]
          rw [e]
          exact pg_bad86 w g o _ hy _ cap hc hcm hl1 hl4 (by omega) h3 h2
      · by_cases hq : cap = 1
        · subst hq
          obtain rfl : r = [] := by cases r with | nil => rfl | cons x y => simp at hc
          have hp := pair_86 b [] (by omega) (by omega) _ 0 0 w (rest_z (g := g) (o := o)) rfl (by omega) (by omega)
          exact pg_pairz86 w g o _ hy (by omega) (by omega) _ _ _ _ hp
        · have hp := pair_86 b r (by omega) (by omega) _ ((b :: r).length - 1) (cap - 1) w (rest_n hB0 hc hq) (by simp) (by simp at hc ⊢; omega) (by omega)
          exact pg_pairn86 w g o _ hy _ cap hc hcm hl1 hl4 hq (by omega) (by omega) _ _ _ _ hp
theorem set_any86 (u : Int) (w : World) : Calls Try.prog 12 #[.int .i64 86, .int .i32 u] w fun e w' => e = .returned (putV (sE 86 u)) ∧ w.grownBy w' none := by
  unfold sE
  rw [if_neg (by decide)]
  by_cases h1 : 0 ≤ u ∧ u < 128
  · rw [if_pos h1]
    obtain ⟨n, rfl⟩ : ∃ n : Nat, u = (n : Int) := ⟨u.toNat, by omega⟩
    rw [Int.toNat_natCast]
    exact ps_low86 n (by omega) w
  · rw [if_neg h1]
    cases ep : epl 86 u with
    | mk A q =>
    obtain ⟨B, ok⟩ := q
    have ep2 := ep
    rw [epl_86] at ep2
    cases ok with
    | true =>
      obtain ⟨r1, r2, c1, c2, u0, he⟩ := epl_back ep
      exact ps_place86 u (by omega) A B r2 c2 (Hid.mk' ep2) (A + 160) (B + 160) rfl rfl w
    | false =>
      simp only
      by_cases h3 : u < 0
      · rw [if_neg (by omega)]
        exact ps_nonea86 u h3 A B (Hid.mk' ep2) w
      · rw [if_neg (by omega)]
        exact ps_noneb86 u (by omega) A B (Hid.mk' ep2) w
theorem con : Con (fun _ => True) where
  keep _ _ := trivial
  has k hk H hH w _ := has_any k H hH w
  get k hk ao cap L n hn w hB hc hcm _ := by
    subst hn
    cases h : has k with
    | false =>
      have e : gE k L = (5, 0, 0, 0) := by unfold gE; rw [if_pos h]
      rw [e]
      exact pg_kind k (Hid.mk' h) ao _ cap w
    | true =>
      rcases has_yes h with rfl | rfl | rfl
      · exact get_81 ao cap L w hB hc hcm
      · exact get_84 ao cap L w hB hc hcm
      · exact get_86 ao cap L w hB hc hcm
  set k hk u hu w _ := by
    cases h : has k with
    | false =>
      have e : sE k u = (5, []) := by unfold sE; rw [if_pos h]
      rw [e]
      exact ps_kind k (Hid.mk' h) u w
    | true =>
      rcases has_yes h with rfl | rfl | rfl
      · exact set_any81 u w
      · exact set_any84 u w
      · exact set_any86 u w
end Go.Proofs.Ytcbjkamjkaiofaa.C17

/- The laws of layer 17 over the program's contracts (text EQ17: con). -/
namespace Go.Proofs.Ytcbjkamjkaiofaa.C17
open Go.RowKit Go.Proofs.Ytcbjkamjkaiofaa.Mem
set_option linter.unusedVariables false

theorem below_g {w w' : World} (h : w.grownBy w' none) : Below w.heap.size w w' := ⟨h.os, h.tape, h.output, h.size, fun k hk => h.block k hk (by simp)⟩
theorem wf64 {n : Int} (h : (Lit.int .i64 n).wf = true) : I64 n := by
  rw [Lit.wf_int_iff] at h
  exact h
theorem wf32 {n : Int} (h : (Lit.int .i32 n).wf = true) : I32 n := by
  rw [Lit.wf_int_iff] at h
  exact h
theorem gets_law (a : Int) (ao : Option Addr) (cap : Nat) (L : List UInt8) (w : World) (ha : (Lit.int .i64 a).wf = true) (hB : Bytes w ao L) (hLc : L.length ≤ cap) (hcm : cap ≤ 140737488351232) : Calls Try.prog 3 #[.int .i64 a, .slice ao L.length cap] w fun e w' => e = .returned (.bool true) ∧ Below w.heap.size w w' :=
  (gets_walk con a (wf64 ha) ao cap L w trivial hB hLc hcm).mono (fun e w' h => ⟨h.1, below_g h.2⟩)
theorem sets_law (a b : Int) (ha : (Lit.int .i64 a).wf = true) (hb : (Lit.int .i32 b).wf = true) (w : World) : Calls Try.prog 4 #[.int .i64 a, .int .i32 b] w fun e w' => e = .returned (.bool true) ∧ Below w.heap.size w w' :=
  (sets_walk con a (wf64 ha) b (wf32 hb) w trivial).mono (fun e w' h => ⟨h.1, below_g h.2⟩)
theorem back_law (a b : Int) (ao : Option Addr) (cap : Nat) (L : List UInt8) (w : World) (ha : (Lit.int .i64 a).wf = true) (hb : (Lit.int .i32 b).wf = true) (hB : Bytes w ao L) (hLc : L.length ≤ cap) (hcm : cap ≤ 140737488351232) : Calls Try.prog 5 #[.int .i64 a, .int .i32 b, .slice ao L.length cap] w fun e w' => e = .returned (.bool true) ∧ Below w.heap.size w w' :=
  (back_walk con a b (wf32 hb) ao cap L w trivial hB hLc hcm).mono (fun e w' h => ⟨h.1, below_g h.2⟩)
theorem pairs_law (a b : Int) (ha : (Lit.int .i64 a).wf = true) (hb : (Lit.int .i64 b).wf = true) (w : World) : Calls Try.prog 6 #[.int .i64 a, .int .i64 b] w fun e w' => e = .returned (.bool true) ∧ Below w.heap.size w w' :=
  (pairs_walk con a b w trivial).mono (fun e w' h => ⟨h.1, below_g h.2⟩)
theorem plain_law (a b : Int) (ao : Option Addr) (cap : Nat) (L : List UInt8) (w : World) (ha : (Lit.int .i64 a).wf = true) (hb : (Lit.int .i32 b).wf = true) (hB : Bytes w ao L) (hLc : L.length ≤ cap) (hcm : cap ≤ 140737488351232) : Calls Try.prog 7 #[.int .i64 a, .int .i32 b, .slice ao L.length cap] w fun e w' => e = .returned (.bool true) ∧ Below w.heap.size w w' :=
  (plain_walk con a b (wf32 hb) ao cap L w trivial hB hLc hcm).mono (fun e w' h => ⟨h.1, below_g h.2⟩)
end Go.Proofs.Ytcbjkamjkaiofaa.C17

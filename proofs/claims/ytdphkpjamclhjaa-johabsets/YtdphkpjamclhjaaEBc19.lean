/- JohabBack: walks, a way each. -/
import Derived.Test.YtdphkpjamclhjaaJX19
import Derived.Test.YtdphkpjamclhjaaCw
import Derived.Test.YtdphkpjamclhjaaConvApp
import Derived.Test.YtdphkpjamclhjaaRegion
import Derived.Deep.RegionHeld3
import Derived.BigQuiet
namespace Go.Proofs.Ytdphkpjamclhjaa.C19
open Go.ChangeShapes Go.WideShapes Go.ChangeAt Go.RowKit Go.Proofs.Ytdphkpjamclhjaa.Mem Go.Proofs.Ytdphkpjamclhjaa.Cb Go.Proofs.Ytdphkpjamclhjaa.Sp
set_option linter.unusedVariables false
set_option linter.unusedSimpArgs false

set_option maxRecDepth 100000 in
set_option maxHeartbeats 1000000 in
theorem back_ok_ok {P : World → Prop} (C : Con P) (u : Int) (ao : Option Addr) (cap : Nat) (L : List UInt8) (hu : I32 u) (bs : List UInt8) (hbl : bs.length ≤ 2) (hS : sE u = (0, bs)) (m v : Nat) (hG : gE L = (0, (m : Int), 1, (v : Int))) (hv : v ≤ 65535) (hm1 : 1 ≤ m) (hm2 : m ≤ 2) (hm3 : m ≤ L.length) (hS2 : sE (v : Int) = (0, L.take m)) (w : World) (hw : P w) (hB : Bytes w ao L) (hLc : L.length ≤ cap) (hcm : cap ≤ 140737488351232) : Calls Try.prog 6 #[.int .i32 u, .slice ao L.length cap] w fun e w' => e = .returned (.bool true) ∧ w.grownBy w' none := by
  have a0 := Hid.mk' (fun w hw => works_any C w hw)
  have Kp := Hid.mk' (fun (a b : World) (h : P a) (g : a.grownBy b none) => C.keep h g)
  have hq := Hid.mk' hw
  have a1 := C.put u hu _ _ hS
  have a2 : Hid (∀ ao cap w, Bytes w ao (bs ++ L) → (bs ++ L).length ≤ cap → cap ≤ 9223372036854775807 → P w → Calls Try.prog 9 #[.slice ao (bs ++ L).length cap] w fun e w' => e = .returned (gV 0 (bs.length : Int) 1 u) ∧ w.grownBy w' none) := Hid.mk' (fun ao cap w h1 h2 h3 h4 => (C.got (bs ++ L) _ _ _ _ (back_plain hS L)).out _ rfl ao cap w h1 h2 h3 h4)
  have hsz : (str bs).size = bs.length := str_size _
  have hsd : (str bs).data.toList = bs := str_data _
  have huu : (u == u) = true := by simp
  have a3 := C.got L _ _ _ _ hG
  have a4 := C.put (v : Int) (by unfold I32; omega) _ _ hS2
  have htl : (L.take m).length = m := by rw [List.length_take]; omega
  have hcvt : Hid (∀ wx, Bytes wx ao L → (convert 22 9 (.slice ao m cap)).run Try.prog wx = .ok (.string (str (L.take m))) wx) := Hid.mk' (fun wx h => by
    have := conv (h.take m) 22 9 cap Try.underlying22 Try.underlying5 Try.underlying9
    rw [htl] at this
    exact this)
  generalize str (L.take m) = s2 at *
  have hd1 : decide ((m : Int) ≤ (L.length : Int)) = true := by simp; omega
  have hd2 : (0 : Int) ≤ (m : Int) := by omega
  have hd3 : (m : Int) ≤ (cap : Int) := by omega
  have hd4 : m ≤ cap := by omega
  obtain ⟨i0, hi, hz0, hz1, hz2⟩ := info_parts info5
  have HB : Hid (Bytes w ao L) := Hid.mk' hB
  have hLl : L.length ≤ 140737488351232 := by omega
  generalize str bs = s at *
  obtain ⟨n, hn⟩ : ∃ n, bs.length = n := ⟨_, rfl⟩
  have hn0 := Hid.mk' hn
  have hsd0 := Hid.mk' hsd
  rw [hn] at hsz a2 hbl
  have hsz0 := Hid.mk' hsz
  clear hn hsd
  clear hw C hu hS hG hB hS2 htl
  go_enter Try.func6, Try.ntmps6
  go_upto_region 3 with (go_at_call 17; refine (a0.out _ hq.out).mono ?_; rintro e w2 ⟨rfl, hg1, hp1⟩; have hq2 := Hid.mk' hp1; have hG0 := Hid.mk' hg1)
  clear hg1 hp1 a0 hq
  go_upto_region 4 with (first
    | (go_at_call 11; refine (a1.out _ hq2.out).mono ?_; rintro e w3 ⟨rfl, hg3⟩)
    | (refine wpList_allocC _ rfl 32 rfl (pZ 0 ⟨#[]⟩) (zeroP _) ?_; intro w4 p4 hg4)
    | (refine wpList_storeC _ rfl 32 _ _ rfl _ (pZ 0 ⟨#[]⟩) (pZ 0 s) infoP rfl (pC_one _ _ _ _ _ _) rfl rfl p4 ?_; intro w5 p5 hg5))
  have hG5 : Hid (w2.grownBy w5 none) := Hid.mk' (grownBy_new (gt hg3 hg4) hg5 (fun k hk => by have h5 := Option.some.inj hk; have h6 := hg3.size; omega))
  have hGw : Hid (w.grownBy w5 none) := Hid.mk' (gt hG0.out hG5.out)
  have hq5 := Hid.mk' (Kp.out _ _ hq2.out hG5.out)
  clear hg3 hg4 hg5 p4 hq2 hG0 hG5 a1
  generalize w3.heap.size = PB at *
  have HB5 : Hid (Bytes w5 ao L) := Hid.mk' (HB.out.kept0 hGw.out)
  have hcl : Hid (∀ wx, w5.grownBy wx none → (fun w' => w'.cell? ⟨PB, 0, none⟩ = some (.int .i64 0) ∧ w'.cell? ⟨PB, 1, none⟩ = some (.string s)) wx) := Hid.mk' (fun wx hg => ⟨(p5.kept0 hg).cell 0 rfl, (p5.kept0 hg).cell 1 rfl⟩)
  obtain ⟨c6, w6, hcvt, hE6, hg6⟩ := conv_own (P := Try.prog) w5.drew 9 22 s Try.underlying9 Try.underlying22 Try.underlying5 (by have := hsz0.out; omega)
  rw [hsd0.out] at hcvt hE6
  have hg56 : Hid (w5.grownBy w6 none) := Hid.mk' (grownBy_of_drew hg6)
  obtain ⟨ao7, c7, w7, hrun, hB7, hg7, hq71, hq72⟩ := run_append_EC (P := Try.prog) w6 22 22 22 i0 Try.underlying22 hi hz0 hz1 hz2 w5.drew.heap.size c6 bs hE6 (.slice ao L.length cap) L (src_of (HB5.out.kept0 hg56.out) 22 cap Try.underlying22) (by have := hn0.out; omega)
  have hg57 : Hid (w5.grownBy w7 none) := Hid.mk' (grownBy_new hg56.out hg7 (fun g e => by have h5 := Option.some.inj e; have h6 : w5.drew.heap.size = w5.heap.size := rfl; omega))
  replace hq72 : c7 ≤ 9223372036854775807 := hq72
  obtain ⟨M, hM⟩ : ∃ M, bs ++ L = M := ⟨_, rfl⟩
  rw [hM] at a2 hrun hB7 hq71
  clear hM
  rw [hn0.out] at hcvt hrun
  have hS0 := hcl.out _ (grownBy_drew (grownBy_refl w5 none))
  have hB70 := Hid.mk' hB7
  clear hE6 hg6 hg7 hB7 p5 hn0 hsd0
  refine wp_region_held_drew (S := fun w' => w'.cell? ⟨PB, 0, none⟩ = some (.int .i64 0) ∧ w'.cell? ⟨PB, 1, none⟩ = some (.string s)) (by kernel_rfl) hS0 (fun hHeld => ?_)
  refine wpAnyH_take (i := 0) (v := ?_) rfl (by kernel_rfl) (by kernel_rfl) (by kernel_rfl) (fun _ _ _ h => h) (Or.inl ⟨by rfl, ?_⟩) (by assumption) ?_; rotate_left
  · (intro w hSw; (try dsimp only at hSw); go_simp; try with_reducible rfl)
  try simp only [List.getElem_toArray, List.getElem_cons_zero, Act.put, List.setIfInBounds_toArray, List.set_cons_zero, List.set_cons_succ]
  refine wpAnyH_take (i := 1) (v := ?_) rfl (by kernel_rfl) (by kernel_rfl) (by kernel_rfl) (fun _ _ _ h => h) (Or.inl ⟨by rfl, ?_⟩) (by assumption) ?_; rotate_left
  · (intro w hSw; (try dsimp only at hSw); go_simp; try with_reducible rfl)
  try simp only [List.getElem_toArray, List.getElem_cons_zero, List.getElem_cons_succ, Act.put, List.setIfInBounds_toArray, List.set_cons_zero, List.set_cons_succ]
  refine wpAnyH_take (i := 2) (v := ?_) rfl (by kernel_rfl) (by kernel_rfl) (by kernel_rfl) (fun _ _ _ h => h) (Or.inl ⟨by rfl, ?_⟩) (by assumption) ?_; rotate_left
  · (intro w hSw; (try dsimp only at hSw); go_simp; try with_reducible rfl)
  try simp only [List.getElem_toArray, List.getElem_cons_zero, List.getElem_cons_succ, Act.put, List.setIfInBounds_toArray, List.set_cons_zero, List.set_cons_succ]
  refine wpAnyH_take (i := 3) (v := ?_) rfl (by kernel_rfl) (by kernel_rfl) (by kernel_rfl) (fun _ _ _ h => h) (Or.inl ⟨by rfl, ?_⟩) (by assumption) ?_; rotate_left
  · (intro w hSw; (try dsimp only at hSw); go_simp; try with_reducible rfl)
  try simp only [List.getElem_toArray, List.getElem_cons_zero, List.getElem_cons_succ, Act.put, List.setIfInBounds_toArray, List.set_cons_zero, List.set_cons_succ]
  refine wpAnyH_take (i := 4) (v := ?_) rfl (by kernel_rfl) (by kernel_rfl) (by kernel_rfl) (fun _ _ _ h => h) (Or.inl ⟨by rfl, ?_⟩) (by assumption) ?_; rotate_left
  · (intro w hSw; (try dsimp only at hSw); go_simp; try with_reducible rfl)
  try simp only [List.getElem_toArray, List.getElem_cons_zero, List.getElem_cons_succ, Act.put, List.setIfInBounds_toArray, List.set_cons_zero, List.set_cons_succ]
  refine wpAnyH_take (i := 5) (v := ?_) rfl (by kernel_rfl) (by kernel_rfl) (by kernel_rfl) (fun _ _ _ h => h) (Or.inl ⟨by rfl, ?_⟩) (by assumption) ?_; rotate_left
  · (intro w hSw; (try dsimp only at hSw); go_simp; try with_reducible rfl)
  try simp only [List.getElem_toArray, List.getElem_cons_zero, List.getElem_cons_succ, Act.put, List.setIfInBounds_toArray, List.set_cons_zero, List.set_cons_succ]
  refine wpAnyH_take (i := 7) (v := ?_) rfl (by kernel_rfl) (by kernel_rfl) (by kernel_rfl) (fun _ _ _ h => h) (Or.inl ⟨by rfl, ?_⟩) (by assumption) ?_; rotate_left
  · (intro w hSw; (try dsimp only at hSw); go_simp; try with_reducible rfl)
  try simp only [List.getElem_toArray, List.getElem_cons_zero, List.getElem_cons_succ, Act.put, List.setIfInBounds_toArray, List.set_cons_zero, List.set_cons_succ]
  refine wpAnyH_take (i := 10) (v := ?_) rfl (by kernel_rfl) (by kernel_rfl) (by kernel_rfl) (fun _ _ _ h => h) (Or.inl ⟨by rfl, ?_⟩) (by assumption) ?_; rotate_left
  · (intro w hSw; (try dsimp only at hSw); go_simp; try with_reducible rfl)
  try simp only [List.getElem_toArray, List.getElem_cons_zero, List.getElem_cons_succ, Act.put, List.setIfInBounds_toArray, List.set_cons_zero, List.set_cons_succ]
  refine wpAnyH_take (i := 11) (v := ?_) rfl (by kernel_rfl) (by kernel_rfl) (by kernel_rfl) (fun _ _ _ h => h) (Or.inl ⟨by rfl, ?_⟩) (by assumption) ?_; rotate_left
  · (intro w hSw; (try dsimp only at hSw); go_simp; try with_reducible rfl)
  try simp only [List.getElem_toArray, List.getElem_cons_zero, List.getElem_cons_succ, Act.put, List.setIfInBounds_toArray, List.set_cons_zero, List.set_cons_succ]
  refine wpAnyH_take (i := 12) (v := ?_) rfl (by kernel_rfl) (by kernel_rfl) (by kernel_rfl) (fun _ _ _ h => h) (Or.inl ⟨by rfl, ?_⟩) (by assumption) ?_; rotate_left
  · (intro w hSw; (try dsimp only at hSw); go_simp; try with_reducible rfl)
  try simp only [List.getElem_toArray, List.getElem_cons_zero, List.getElem_cons_succ, Act.put, List.setIfInBounds_toArray, List.set_cons_zero, List.set_cons_succ]
  refine wpAnyH_take (i := 13) (v := ?_) rfl (by kernel_rfl) (by kernel_rfl) (by kernel_rfl) (fun _ _ _ h => h) (Or.inl ⟨by rfl, ?_⟩) (by assumption) ?_; rotate_left
  · (intro w hSw; (try dsimp only at hSw); go_simp; try with_reducible rfl)
  try simp only [List.getElem_toArray, List.getElem_cons_zero, List.getElem_cons_succ, Act.put, List.setIfInBounds_toArray, List.set_cons_zero, List.set_cons_succ]
  refine wpAnyH_take (i := 14) (v := ?_) rfl (by kernel_rfl) (by kernel_rfl) (by kernel_rfl) (fun _ _ _ h => h) (Or.inl ⟨by rfl, ?_⟩) (by assumption) ?_; rotate_left
  · (intro w hSw; (try dsimp only at hSw); go_simp; try with_reducible rfl)
  try simp only [List.getElem_toArray, List.getElem_cons_zero, List.getElem_cons_succ, Act.put, List.setIfInBounds_toArray, List.set_cons_zero, List.set_cons_succ]
  refine wpAnyH_ready (rs := [6]) (by kernel_rfl) (by simp) ?_
  refine AllReadyH.cons rfl (fun K hK => ?_) AllReadyH.nil
  refine step_run (by rfl) (exec_convert _ _ _ (by rfl) (by simp [Act.eval]) hcvt) ?_
  refine hK.out _ _ (hcl.out _ hg56.out) (fun hHeld => ?_)
  clear hK K
  try simp only [List.getElem_toArray, List.getElem_cons_zero, List.getElem_cons_succ, Act.put, List.setIfInBounds_toArray, List.set_cons_zero, List.set_cons_succ]
  refine wpAnyH_ready (rs := [8]) (by kernel_rfl) (by simp) ?_
  refine AllReadyH.cons rfl (fun K hK => ?_) AllReadyH.nil
  refine step_run (by rfl) (exec_append _ _ _ _ (by rfl) (by simp [Act.eval]) (by simp [Act.eval]) hrun) ?_
  refine hK.out _ _ (hcl.out _ hg57.out) (fun hHeld => ?_)
  clear hK K
  try simp only [List.getElem_toArray, List.getElem_cons_zero, List.getElem_cons_succ, Act.put, List.setIfInBounds_toArray, List.set_cons_zero, List.set_cons_succ]
  refine wpAnyH_ready (rs := [9]) (by kernel_rfl) (by simp) ?_
  refine AllReadyH.cons rfl (fun K hK => ?_) AllReadyH.nil
  go_simp
  refine (a2.out ao7 c7 _ hB70.out hq71 hq72 (Kp.out _ _ hq5.out hg57.out)).mono ?_; rintro e w8 ⟨rfl, hg8⟩; have hg58 : Hid (w5.grownBy w8 none) := Hid.mk' (gt hg57.out hg8); try dsimp only
  refine hK.out _ _ (hcl.out _ hg58.out) (fun hHeld => ?_)
  clear hK K
  try simp only [List.getElem_toArray, List.getElem_cons_zero, List.getElem_cons_succ, Act.put, List.setIfInBounds_toArray, List.set_cons_zero, List.set_cons_succ]
  refine wpAnyH_take (i := 15) (v := ?_) rfl (by kernel_rfl) (by kernel_rfl) (by kernel_rfl) (fun _ _ _ h => h) (Or.inl ⟨by rfl, ?_⟩) (by assumption) ?_; rotate_left
  · (intro w hSw; (try dsimp only at hSw); go_simp; try with_reducible rfl)
  try simp only [List.getElem_toArray, List.getElem_cons_zero, List.getElem_cons_succ, Act.put, List.setIfInBounds_toArray, List.set_cons_zero, List.set_cons_succ]
  refine wpAnyH_take (i := 16) (v := ?_) rfl (by kernel_rfl) (by kernel_rfl) (by kernel_rfl) (fun _ _ _ h => h) (Or.inl ⟨by rfl, ?_⟩) (by assumption) ?_; rotate_left
  · (intro w hSw; (try dsimp only at hSw); go_simp; try with_reducible rfl)
  try simp only [List.getElem_toArray, List.getElem_cons_zero, List.getElem_cons_succ, Act.put, List.setIfInBounds_toArray, List.set_cons_zero, List.set_cons_succ]
  refine wpAnyH_done (by kernel_rfl) ?_ _
  have hG8 : Hid (w.grownBy w8 none) := Hid.mk' (gt hGw.out hg58.out)
  have hq8 := Hid.mk' (Kp.out _ _ hq5.out hg58.out)
  have HB8 : Hid (Bytes w8 ao L) := Hid.mk' (HB5.out.kept0 hg58.out)
  clear hg56 hg57 hg58 hg8 hcvt hrun hB70 hq71 hq72 a2 hGw hq5 HB5 hcl hS0 hHeld
  go_upto_region 7 with (first
    | (go_at_call 9; refine (a3.out _ rfl ao cap _ HB8.out hLc (by omega) hq8.out).mono ?_; rintro e w9 ⟨rfl, hg9⟩)
    | (refine wpList_allocC _ rfl 28 rfl (gZ 0 0 0 0) (zeroG _) ?_; intro w10 g10 hg10)
    | (refine wpList_storeC _ rfl 28 _ _ rfl _ (gZ 0 0 0 0) (gZ 0 (m : Int) 1 (v : Int)) infoG rfl (gC_one _ _ _ _ _ _ _ _ _) rfl rfl g10 ?_; intro w11 g11 hg11))
  have hG11 : Hid (w8.grownBy w11 none) := Hid.mk' (grownBy_new (gt hg9 hg10) hg11 (fun k hk => by have h5 := Option.some.inj hk; have h6 := hg9.size; omega))
  have hGx : Hid (w.grownBy w11 none) := Hid.mk' (gt hG8.out hG11.out)
  have hq11 := Hid.mk' (Kp.out _ _ hq8.out hG11.out)
  have HB11 : Hid (Bytes w11 ao L) := Hid.mk' (HB8.out.kept0 hG11.out)
  clear hg9 hg10 hg11 g10 a3 hG8 hq8 HB8 hG11
  generalize w9.heap.size = GB at *
  have z0 := g11.cell 0 (v := .int .i64 0) rfl
  go_upto_region 9 with (fail)
  have hcl2 : Hid (∀ wx, w11.grownBy wx none → (fun w' => w'.cell? ⟨GB, 1, none⟩ = some (.int .i64 (m : Int)) ∧ w'.cell? ⟨GB, 3, none⟩ = some (.int .i32 (v : Int)) ∧ (convert 22 9 (.slice ao m cap)).run Try.prog w' = .ok (.string s2) w') wx) := Hid.mk' (fun wx hg => ⟨(g11.kept0 hg).cell 1 rfl, (g11.kept0 hg).cell 3 rfl, hcvt.out _ (HB11.out.kept0 hg)⟩)
  have hS0 := hcl2.out _ (grownBy_drew (grownBy_refl w11 none))
  clear g11 z0
  refine wp_region_held_drew (S := fun w' => w'.cell? ⟨GB, 1, none⟩ = some (.int .i64 (m : Int)) ∧ w'.cell? ⟨GB, 3, none⟩ = some (.int .i32 (v : Int)) ∧ (convert 22 9 (.slice ao m cap)).run Try.prog w' = .ok (.string s2) w') (by kernel_rfl) hS0 (fun hHeld => ?_)
  refine wpAnyH_take (i := 0) (v := ?_) rfl (by kernel_rfl) (by kernel_rfl) (by kernel_rfl) (fun _ _ _ h => h) (Or.inl ⟨by rfl, ?_⟩) (by assumption) ?_; rotate_left
  · (intro w hSw; (try dsimp only at hSw); go_simp; try with_reducible rfl)
  try simp only [List.getElem_toArray, List.getElem_cons_zero, Act.put, List.setIfInBounds_toArray, List.set_cons_zero, List.set_cons_succ]
  refine wpAnyH_take (i := 1) (v := ?_) rfl (by kernel_rfl) (by kernel_rfl) (by kernel_rfl) (fun _ _ _ h => h) (Or.inl ⟨by rfl, ?_⟩) (by assumption) ?_; rotate_left
  · (intro w hSw; (try dsimp only at hSw); go_simp; try with_reducible rfl)
  try simp only [List.getElem_toArray, List.getElem_cons_zero, List.getElem_cons_succ, Act.put, List.setIfInBounds_toArray, List.set_cons_zero, List.set_cons_succ]
  refine wpAnyH_take (i := 2) (v := ?_) rfl (by kernel_rfl) (by kernel_rfl) (by kernel_rfl) (fun _ _ _ h => h) (Or.inl ⟨by rfl, ?_⟩) (by assumption) ?_; rotate_left
  · (intro w hSw; (try dsimp only at hSw); go_simp; try with_reducible rfl)
  try simp only [List.getElem_toArray, List.getElem_cons_zero, List.getElem_cons_succ, Act.put, List.setIfInBounds_toArray, List.set_cons_zero, List.set_cons_succ]
  refine wpAnyH_take (i := 3) (v := ?_) rfl (by kernel_rfl) (by kernel_rfl) (by kernel_rfl) (fun _ _ _ h => h) (Or.inl ⟨by rfl, ?_⟩) (by assumption) ?_; rotate_left
  · (intro w hSw; (try dsimp only at hSw); go_simp; try with_reducible rfl)
  try simp only [List.getElem_toArray, List.getElem_cons_zero, List.getElem_cons_succ, Act.put, List.setIfInBounds_toArray, List.set_cons_zero, List.set_cons_succ]
  refine wpAnyH_take (i := 4) (v := ?_) rfl (by kernel_rfl) (by kernel_rfl) (by kernel_rfl) (fun _ _ _ h => h) (Or.inl ⟨by rfl, ?_⟩) (by assumption) ?_; rotate_left
  · (intro w hSw; (try dsimp only at hSw); go_simp; try with_reducible rfl)
  try simp only [List.getElem_toArray, List.getElem_cons_zero, List.getElem_cons_succ, Act.put, List.setIfInBounds_toArray, List.set_cons_zero, List.set_cons_succ]
  refine wpAnyH_take (i := 5) (v := ?_) rfl (by kernel_rfl) (by kernel_rfl) (by kernel_rfl) (fun _ _ _ h => h) (Or.inl ⟨by rfl, ?_⟩) (by assumption) ?_; rotate_left
  · (intro w hSw; (try dsimp only at hSw); go_simp; try with_reducible rfl)
  try simp only [List.getElem_toArray, List.getElem_cons_zero, List.getElem_cons_succ, Act.put, List.setIfInBounds_toArray, List.set_cons_zero, List.set_cons_succ]
  refine wpAnyH_take (i := 6) (v := ?_) rfl (by kernel_rfl) (by kernel_rfl) (by kernel_rfl) (fun _ _ _ h => h) (Or.inl ⟨by rfl, ?_⟩) (by assumption) ?_; rotate_left
  · (intro w hSw; (try dsimp only at hSw); go_simp; try with_reducible rfl)
  try simp only [List.getElem_toArray, List.getElem_cons_zero, List.getElem_cons_succ, Act.put, List.setIfInBounds_toArray, List.set_cons_zero, List.set_cons_succ]
  refine wpAnyH_take (i := 7) (v := ?_) rfl (by kernel_rfl) (by kernel_rfl) (by kernel_rfl) (fun _ _ _ h => h) (Or.inl ⟨by rfl, ?_⟩) (by assumption) ?_; rotate_left
  · (intro w hSw; (try dsimp only at hSw); go_simp; try with_reducible rfl)
  try simp only [List.getElem_toArray, List.getElem_cons_zero, List.getElem_cons_succ, Act.put, List.setIfInBounds_toArray, List.set_cons_zero, List.set_cons_succ]
  refine wpAnyH_take (i := 9) (v := ?_) rfl (by kernel_rfl) (by kernel_rfl) (by kernel_rfl) (fun _ _ _ h => h) (Or.inl ⟨by rfl, ?_⟩) (by assumption) ?_; rotate_left
  · (intro w hSw; (try dsimp only at hSw); go_simp; try with_reducible rfl)
  try simp only [List.getElem_toArray, List.getElem_cons_zero, List.getElem_cons_succ, Act.put, List.setIfInBounds_toArray, List.set_cons_zero, List.set_cons_succ]
  refine wpAnyH_take (i := 10) (v := ?_) rfl (by kernel_rfl) (by kernel_rfl) (by kernel_rfl) (fun _ _ _ h => h) (Or.inl ⟨by rfl, ?_⟩) (by assumption) ?_; rotate_left
  · (intro w hSw; (try dsimp only at hSw); go_simp; try with_reducible rfl)
  try simp only [List.getElem_toArray, List.getElem_cons_zero, List.getElem_cons_succ, Act.put, List.setIfInBounds_toArray, List.set_cons_zero, List.set_cons_succ]
  refine wpAnyH_take (i := 11) (v := ?_) rfl (by kernel_rfl) (by kernel_rfl) (by kernel_rfl) (fun _ _ _ h => h) (Or.inl ⟨by rfl, ?_⟩) (by assumption) ?_; rotate_left
  · (intro w hSw; (try dsimp only at hSw); go_simp; try with_reducible rfl)
  try simp only [List.getElem_toArray, List.getElem_cons_zero, List.getElem_cons_succ, Act.put, List.setIfInBounds_toArray, List.set_cons_zero, List.set_cons_succ]
  refine wpAnyH_take (i := 12) (v := ?_) rfl (by kernel_rfl) (by kernel_rfl) (by kernel_rfl) (fun _ _ _ h => h) (Or.inl ⟨by rfl, ?_⟩) (by assumption) ?_; rotate_left
  · (intro w hSw; (try dsimp only at hSw); go_simp; try with_reducible rfl)
  try simp only [List.getElem_toArray, List.getElem_cons_zero, List.getElem_cons_succ, Act.put, List.setIfInBounds_toArray, List.set_cons_zero, List.set_cons_succ]
  refine wpAnyH_take (i := 13) (v := ?_) rfl (by kernel_rfl) (by kernel_rfl) (by kernel_rfl) (fun _ _ _ h => h) (Or.inl ⟨by rfl, ?_⟩) (by assumption) ?_; rotate_left
  · (intro w hSw; (try dsimp only at hSw); go_simp; try with_reducible rfl)
  try simp only [List.getElem_toArray, List.getElem_cons_zero, List.getElem_cons_succ, Act.put, List.setIfInBounds_toArray, List.set_cons_zero, List.set_cons_succ]
  refine wpAnyH_take (i := 14) (v := ?_) rfl (by kernel_rfl) (by kernel_rfl) (by kernel_rfl) (fun _ _ _ h => h) (Or.inl ⟨by rfl, ?_⟩) (by assumption) ?_; rotate_left
  · (intro w hSw; (try dsimp only at hSw); go_simp; try with_reducible rfl)
  try simp only [List.getElem_toArray, List.getElem_cons_zero, List.getElem_cons_succ, Act.put, List.setIfInBounds_toArray, List.set_cons_zero, List.set_cons_succ]
  refine wpAnyH_ready (rs := [8]) (by kernel_rfl) (by simp) ?_
  refine AllReadyH.cons rfl (fun K hK => ?_) AllReadyH.nil
  go_simp
  refine (a4.out _ (Kp.out _ _ hq11.out (grownBy_drew (grownBy_refl w11 none)))).mono ?_; rintro e w12 ⟨rfl, hg12⟩; have hg1112 : Hid (w11.grownBy w12 none) := Hid.mk' (grownBy_of_drew hg12); try dsimp only
  refine hK.out _ _ (hcl2.out _ hg1112.out) (fun hHeld => ?_)
  clear hK K
  try simp only [List.getElem_toArray, List.getElem_cons_zero, List.getElem_cons_succ, Act.put, List.setIfInBounds_toArray, List.set_cons_zero, List.set_cons_succ]
  refine wpAnyH_take (i := 15) (v := ?_) rfl (by kernel_rfl) (by kernel_rfl) (by kernel_rfl) (fun _ _ _ h => h) (Or.inl ⟨by rfl, ?_⟩) (by assumption) ?_; rotate_left
  · (intro w hSw; (try dsimp only at hSw); go_simp; try with_reducible rfl)
  try simp only [List.getElem_toArray, List.getElem_cons_zero, List.getElem_cons_succ, Act.put, List.setIfInBounds_toArray, List.set_cons_zero, List.set_cons_succ]
  refine wpAnyH_take (i := 16) (v := ?_) rfl (by kernel_rfl) (by kernel_rfl) (by kernel_rfl) (fun _ _ _ h => h) (Or.inl ⟨by rfl, ?_⟩) (by assumption) ?_; rotate_left
  · (intro w hSw; (try dsimp only at hSw); go_simp; try with_reducible rfl)
  try simp only [List.getElem_toArray, List.getElem_cons_zero, List.getElem_cons_succ, Act.put, List.setIfInBounds_toArray, List.set_cons_zero, List.set_cons_succ]
  refine wpAnyH_take (i := 17) (v := ?_) rfl (by kernel_rfl) (by kernel_rfl) (by kernel_rfl) (fun _ _ _ h => h) (Or.inl ⟨by rfl, ?_⟩) (by assumption) ?_; rotate_left
  · (intro w hSw; (try dsimp only at hSw); go_simp; try with_reducible rfl)
  try simp only [List.getElem_toArray, List.getElem_cons_zero, List.getElem_cons_succ, Act.put, List.setIfInBounds_toArray, List.set_cons_zero, List.set_cons_succ]
  refine wpAnyH_done (by kernel_rfl) ?_ _
  go_wp2
  go_ret
  exact ⟨rfl, gt hGx.out hg1112.out⟩
end Go.Proofs.Ytdphkpjamclhjaa.C19

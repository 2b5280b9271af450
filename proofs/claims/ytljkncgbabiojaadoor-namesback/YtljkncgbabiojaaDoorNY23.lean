/- NamesLooks, NamesParts: walks. -/
import Derived.Test.YtljkncgbabiojaaDoorNW23
import Derived.Test.YtljkncgbabiojaaDoorRegion
import Derived.Deep.RegionHeld3
import Derived.BigQuiet
namespace Go.Proofs.YtljkncgbabiojaaDoor.C23
open Go.ChangeShapes Go.WideShapes Go.ChangeAt Go.RowKit Go.Proofs.YtljkncgbabiojaaDoor.Mem Go.Proofs.YtljkncgbabiojaaDoor.El Go.Proofs.YtljkncgbabiojaaDoor.St Go.Proofs.YtljkncgbabiojaaDoor.Ri Go.Proofs.YtljkncgbabiojaaDoor.Sx Go.Proofs.YtljkncgbabiojaaDoor.Cb Go.Proofs.YtljkncgbabiojaaDoor.Ar
set_option linter.unusedVariables false
set_option linter.unusedSimpArgs false

theorem infoWp : (Tryd.prog.info? 24).map (·.size) = some 3 := by kernel_rfl
theorem zeroWp (w : World) : (zeroValue 24).run Tryd.prog w = .ok (.agg (wC 0 false false)) w := by kernel_rfl
set_option maxRecDepth 100000 in
set_option maxHeartbeats 3000000 in
theorem parts_walk {P : World → Prop} (C : ConD P) (s : List UInt8) (hs : s.length ≤ 140737488351232) (k : Int) (hk : I64 k) (t i : Bool) (w : World) (hw : P w) : Calls Tryd.prog 3 #[.string (str s), .agg (wC k t i)] w fun e w' => e = .returned (.bool true) ∧ w.grownBy w' none := by
  obtain ⟨⟨pk, pt, pi, pe⟩, hp⟩ : ∃ p, prs s = p := ⟨_, rfl⟩
  have a1 := Hid.mk' (fun w hw => C.parse s hs w hw)
  have a2 := Hid.mk' (fun w => parse_any s w)
  rw [hp] at a1 a2
  unfold prV at a1 a2
  simp only at a1 a2
  have a3 := Hid.mk' (fun w hw => C.print k hk t i w hw)
  have a4 := Hid.mk' (fun w => print_any k t i w)
  obtain ⟨ps, hps⟩ : ∃ x, str (prt k t i) = x := ⟨_, rfl⟩
  rw [hps] at a3 a4
  have K := Hid.mk' (fun (a b : World) (h : P a) (g : a.grownBy b none) => C.keep h g)
  have hq := Hid.mk' hw
  clear C hw hp hps
  go_enter Tryd.func3, Tryd.ntmps3
  go_upto_region 1 with (refine wpList_boxC _ rfl 23 _ rfl (wC k t i) rfl ?_; intro w1 vx hg1)
  obtain ⟨X, hX⟩ : ∃ X, Hid (w.heap.size = X) := ⟨_, Hid.mk' rfl⟩
  have hP1 := Hid.mk' (K.out _ _ hq.out hg1)
  have hG1 := Hid.mk' hg1
  rw [hX.out] at vx
  rw [hX.out]
  clear hg1
  go_upto_region 2 with (first
    | (go_at_call 6; refine (a1.out _ hP1.out).mono ?_; rintro e w2 ⟨rfl, hg2⟩)
    | (refine wpList_allocC _ rfl 24 rfl (wC 0 false false) (zeroWp _) ?_; intro w3 va3 hg3)
    | (refine wpList_storeC _ rfl 24 _ _ rfl w2.heap.size (wC 0 false false) (wC pk pt pi) infoWp rfl (wC_one _ _ _) rfl rfl va3 ?_; intro w4 va4 hg4))
  have hXY : Hid (X < w2.heap.size) := Hid.mk' (Nat.lt_of_lt_of_le vx.lt hg2.size)
  have vx4 := ((vx.kept0 hg2).kept0 hg3).kept hg4 (by have := hXY.out; intro e; have h5 := Option.some.inj e; omega)
  have hG4 := Hid.mk' (grownBy_new (gt hG1.out (gt hg2 hg3)) hg4 (fun q hq => by have h5 := Option.some.inj hq; have h6 := (gt hG1.out hg2).size; omega))
  obtain ⟨Y, hY⟩ : ∃ Y, Hid (w2.heap.size = Y) := ⟨_, Hid.mk' rfl⟩
  rw [hY.out] at va4
  rw [hY.out]
  clear hg2 hg3 hg4 va3 vx
  go_upto_region 3 with (first
    | (go_at_call 7; refine (a2.out _).mono ?_; rintro e w5 ⟨rfl, hg5⟩)
    | (refine wpList_allocC _ rfl 23 rfl (wC 0 false false) (zeroW _) ?_; intro w6 va6 hg6)
    | (refine wpList_storeC _ rfl 23 _ _ rfl w5.heap.size (wC 0 false false) (wC pk pt pi) infoW rfl (wC_one _ _ _) rfl rfl va6 ?_; intro w7 va7 hg7))
  have vx7 := ((vx4.kept0 hg5).kept0 hg6).kept hg7 (by have := vx4.lt; have := hg5.size; intro e; have h5 := Option.some.inj e; omega)
  have vy7 := ((va4.kept0 hg5).kept0 hg6).kept hg7 (by have := va4.lt; have := hg5.size; intro e; have h5 := Option.some.inj e; omega)
  have hG7 := Hid.mk' (grownBy_new (gt hG4.out (gt hg5 hg6)) hg7 (fun q hq => by have h5 := Option.some.inj hq; have h6 := (gt hG4.out hg5).size; omega))
  obtain ⟨Z, hZ⟩ : ∃ Z, Hid (w5.heap.size = Z) := ⟨_, Hid.mk' rfl⟩
  rw [hZ.out] at va7
  rw [hZ.out]
  have y0 := vy7.cell 0 rfl
  have y1 := vy7.cell 1 rfl
  have y2 := vy7.cell 2 rfl
  have z0 := va7.cell 0 rfl
  have z1 := va7.cell 1 rfl
  have z2 := va7.cell 2 rfl
  have hP7 := Hid.mk' (K.out _ _ hq.out hG7.out)
  have hvx := Hid.mk' vx7
  clear hg5 hg6 hg7 va6 vx4 va4 vy7 va7
  go_upto_region 5 with fail
  clear y0 y1 y2 z0 z1 z2
  have hS : Hid (∀ wx, w7.grownBy wx none → (fun w' : World => w'.cell? ⟨X, 0, none⟩ = some (.int .i64 k) ∧ w'.cell? ⟨X, 1, none⟩ = some (.bool t) ∧ w'.cell? ⟨X, 2, none⟩ = some (.bool i)) wx) := Hid.mk' (fun wx hg => ⟨(hvx.out.kept0 hg).cell 0 rfl, (hvx.out.kept0 hg).cell 1 rfl, (hvx.out.kept0 hg).cell 2 rfl⟩)
  have hgd : Hid (w7.grownBy w7.drew none) := Hid.mk' (grownBy_drew (grownBy_refl _ _))
  have hS0 := hS.out _ hgd.out
  have hPd := Hid.mk' (K.out _ _ hP7.out hgd.out)
  clear vx7
  refine wp_region_held_drew (S := fun w' : World => w'.cell? ⟨X, 0, none⟩ = some (.int .i64 k) ∧ w'.cell? ⟨X, 1, none⟩ = some (.bool t) ∧ w'.cell? ⟨X, 2, none⟩ = some (.bool i)) (by kernel_rfl) hS0 (fun hHeld => ?_)
  refine wpAnyH_take (i := 0) (v := ?_) rfl (by kernel_rfl) (by kernel_rfl) (by kernel_rfl) (fun _ _ _ h => h) (Or.inl ⟨by rfl, ?_⟩) (by assumption) ?_; rotate_left
  · (intro w hSw; (try dsimp only at hSw); go_simp; try with_reducible rfl)
  try simp only [List.getElem_toArray, List.getElem_cons_zero, Act.put, List.setIfInBounds_toArray, List.set_cons_zero, List.set_cons_succ]
  refine wpAnyH_take (i := 1) (v := ?_) rfl (by kernel_rfl) (by kernel_rfl) (by kernel_rfl) (fun _ _ _ h => h) (Or.inl ⟨by rfl, ?_⟩) (by assumption) ?_; rotate_left
  · (intro w hSw; (try dsimp only at hSw); go_simp; try with_reducible rfl)
  try simp only [List.getElem_toArray, List.getElem_cons_zero, List.getElem_cons_succ, Act.put, List.setIfInBounds_toArray, List.set_cons_zero, List.set_cons_succ]
  refine wpAnyH_take (i := 2) (v := ?_) rfl (by kernel_rfl) (by kernel_rfl) (by kernel_rfl) (fun _ _ _ h => h) (Or.inl ⟨by rfl, ?_⟩) (by assumption) ?_; rotate_left
  · (intro w hSw; (try dsimp only at hSw); go_simp; try with_reducible rfl)
  try simp only [List.getElem_toArray, List.getElem_cons_zero, List.getElem_cons_succ, Act.put, List.setIfInBounds_toArray, List.set_cons_zero, List.set_cons_succ]
  refine wpAnyH_take (i := 3) (v := ?_) rfl (by kernel_rfl) (by kernel_rfl) (by kernel_rfl) (fun _ _ _ h => h) (Or.inl ⟨by rfl, ?_⟩) (by assumption) ?_; rotate_left
  · (intro w hSw; (try dsimp only at hSw); go_simp; try with_reducible rfl)
  try simp only [List.getElem_toArray, List.getElem_cons_zero, List.getElem_cons_succ, Act.put, List.setIfInBounds_toArray, List.set_cons_zero, List.set_cons_succ]
  refine wpAnyH_take (i := 4) (v := ?_) rfl (by kernel_rfl) (by kernel_rfl) (by kernel_rfl) (fun _ _ _ h => h) (Or.inl ⟨by rfl, ?_⟩) (by assumption) ?_; rotate_left
  · (intro w hSw; (try dsimp only at hSw); go_simp; try with_reducible rfl)
  try simp only [List.getElem_toArray, List.getElem_cons_zero, List.getElem_cons_succ, Act.put, List.setIfInBounds_toArray, List.set_cons_zero, List.set_cons_succ]
  refine wpAnyH_take (i := 5) (v := ?_) rfl (by kernel_rfl) (by kernel_rfl) (by kernel_rfl) (fun _ _ _ h => h) (Or.inl ⟨by rfl, ?_⟩) (by assumption) ?_; rotate_left
  · (intro w hSw; (try dsimp only at hSw); go_simp; try with_reducible rfl)
  try simp only [List.getElem_toArray, List.getElem_cons_zero, List.getElem_cons_succ, Act.put, List.setIfInBounds_toArray, List.set_cons_zero, List.set_cons_succ]
  refine wpAnyH_take (i := 6) (v := ?_) rfl (by kernel_rfl) (by kernel_rfl) (by kernel_rfl) (fun _ _ _ h => h) (Or.inl ⟨by rfl, ?_⟩) (by assumption) ?_; rotate_left
  · (intro w hSw; (try dsimp only at hSw); go_simp; try with_reducible rfl)
  try simp only [List.getElem_toArray, List.getElem_cons_zero, List.getElem_cons_succ, Act.put, List.setIfInBounds_toArray, List.set_cons_zero, List.set_cons_succ]
  refine wpAnyH_take (i := 8) (v := ?_) rfl (by kernel_rfl) (by kernel_rfl) (by kernel_rfl) (fun _ _ _ h => h) (Or.inl ⟨by rfl, ?_⟩) (by assumption) ?_; rotate_left
  · (intro w hSw; (try dsimp only at hSw); go_simp; try with_reducible rfl)
  try simp only [List.getElem_toArray, List.getElem_cons_zero, List.getElem_cons_succ, Act.put, List.setIfInBounds_toArray, List.set_cons_zero, List.set_cons_succ]
  refine wpAnyH_ready (rs := [7]) (by kernel_rfl) (by simp) ?_
  refine AllReadyH.cons rfl (fun K hK => ?_) AllReadyH.nil
  go_simp
  refine (a3.out _ hPd.out).mono ?_; rintro e w8 ⟨rfl, hg⟩; have hG8 : Hid (w7.grownBy w8 none) := Hid.mk' (gt hgd.out hg); try dsimp only
  refine hK.out _ _ (hS.out w8 hG8.out) (fun hHeld => ?_)
  clear hK K
  try simp only [List.getElem_toArray, List.getElem_cons_zero, List.getElem_cons_succ, Act.put, List.setIfInBounds_toArray, List.set_cons_zero, List.set_cons_succ]
  refine wpAnyH_ready (rs := [9]) (by kernel_rfl) (by simp) ?_
  refine AllReadyH.cons rfl (fun K hK => ?_) AllReadyH.nil
  go_simp
  refine (a4.out _).mono ?_; rintro e w9 ⟨rfl, hg⟩; have hG9 : Hid (w7.grownBy w9 none) := Hid.mk' (gt hG8.out hg); try dsimp only
  refine hK.out _ _ (hS.out w9 hG9.out) (fun hHeld => ?_)
  clear hK K
  try simp only [List.getElem_toArray, List.getElem_cons_zero, List.getElem_cons_succ, Act.put, List.setIfInBounds_toArray, List.set_cons_zero, List.set_cons_succ]
  refine wpAnyH_take (i := 10) (v := ?_) rfl (by kernel_rfl) (by kernel_rfl) (by kernel_rfl) (fun _ _ _ h => h) (Or.inl ⟨by rfl, ?_⟩) (by assumption) ?_; rotate_left
  · (intro w hSw; (try dsimp only at hSw); go_simp; try with_reducible rfl)
  try simp only [List.getElem_toArray, List.getElem_cons_zero, List.getElem_cons_succ, Act.put, List.setIfInBounds_toArray, List.set_cons_zero, List.set_cons_succ]
  refine wpAnyH_take (i := 11) (v := ?_) rfl (by kernel_rfl) (by kernel_rfl) (by kernel_rfl) (fun _ _ _ h => h) (Or.inl ⟨by rfl, ?_⟩) (by assumption) ?_; rotate_left
  · (intro w hSw; (try dsimp only at hSw); go_simp; try with_reducible rfl)
  try simp only [List.getElem_toArray, List.getElem_cons_zero, List.getElem_cons_succ, Act.put, List.setIfInBounds_toArray, List.set_cons_zero, List.set_cons_succ]
  refine wpAnyH_done (by kernel_rfl) ?_ _
  go_wp2
  go_ret
  exact ⟨by simp, gt hG7.out hG9.out⟩
end Go.Proofs.YtljkncgbabiojaaDoor.C23

/- The program's Fits, Drain, withScalar of layer 13: walks. -/
import Derived.Test.YtfehmbicolllkaaVO13
import Derived.Test.YtfehmbicolllkaaCb
namespace Go.Proofs.Ytfehmbicolllkaa.C13
open Go.ChangeShapes Go.WideShapes Go.ChangeAt Go.RowKit Go.Maps Go.Proofs.Ytfehmbicolllkaa.Mem Go.Proofs.Ytfehmbicolllkaa.Ar Go.Proofs.Ytfehmbicolllkaa.Cb
set_option linter.unusedVariables false
set_option linter.unusedSimpArgs false

set_option maxRecDepth 100000 in
set_option maxHeartbeats 1000000 in
theorem pFits (md bi ac he : Int) (w : World) (F : Bool) (hF : Hid (fitR md bi ac he = F)) : Calls Try.prog 17 #[stV md bi ac he] w fun e w' => e = .returned (.bool F) ∧ w.grownBy w' none := by
  obtain ⟨H, hH⟩ : ∃ H, Hid (hoR he = H) := ⟨_, Hid.mk' rfl⟩
  have a1 := Hid.mk' (fun w => may_any he w H hH)
  have hF2 := hF.out
  rw [fitR, hH.out] at hF2
  clear hF hH
  by_cases h0 : md = 0 ∧ bi = 0 ∧ ac = 0
  · obtain ⟨rfl, rfl, rfl⟩ := h0
    by_cases hh : he = 0
    · subst hh
      simp at hF2
      subst hF2
      go_enter Try.func17, Try.ntmps17
      go_wp2_with (go_at_call 22; refine (a1.out _).mono ?_; rintro e w1 ⟨rfl, hg1⟩)
      go_ret
      exact ⟨rfl, World.grownBy_alloc _ _ _⟩
    · have hh' : (he == 0) = false := by simpa using hh
      simp [hh] at hF2
      subst hF2
      have hhe : (he == he) = true := by simp
      go_enter Try.func17, Try.ntmps17
      go_wp2_with (go_at_call 22; refine (a1.out _).mono ?_; rintro e w1 ⟨rfl, hg1⟩)
      go_ret
      exact ⟨rfl, gt (World.grownBy_alloc _ _ _) hg1⟩
  · have : F = false := by rw [← hF2]; simp [h0]
    subst this
    clear hF2
    have hne : Hid (¬ (md = 0 ∧ bi = 0 ∧ ac = 0)) := Hid.mk' h0
    by_cases h1 : md = 0
    · by_cases h2 : bi = 0
      · have h3 : ¬ ac = 0 := fun e => h0 ⟨h1, h2, e⟩
        have h3' : (ac == 0) = false := by simpa using h3
        subst h1
        subst h2
        clear h0 hne
        go_enter Try.func17, Try.ntmps17
        go_wp2
        go_ret
        exact ⟨rfl, World.grownBy_alloc _ _ _⟩
      · have h2' : (bi == 0) = false := by simpa using h2
        subst h1
        clear h0 hne
        go_enter Try.func17, Try.ntmps17
        go_wp2
        go_ret
        exact ⟨rfl, World.grownBy_alloc _ _ _⟩
    · have h1' : (md == 0) = false := by simpa using h1
      clear h0 hne
      go_enter Try.func17, Try.ntmps17
      go_wp2
      go_ret
      exact ⟨rfl, World.grownBy_alloc _ _ _⟩
set_option maxRecDepth 100000 in
set_option maxHeartbeats 1000000 in
theorem pDrain (md bi ac he : Int) (w : World) (z : Int) (ok : Bool) (hD : Hid (drT md bi ac he = (z, ok))) : Calls Try.prog 13 #[stV md bi ac he] w fun e w' => e = .returned (.tuple #[.int .i32 z, .bool ok]) ∧ w.grownBy w' none := by
  obtain ⟨F, hF⟩ : ∃ F, Hid (fitR md bi ac he = F) := ⟨_, Hid.mk' rfl⟩
  have hD2 := hD.out
  rw [drT, hF.out] at hD2
  have a1 := Hid.mk' (fun w => pFits md bi ac he w F hF)
  have hblk : Hid (∀ wx, (w.alloc (.cells #[.int .i64 md, .int .i64 bi, .int .u32 ac, .int .i32 he] 29)).grownBy wx none → wx.cell? ⟨w.heap.size, 3, none⟩ = some (.int .i32 he)) := Hid.mk' (fun wx hg => cell_at (blk_kept (heap_alloc_new w _) hg) 3 rfl)
  clear hD hF
  cases F
  · simp at hD2
    obtain ⟨rfl, rfl⟩ := hD2
    go_enter Try.func13, Try.ntmps13
    go_wp2_with (go_at_call 17; refine (a1.out _).mono ?_; rintro e w1 ⟨rfl, hg1⟩; have x3 := hblk.out _ hg1)
    go_ret2
    exact ⟨rfl, gt (World.grownBy_alloc _ _ _) hg1⟩
  · by_cases h0 : he = 0
    · simp [h0] at hD2
      obtain ⟨rfl, rfl⟩ := hD2
      subst h0
      go_enter Try.func13, Try.ntmps13
      go_wp2_with (go_at_call 17; refine (a1.out _).mono ?_; rintro e w1 ⟨rfl, hg1⟩; have x3 := hblk.out _ hg1)
      go_ret2
      exact ⟨rfl, gt (World.grownBy_alloc _ _ _) hg1⟩
    · simp [h0] at hD2
      obtain ⟨rfl, rfl⟩ := hD2
      have h0' : (he == 0) = false := by simpa using h0
      go_enter Try.func13, Try.ntmps13
      go_wp2_with (go_at_call 17; refine (a1.out _).mono ?_; rintro e w1 ⟨rfl, hg1⟩; have x3 := hblk.out _ hg1)
      go_ret2
      exact ⟨rfl, gt (World.grownBy_alloc _ _ _) hg1⟩

/-- The cells of a step's result. -/
abbrev gC (e n k a b he : Int) : Array Value := #[.int .i64 e, .int .i64 n, .int .i64 k, .int .i32 a, .int .i32 b, .int .i64 0, .int .i64 0, .int .u32 0, .int .i32 he]
abbrev sC (md bi ac he : Int) : Array Value := #[.int .i64 md, .int .i64 bi, .int .u32 ac, .int .i32 he]
theorem zeroG (w : World) : (zeroValue 34).run Try.prog w = .ok (.agg (gC 0 0 0 0 0 0)) w := by kernel_rfl
theorem gC_one (e n k a b he : Int) : (gC e n k a b he).all (·.oneCell') = true := by kernel_rfl
theorem infoG : (Try.prog.info? 34).map (·.size) = some 9 := by kernel_rfl
theorem infoS : (Try.prog.info? 29).map (·.size) = some 4 := by kernel_rfl
set_option maxRecDepth 100000 in
set_option maxHeartbeats 1000000 in
theorem with_0 (u : Int) (w : World) : Calls Try.prog 30 #[vgV 0 1 0 0 0 0, .int .i32 u] w fun e w' => e = .returned (vgV 0 1 1 u 0 0) ∧ w.grownBy w' none := by
  go_enter Try.func30, Try.ntmps30
  go_upto_region 1 with (first
    | (refine wpList_boxC _ rfl 34 _ rfl (gC 0 1 0 0 0 0) rfl ?_; intro w1 hb1 hg1)
    | (refine wpList_allocC _ rfl 34 rfl (gC 0 0 0 0 0 0) (zeroG _) ?_; intro w2 hr2 hg2))
  have hb2 := Hid.mk' (hb1.kept0 hg2)
  have hne : Hid (¬ w.heap.size = w1.heap.size) := Hid.mk' (by have := hb1.lt; omega)
  have hG : Hid (w.grownBy w2 none) := Hid.mk' (gt hg1 hg2)
  have hsz : Hid (w.heap.size ≤ w1.heap.size) := Hid.mk' hg1.size
  have hr0 := Hid.mk' hr2
  clear hb1 hg1 hg2 hr2
  generalize hA : w.heap.size = A at *
  have hA0 := Hid.mk' hA
  clear hA
  generalize w1.heap.size = B at *
  have c2 := hb2.out.cell 2 (v := .int .i64 0) rfl
  have c3 := hb2.out.cell 3 (v := .int .i32 0) rfl
  have c4 := hb2.out.cell 4 (v := .int .i32 0) rfl
  have ff := hb2.out.free
  have hlA := hb2.out.lt
  go_upto_region 5 with fail
  refine wp_region_lit ?_
  refine wpList_loadC _ rfl 34 _ rfl _ Try.underlying34 rfl A (gC 0 1 1 u 0 0) infoG rfl ((hb2.out.set 3 (.int .i32 u)).set 2 (.int .i64 1)) ?_
  refine wpList_storeC _ rfl 34 _ _ rfl B (gC 0 0 0 0 0 0) (gC 0 1 1 u 0 0) infoG rfl (gC_one _ _ _ _ _ _) rfl rfl ((hr0.out.other hne.out 3 (.int .i32 u)).other hne.out 2 (.int .i64 1)) ?_
  intro w3 hr3 hg3
  refine wpList_nil ?_
  go_wp2
  refine bodyPost_ret (v := vgV 0 1 1 u 0 0) (results_cell_row Try.results30 _ w3 B 34 _ (0, 0) _ rfl hr3 Try.underlying34 rfl infoG) rfl ⟨rfl, ?_⟩
  have hA := hA0.out
  have hG1 := hG.out
  have hs1 := hsz.out
  refine grownBy_new (b := (w2.setCell ⟨A, 3, none⟩ (.int .i32 u)).setCell ⟨A, 2, none⟩ (.int .i64 1)) ?_ hg3 (fun k hk => by have h5 := Option.some.inj hk; omega)
  (repeat (first | with_reducible exact grownBy_refl _ _ | (with_reducible refine gs ?_ ?_; first | omega | (simp; omega)) | with_reducible refine ga ?_ | with_reducible refine gd ?_ | with_reducible refine gdn ?_ | with_reducible refine gt ?_ (by assumption)))
set_option maxRecDepth 100000 in
set_option maxHeartbeats 1000000 in
theorem with_1 (a u : Int) (w : World) : Calls Try.prog 30 #[vgV 0 1 1 a 0 0, .int .i32 u] w fun e w' => e = .returned (vgV 0 1 2 a u 0) ∧ w.grownBy w' none := by
  go_enter Try.func30, Try.ntmps30
  go_upto_region 1 with (first
    | (refine wpList_boxC _ rfl 34 _ rfl (gC 0 1 1 a 0 0) rfl ?_; intro w1 hb1 hg1)
    | (refine wpList_allocC _ rfl 34 rfl (gC 0 0 0 0 0 0) (zeroG _) ?_; intro w2 hr2 hg2))
  have hb2 := Hid.mk' (hb1.kept0 hg2)
  have hne : Hid (¬ w.heap.size = w1.heap.size) := Hid.mk' (by have := hb1.lt; omega)
  have hG : Hid (w.grownBy w2 none) := Hid.mk' (gt hg1 hg2)
  have hsz : Hid (w.heap.size ≤ w1.heap.size) := Hid.mk' hg1.size
  have hr0 := Hid.mk' hr2
  clear hb1 hg1 hg2 hr2
  generalize hA : w.heap.size = A at *
  have hA0 := Hid.mk' hA
  clear hA
  generalize w1.heap.size = B at *
  have c2 := hb2.out.cell 2 (v := .int .i64 1) rfl
  have c3 := hb2.out.cell 3 (v := .int .i32 a) rfl
  have c4 := hb2.out.cell 4 (v := .int .i32 0) rfl
  have ff := hb2.out.free
  have hlA := hb2.out.lt
  go_upto_region 5 with fail
  refine wp_region_lit ?_
  refine wpList_loadC _ rfl 34 _ rfl _ Try.underlying34 rfl A (gC 0 1 2 a u 0) infoG rfl ((hb2.out.set 4 (.int .i32 u)).set 2 (.int .i64 2)) ?_
  refine wpList_storeC _ rfl 34 _ _ rfl B (gC 0 0 0 0 0 0) (gC 0 1 2 a u 0) infoG rfl (gC_one _ _ _ _ _ _) rfl rfl ((hr0.out.other hne.out 4 (.int .i32 u)).other hne.out 2 (.int .i64 2)) ?_
  intro w3 hr3 hg3
  refine wpList_nil ?_
  go_wp2
  refine bodyPost_ret (v := vgV 0 1 2 a u 0) (results_cell_row Try.results30 _ w3 B 34 _ (0, 0) _ rfl hr3 Try.underlying34 rfl infoG) rfl ⟨rfl, ?_⟩
  have hA := hA0.out
  have hG1 := hG.out
  have hs1 := hsz.out
  refine grownBy_new (b := (w2.setCell ⟨A, 4, none⟩ (.int .i32 u)).setCell ⟨A, 2, none⟩ (.int .i64 2)) ?_ hg3 (fun k hk => by have h5 := Option.some.inj hk; omega)
  (repeat (first | with_reducible exact grownBy_refl _ _ | (with_reducible refine gs ?_ ?_; first | omega | (simp; omega)) | with_reducible refine ga ?_ | with_reducible refine gd ?_ | with_reducible refine gdn ?_ | with_reducible refine gt ?_ (by assumption)))
end Go.Proofs.Ytfehmbicolllkaa.C13

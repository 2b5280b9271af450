/- RangesOne: a walk. -/
import Derived.Test.YtdeohnnepifjaaaWorks
import Derived.Below
namespace Go.Proofs.Ytdeohnnepifjaaa.Rn
open Go.ChangeShapes Go.WideShapes Go.ChangeAt Go.RowKit Go.Proofs.Ytdeohnnepifjaaa.Mem Go.Proofs.Ytdeohnnepifjaaa.Ucs Go.Proofs.Ytdeohnnepifjaaa.El
set_option linter.unusedVariables false
set_option linter.unusedSimpArgs false

theorem below_g {w w' : World} (h : w.grownBy w' none) : Below w.heap.size w w' := ⟨h.os, h.tape, h.output, h.size, fun k hk => h.block k hk (by simp)⟩
theorem first_cells {w w1 : World} {cs : Array Value} {t : TypeId} (hg : (w.alloc (.cells cs t)).grownBy w1 none) : w1.heap[w.heap.size]? = some (.cells cs t (0, 0)) := res_cells hg

set_option maxRecDepth 100000 in
set_option maxHeartbeats 4000000 in
theorem one_walk (f t a c : Int) (w : World) : Calls Try.prog 6 #[rV f t a, .int .i64 c] w fun e w' => e = .returned (.bool true) ∧ Below w.heap.size w w' := by
  obtain ⟨E, hE⟩ : ∃ E, Hid (checkR [(f, t, a)] = E) := ⟨_, (rfl : checkR [(f, t, a)] = checkR [(f, t, a)])⟩
  by_cases hE0 : E = 0
  · subst hE0
    have h1 := (checkR_ok.1 hE.out).2.1
    have Hok : Hid (okFrom (-1) [(f, t, a)] = true) := h1
    obtain ⟨h2, _, _⟩ := okFrom_cons.1 h1
    obtain ⟨⟨r1, r2, r3⟩, r4, r5, r6⟩ := rightR_iff.1 h2
    clear h1 h2
    by_cases hfc : f ≤ c
    · by_cases hct : c ≤ t
      · have hs : Hid (scalR [(f, t, a)] c = some (a + (c - f))) := (by simp only [scalR]; rw [if_neg (by omega), if_pos hfc] : scalR [(f, t, a)] c = some (a + (c - f)))
        have hk : Hid (codeR [(f, t, a)] (a + (c - f)) = some c) := (by simp only [codeR]; rw [if_pos (by omega)]; congr 1; omega : codeR [(f, t, a)] (a + (c - f)) = some c)
        obtain ⟨u, hu⟩ : ∃ u, a + (c - f) = u := ⟨_, rfl⟩
        rw [hu] at hs hk
        have hu1 : u - a = c - f := by omega
        have hu2 : 0 ≤ u := by omega
        have hu3 : u ≤ 1114111 := by omega
        clear hu
        go_enter Try.func6, Try.ntmps6
        go_wp2_with (first | (go_at_call 20; refine (works_any _).mono ?_; rintro e w1 ⟨rfl, hg1⟩; have X1 := Hid.mk' (first_cells hg1); have x0 := cell_at X1.out 0 (v := .int .i64 f) rfl; have x1 := cell_at X1.out 1 (v := .int .i64 t) rfl; have x2 := cell_at X1.out 2 (v := .int .i32 a) rfl) | (go_at_call 13; refine (check_any _ 1 [(f, t, a)] _ (new_range _ f t a) (by simp) (by simp) 0 hE).mono ?_; rintro e w2 ⟨rfl, hg2⟩; have X2 := Hid.mk' (blk_kept (res_alloc X1.out _) hg2); have hr := Hid.mk' ((new_range w1 f t a).kept0 hg2); clear x0 x1 x2; have x0 := cell_at X2.out 0 (v := .int .i64 f) rfl; have x1 := cell_at X2.out 1 (v := .int .i64 t) rfl; have x2 := cell_at X2.out 2 (v := .int .i32 a) rfl) | (go_at_call 16; refine (scalar_of _ 1 [(f, t, a)] c _ hr.out (by simp) (by simp) (by simp) Hok (some u) hs).mono ?_; rintro e w3 ⟨rfl, hg3⟩; have X3 := Hid.mk' (blk_kept X2.out hg3); clear x0 x1 x2; have x0 := cell_at X3.out 0 (v := .int .i64 f) rfl; have x1 := cell_at X3.out 1 (v := .int .i64 t) rfl; have x2 := cell_at X3.out 2 (v := .int .i32 a) rfl) | (go_at_call 18; refine (code_of _ 1 [(f, t, a)] u _ (hr.out.kept0 hg3) (by simp) (by simp) (by simp) Hok (some c) hk).mono ?_; rintro e w4 ⟨rfl, hg4⟩; have X4 := Hid.mk' (blk_kept X3.out hg4); clear x0 x1 x2; have x0 := cell_at X4.out 0 (v := .int .i64 f) rfl; have x1 := cell_at X4.out 1 (v := .int .i64 t) rfl; have x2 := cell_at X4.out 2 (v := .int .i32 a) rfl))
        go_ret
        refine ⟨rfl, below_g ?_⟩
        (repeat (first | with_reducible exact grownBy_refl _ _ | (with_reducible refine gs ?_ ?_; first | omega | (simp; omega)) | with_reducible refine ga ?_ | with_reducible refine gd ?_ | with_reducible refine gdn ?_ | with_reducible refine gt ?_ (by assumption)))
      · have hs : Hid (scalR [(f, t, a)] c = none) := (by simp only [scalR]; rw [if_pos (by omega)] : scalR [(f, t, a)] c = none)
        go_enter Try.func6, Try.ntmps6
        go_wp2_with (first | (go_at_call 20; refine (works_any _).mono ?_; rintro e w1 ⟨rfl, hg1⟩; have X1 := Hid.mk' (first_cells hg1); have x0 := cell_at X1.out 0 (v := .int .i64 f) rfl; have x1 := cell_at X1.out 1 (v := .int .i64 t) rfl; have x2 := cell_at X1.out 2 (v := .int .i32 a) rfl) | (go_at_call 13; refine (check_any _ 1 [(f, t, a)] _ (new_range _ f t a) (by simp) (by simp) 0 hE).mono ?_; rintro e w2 ⟨rfl, hg2⟩; have X2 := Hid.mk' (blk_kept (res_alloc X1.out _) hg2); have hr := Hid.mk' ((new_range w1 f t a).kept0 hg2); clear x0 x1 x2) | (go_at_call 16; refine (scalar_of _ 1 [(f, t, a)] c _ hr.out (by simp) (by simp) (by simp) Hok none hs).mono ?_; rintro e w3 ⟨rfl, hg3⟩; have X3 := Hid.mk' (blk_kept X2.out hg3); have x0 := cell_at X3.out 0 (v := .int .i64 f) rfl; have x1 := cell_at X3.out 1 (v := .int .i64 t) rfl; have x2 := cell_at X3.out 2 (v := .int .i32 a) rfl))
        go_ret
        refine ⟨rfl, below_g ?_⟩
        (repeat (first | with_reducible exact grownBy_refl _ _ | (with_reducible refine gs ?_ ?_; first | omega | (simp; omega)) | with_reducible refine ga ?_ | with_reducible refine gd ?_ | with_reducible refine gdn ?_ | with_reducible refine gt ?_ (by assumption)))
    · have hs : Hid (scalR [(f, t, a)] c = none) := (by simp only [scalR]; rw [if_neg (by omega), if_neg hfc] : scalR [(f, t, a)] c = none)
      go_enter Try.func6, Try.ntmps6
      go_wp2_with (first | (go_at_call 20; refine (works_any _).mono ?_; rintro e w1 ⟨rfl, hg1⟩; have X1 := Hid.mk' (first_cells hg1); have x0 := cell_at X1.out 0 (v := .int .i64 f) rfl; have x1 := cell_at X1.out 1 (v := .int .i64 t) rfl; have x2 := cell_at X1.out 2 (v := .int .i32 a) rfl) | (go_at_call 13; refine (check_any _ 1 [(f, t, a)] _ (new_range _ f t a) (by simp) (by simp) 0 hE).mono ?_; rintro e w2 ⟨rfl, hg2⟩; have X2 := Hid.mk' (blk_kept (res_alloc X1.out _) hg2); have hr := Hid.mk' ((new_range w1 f t a).kept0 hg2); clear x0 x1 x2) | (go_at_call 16; refine (scalar_of _ 1 [(f, t, a)] c _ hr.out (by simp) (by simp) (by simp) Hok none hs).mono ?_; rintro e w3 ⟨rfl, hg3⟩; have X3 := Hid.mk' (blk_kept X2.out hg3); have x0 := cell_at X3.out 0 (v := .int .i64 f) rfl; have x1 := cell_at X3.out 1 (v := .int .i64 t) rfl; have x2 := cell_at X3.out 2 (v := .int .i32 a) rfl))
      go_ret
      refine ⟨rfl, below_g ?_⟩
      (repeat (first | with_reducible exact grownBy_refl _ _ | (with_reducible refine gs ?_ ?_; first | omega | (simp; omega)) | with_reducible refine ga ?_ | with_reducible refine gd ?_ | with_reducible refine gdn ?_ | with_reducible refine gt ?_ (by assumption)))
  · have hQ : Hid (pairsR [(f, t, a)] = []) := (by unfold pairsR; rw [hE.out, if_neg hE0] : pairsR [(f, t, a)] = [])
    have hE1 : (E == 0) = false := by simpa using hE0
    go_enter Try.func6, Try.ntmps6
    go_wp2_with (first | (go_at_call 20; refine (works_any _).mono ?_; rintro e w1 ⟨rfl, hg1⟩; have X1 := Hid.mk' (first_cells hg1); have x0 := cell_at X1.out 0 (v := .int .i64 f) rfl; have x1 := cell_at X1.out 1 (v := .int .i64 t) rfl; have x2 := cell_at X1.out 2 (v := .int .i32 a) rfl) | (go_at_call 13; refine (check_any _ 1 [(f, t, a)] _ (new_range _ f t a) (by simp) (by simp) E hE).mono ?_; rintro e w2 ⟨rfl, hg2⟩; have hr := Hid.mk' ((new_range w1 f t a).kept0 hg2)) | (go_at_call 15; refine (pairs_any _ 1 [(f, t, a)] _ hr.out (by simp) (by simp) [] hQ).mono ?_; rintro e w3 ⟨ro, rc, rfl, ho3, hg3⟩))
    go_ret
    refine ⟨rfl, below_g ?_⟩
    (repeat (first | with_reducible exact grownBy_refl _ _ | (with_reducible refine gs ?_ ?_; first | omega | (simp; omega)) | with_reducible refine ga ?_ | with_reducible refine gd ?_ | with_reducible refine gdn ?_ | with_reducible refine gt ?_ (by assumption)))
end Go.Proofs.Ytdeohnnepifjaaa.Rn

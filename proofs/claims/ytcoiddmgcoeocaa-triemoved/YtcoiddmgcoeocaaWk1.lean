/- The statements' own function works; TrieOne: walks. -/
import Derived.Test.YtcoiddmgcoeocaaGf
import Derived.Below
namespace Go.Proofs.Ytcoiddmgcoeocaa.Tr
open Go.ChangeShapes Go.WideShapes Go.ChangeAt Go.RowKit Go.Maps Go.Proofs.Ytcoiddmgcoeocaa.Mem Go.Proofs.Ytcoiddmgcoeocaa.Ucs Go.Proofs.Ytcoiddmgcoeocaa.El Go.Sort Go.Proofs.Ytcoiddmgcoeocaa.Rn
set_option linter.unusedVariables false
set_option linter.unusedSimpArgs false

theorem below_g {w w' : World} (h : w.grownBy w' none) : Below w.heap.size w w' := ⟨h.os, h.tape, h.output, h.size, fun k hk => h.block k hk (by simp)⟩
theorem first_cells {w w1 : World} {cs : Array Value} {t : TypeId} (hg : (w.alloc (.cells cs t)).grownBy w1 none) : w1.heap[w.heap.size]? = some (.cells cs t (0, 0)) := res_cells hg
def L4 : List Pr := [(0, 65), (1, 66), (64, 65), (65, 66)]
theorem right4 : rightE L4 = 0 := by decide
theorem pS4 : pS L4 65 = some 66 := by decide
theorem pC4 : pC L4 66 = some 1 := by decide
theorem by4 : byScalar L4 = [(65, 0), (66, 1)] := by
  have h := comp_byScalar (L := L4) (D := [(65, 0), (65, 64), (66, 1), (66, 65)]) (okP_asc L4 _ (rightE_ok.1 right4).2).2 (by decide) (by simp [SL, lx])
  rw [← h]
  rfl
theorem bl4 : blocksN L4 = 1 := by decide
theorem bs4 : blocksN (byScalar L4) = 1 := by rw [by4]; decide

set_option maxRecDepth 100000 in
set_option maxHeartbeats 1000000 in
theorem works_any (w : World) : Calls Try.prog 16 #[] w fun e w' => e = .returned (.bool true) ∧ w.grownBy w' none := by
  have hg0 := Hid.mk' (World.grownBy_alloc w (.cells #[.int .i64 0, .int .i32 65, .int .i64 1, .int .i32 66, .int .i64 64, .int .i32 65, .int .i64 65, .int .i32 66] 30) none)
  have hrd : Hid (PE.Rd (w.alloc (.cells #[.int .i64 0, .int .i32 65, .int .i64 1, .int .i32 66, .int .i64 64, .int .i32 65, .int .i64 65, .int .i32 66] 30)) (some ⟨w.heap.size, 0, none⟩) L4) := Hid.mk' (rd_new w _ _ _ rfl)
  have hnew := Hid.mk' (new_ok _ 4 L4 4 rfl _ hrd.out (by omega) (by omega) (Hid.mk' right4))
  clear hrd
  go_enter Try.func16, Try.ntmps16
  go_wp2_with (first
    | (go_at_call 7; refine hnew.out.mono ?_; rintro e w1 ⟨T, rfl, hT1, hg1⟩)
    | (go_at_call 14; refine (tBlocks_any T L4 w1 hT1 1 1 (Hid.mk' bl4) (Hid.mk' bs4)).mono ?_; rintro e w2 ⟨rfl, hg2⟩; have hT2 := hT1.kept hg2)
    | (go_at_call 10; refine (tScalar_any T L4 65 (by omega) (by omega) w2 hT2 (some 66) (Hid.mk' pS4)).mono ?_; rintro e w3 ⟨rfl, hg3⟩; have hT3 := hT2.kept hg3)
    | (go_at_call 12; refine (tCode_any T L4 66 (by omega) (by omega) w3 hT3 (some 1) (Hid.mk' pC4)).mono ?_; rintro e w4 ⟨rfl, hg4⟩))
  go_ret
  exact ⟨rfl, grownBy_trans (grownBy_trans (grownBy_trans (grownBy_trans hg0.out hg1) hg2) hg3) hg4⟩

theorem asc_one (p : Pr) : Asc [p] := by simp [Asc]
theorem by_one (c u : Int) : byScalar [(c, u)] = [(u, c)] := by
  have h := comp_byScalar (L := [(c, u)]) (D := [(u, c)]) (asc_one _) (List.Perm.refl _) (by simp [SL])
  rw [← h]
  rfl
theorem bl_one (c u : Int) : blocksN [(c, u)] = 1 := by simp [blocksN, keys, nub, addN]
theorem wf_i64 {a : Int} (h : (Lit.int .i64 a).wf = true) : -9223372036854775808 ≤ a ∧ a ≤ 9223372036854775807 := by
  simp only [Lit.wf, Bool.and_eq_true, decide_eq_true_eq] at h
  exact h
theorem wf_i32 {a : Int} (h : (Lit.int .i32 a).wf = true) : -2147483648 ≤ a ∧ a ≤ 2147483647 := by
  simp only [Lit.wf, Bool.and_eq_true, decide_eq_true_eq] at h
  exact h

set_option maxRecDepth 100000 in
set_option maxHeartbeats 2000000 in
theorem one_walk (c u code x : Int) (hk1 : -9223372036854775808 ≤ code) (hk2 : code ≤ 9223372036854775807) (hx1 : -2147483648 ≤ x) (hx2 : x ≤ 2147483647) (w : World) : Calls Try.prog 6 #[.agg #[.int .i64 c, .int .i32 u], .int .i64 code, .int .i32 x] w fun e w' => e = .returned (.bool true) ∧ Below w.heap.size w w' := by
  obtain ⟨E, hE⟩ : ∃ E, Hid (rightE [(c, u)] = E) := ⟨_, Hid.mk' rfl⟩
  have hg0 := Hid.mk' (World.grownBy_alloc w (.cells #[.int .i64 c, .int .i32 u] 30) none)
  have hnewr : Hid (∀ w1 : World, PE.Rd (w1.alloc (.cells #[.int .i64 c, .int .i32 u] 30)) (some ⟨w1.heap.size, 0, none⟩) [(c, u)]) := Hid.mk' (fun w1 => new_pair w1 c u)
  by_cases hE0 : E = 0
  · subst hE0
    have hbl := Hid.mk' (bl_one c u)
    have hbs : Hid (blocksN (byScalar [(c, u)]) = 1) := Hid.mk' (by rw [by_one, bl_one])
    by_cases hcc : c = code
    · subst hcc
      by_cases hux : u = x
      · subst hux
        have hs : Hid (pS [(c, u)] c = some u) := Hid.mk' (by simp [pS])
        have hd : Hid (pC [(c, u)] u = some c) := Hid.mk' (by simp [pC])
        go_enter Try.func6, Try.ntmps6
        go_wp2_with (first
          | (go_at_call 16; refine (works_any _).mono ?_; rintro e w1 ⟨rfl, hg1⟩; have X1 := Hid.mk' (first_cells hg1); have x0 := cell_at X1.out 0 (v := .int .i64 c) rfl; have x1 := cell_at X1.out 1 (v := .int .i32 u) rfl)
          | (go_at_call 7; refine (new_ok _ 1 [(c, u)] 1 rfl _ (hnewr.out w1) (by omega) (by omega) hE).mono ?_; rintro e w2 ⟨T, rfl, hT2, hg2⟩)
          | (go_at_call 14; refine (tBlocks_any T [(c, u)] w2 hT2 1 1 hbl hbs).mono ?_; rintro e w3 ⟨rfl, hg3⟩; have hT3 := hT2.kept hg3)
          | (go_at_call 10; refine (tScalar_any T [(c, u)] c (by omega) (by omega) w3 hT3 (some u) hs).mono ?_; rintro e w4 ⟨rfl, hg4⟩; have hT4 := hT3.kept hg4)
          | (go_at_call 12; refine (tCode_any T [(c, u)] u (by omega) (by omega) w4 hT4 (some c) hd).mono ?_; rintro e w5 ⟨rfl, hg5⟩; have X5 := Hid.mk' (blk_kept X1.out (grownBy_trans (grownBy_trans (grownBy_trans (grownBy_trans (World.grownBy_alloc w1 _ none) hg2) hg3) hg4) hg5)); have y0 := cell_at X5.out 0 (v := .int .i64 c) rfl; have y1 := cell_at X5.out 1 (v := .int .i32 u) rfl))
        go_ret
        exact ⟨rfl, below_g (grownBy_trans (grownBy_trans (grownBy_trans (grownBy_trans (grownBy_trans (grownBy_trans hg0.out hg1) (World.grownBy_alloc w1 _ none)) hg2) hg3) hg4) hg5)⟩
      · have hs : Hid (pS [(c, u)] c = some u) := Hid.mk' (by simp [pS])
        have hd : Hid (pC [(c, u)] x = none) := Hid.mk' (by simp [pC, hux])
        have b2 : (x == u) = false := by simp; omega
        have b2' : ¬ x = u := by omega
        have b2'' : decide (x = u) = false := decide_eq_false b2'
        go_enter Try.func6, Try.ntmps6
        go_wp2_with (first
          | (go_at_call 16; refine (works_any _).mono ?_; rintro e w1 ⟨rfl, hg1⟩; have X1 := Hid.mk' (first_cells hg1); have x0 := cell_at X1.out 0 (v := .int .i64 c) rfl; have x1 := cell_at X1.out 1 (v := .int .i32 u) rfl)
          | (go_at_call 7; refine (new_ok _ 1 [(c, u)] 1 rfl _ (hnewr.out w1) (by omega) (by omega) hE).mono ?_; rintro e w2 ⟨T, rfl, hT2, hg2⟩)
          | (go_at_call 14; refine (tBlocks_any T [(c, u)] w2 hT2 1 1 hbl hbs).mono ?_; rintro e w3 ⟨rfl, hg3⟩; have hT3 := hT2.kept hg3)
          | (go_at_call 10; refine (tScalar_any T [(c, u)] c (by omega) (by omega) w3 hT3 (some u) hs).mono ?_; rintro e w4 ⟨rfl, hg4⟩; have hT4 := hT3.kept hg4)
          | (go_at_call 12; refine (tCode_any T [(c, u)] x (by omega) (by omega) w4 hT4 (none) hd).mono ?_; rintro e w5 ⟨rfl, hg5⟩; have X5 := Hid.mk' (blk_kept X1.out (grownBy_trans (grownBy_trans (grownBy_trans (grownBy_trans (World.grownBy_alloc w1 _ none) hg2) hg3) hg4) hg5)); have y0 := cell_at X5.out 0 (v := .int .i64 c) rfl; have y1 := cell_at X5.out 1 (v := .int .i32 u) rfl))
        go_ret
        exact ⟨rfl, below_g (grownBy_trans (grownBy_trans (grownBy_trans (grownBy_trans (grownBy_trans (grownBy_trans hg0.out hg1) (World.grownBy_alloc w1 _ none)) hg2) hg3) hg4) hg5)⟩
    · by_cases hux : u = x
      · subst hux
        have hs : Hid (pS [(c, u)] code = none) := Hid.mk' (by simp [pS, hcc])
        have hd : Hid (pC [(c, u)] u = some c) := Hid.mk' (by simp [pC])
        have b1 : (code == c) = false := by simp; omega
        have b1' : ¬ code = c := by omega
        have b1'' : decide (code = c) = false := decide_eq_false b1'
        go_enter Try.func6, Try.ntmps6
        go_wp2_with (first
          | (go_at_call 16; refine (works_any _).mono ?_; rintro e w1 ⟨rfl, hg1⟩; have X1 := Hid.mk' (first_cells hg1); have x0 := cell_at X1.out 0 (v := .int .i64 c) rfl; have x1 := cell_at X1.out 1 (v := .int .i32 u) rfl)
          | (go_at_call 7; refine (new_ok _ 1 [(c, u)] 1 rfl _ (hnewr.out w1) (by omega) (by omega) hE).mono ?_; rintro e w2 ⟨T, rfl, hT2, hg2⟩)
          | (go_at_call 14; refine (tBlocks_any T [(c, u)] w2 hT2 1 1 hbl hbs).mono ?_; rintro e w3 ⟨rfl, hg3⟩; have hT3 := hT2.kept hg3)
          | (go_at_call 10; refine (tScalar_any T [(c, u)] code (by omega) (by omega) w3 hT3 (none) hs).mono ?_; rintro e w4 ⟨rfl, hg4⟩; have hT4 := hT3.kept hg4)
          | (go_at_call 12; refine (tCode_any T [(c, u)] u (by omega) (by omega) w4 hT4 (some c) hd).mono ?_; rintro e w5 ⟨rfl, hg5⟩; have X5 := Hid.mk' (blk_kept X1.out (grownBy_trans (grownBy_trans (grownBy_trans (grownBy_trans (World.grownBy_alloc w1 _ none) hg2) hg3) hg4) hg5)); have y0 := cell_at X5.out 0 (v := .int .i64 c) rfl; have y1 := cell_at X5.out 1 (v := .int .i32 u) rfl))
        go_ret
        exact ⟨rfl, below_g (grownBy_trans (grownBy_trans (grownBy_trans (grownBy_trans (grownBy_trans (grownBy_trans hg0.out hg1) (World.grownBy_alloc w1 _ none)) hg2) hg3) hg4) hg5)⟩
      · have hs : Hid (pS [(c, u)] code = none) := Hid.mk' (by simp [pS, hcc])
        have hd : Hid (pC [(c, u)] x = none) := Hid.mk' (by simp [pC, hux])
        have b1 : (code == c) = false := by simp; omega
        have b1' : ¬ code = c := by omega
        have b1'' : decide (code = c) = false := decide_eq_false b1'
        have b2 : (x == u) = false := by simp; omega
        have b2' : ¬ x = u := by omega
        have b2'' : decide (x = u) = false := decide_eq_false b2'
        go_enter Try.func6, Try.ntmps6
        go_wp2_with (first
          | (go_at_call 16; refine (works_any _).mono ?_; rintro e w1 ⟨rfl, hg1⟩; have X1 := Hid.mk' (first_cells hg1); have x0 := cell_at X1.out 0 (v := .int .i64 c) rfl; have x1 := cell_at X1.out 1 (v := .int .i32 u) rfl)
          | (go_at_call 7; refine (new_ok _ 1 [(c, u)] 1 rfl _ (hnewr.out w1) (by omega) (by omega) hE).mono ?_; rintro e w2 ⟨T, rfl, hT2, hg2⟩)
          | (go_at_call 14; refine (tBlocks_any T [(c, u)] w2 hT2 1 1 hbl hbs).mono ?_; rintro e w3 ⟨rfl, hg3⟩; have hT3 := hT2.kept hg3)
          | (go_at_call 10; refine (tScalar_any T [(c, u)] code (by omega) (by omega) w3 hT3 (none) hs).mono ?_; rintro e w4 ⟨rfl, hg4⟩; have hT4 := hT3.kept hg4)
          | (go_at_call 12; refine (tCode_any T [(c, u)] x (by omega) (by omega) w4 hT4 (none) hd).mono ?_; rintro e w5 ⟨rfl, hg5⟩; have X5 := Hid.mk' (blk_kept X1.out (grownBy_trans (grownBy_trans (grownBy_trans (grownBy_trans (World.grownBy_alloc w1 _ none) hg2) hg3) hg4) hg5)); have y0 := cell_at X5.out 0 (v := .int .i64 c) rfl; have y1 := cell_at X5.out 1 (v := .int .i32 u) rfl))
        go_ret
        exact ⟨rfl, below_g (grownBy_trans (grownBy_trans (grownBy_trans (grownBy_trans (grownBy_trans (grownBy_trans hg0.out hg1) (World.grownBy_alloc w1 _ none)) hg2) hg3) hg4) hg5)⟩
  · have hE1 : (E == 0) = false := by simpa using hE0
    go_enter Try.func6, Try.ntmps6
    go_wp2_with (first
      | (go_at_call 16; refine (works_any _).mono ?_; rintro e w1 ⟨rfl, hg1⟩; have X1 := Hid.mk' (first_cells hg1); have x0 := cell_at X1.out 0 (v := .int .i64 c) rfl; have x1 := cell_at X1.out 1 (v := .int .i32 u) rfl)
      | (go_at_call 7; refine (new_no _ 1 [(c, u)] _ (hnewr.out w1) (by simp) (by omega) E hE hE0).mono ?_; rintro e w2 ⟨rfl, hg2⟩))
    go_ret
    exact ⟨rfl, below_g (grownBy_trans (grownBy_trans (grownBy_trans hg0.out hg1) (World.grownBy_alloc w1 _ none)) hg2)⟩
end Go.Proofs.Ytcoiddmgcoeocaa.Tr

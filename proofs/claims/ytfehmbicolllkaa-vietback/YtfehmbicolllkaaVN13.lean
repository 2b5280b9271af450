/- The program's map of layer 13, and its Compose: walks. -/
import Derived.Test.YtfehmbicolllkaaVM13
namespace Go.Proofs.Ytfehmbicolllkaa.C13
open Go.ChangeShapes Go.WideShapes Go.ChangeAt Go.RowKit Go.Maps Go.Proofs.Ytfehmbicolllkaa.Mem Go.Proofs.Ytfehmbicolllkaa.Ar
set_option linter.unusedVariables false
set_option linter.unusedSimpArgs false

set_option maxRecDepth 100000 in
set_option maxHeartbeats 2000000 in
theorem made_any (w : World) : Calls Try.prog 24 #[] w fun e w' => e = .returned (.map (some w.heap.size)) ∧ MG w' 50 (plainElem (H := Unit) Try.prog 21) w.heap.size zI (FK 120) (HK 120) 120 ∧ w.grownBy w' none := by
  have a1 := Hid.mk' (fun w => rows_any w)
  have a2 := Hid.mk' (fun w => letters_any w)
  have hix : Hid (∀ (j : Nat), j < 5 → ∀ w, (Instr.index 55 (arrV .i32 roI) (.int .i64 (j : Int))).run Try.prog w = .ok (arrV .i32 (rowI j)) w) := Hid.mk' (fun j hj w => idx_row hj w)
  have hil : Hid (∀ (i : Nat), i < 24 → ∀ w, (Instr.index 52 (arrV .i32 (toI le)) (.int .i64 (i : Int))).run Try.prog w = .ok (.int .i32 ((le.getD i 0 : Nat) : Int)) w) := Hid.mk' (fun j hj w => idx_le hj w)
  generalize arrV .i32 roI = V at *
  generalize arrV .i32 (toI le) = U at *
  have hmk := make_map w
  go_enter Try.func24, Try.ntmps24
  go_wp2_with (go_at_call 26; refine (a1.out _).mono ?_; rintro e w1 ⟨rfl, hg1⟩)
  clear hmk
  have hM1 : Hid (MG w1 50 (plainElem (H := Unit) Try.prog 21) w.heap.size zI (FK 0) (HK 0) 0) := Hid.mk' ((MG.start w).kept0 hg1)
  have hG1 : Hid (w.grownBy w1 none) := Hid.mk' (gt (World.grownBy_alloc _ _ _) hg1)
  clear hg1
  generalize hBB : w.heap.size = B at *
  have hB0 : Hid (w.heap.size ≤ B) := Hid.mk' (by omega)
  have hBe := Hid.mk' hBB
  clear hBB
  go_loopw [8] (fun t8 wx => ∃ j : Nat, j ≤ 5 ∧ t8 = .int .i64 (j : Int) ∧ Hid (MG wx 50 (plainElem (H := Unit) Try.prog 21) B zI (FK (24 * j)) (HK (24 * j)) (24 * j)) ∧ Hid (w.grownBy wx none)) (fun t8 _ => 5 - (intOf t8).toNat)
  case atStart => exact ⟨0, by omega, rfl, hM1, hG1⟩
  case round =>
    obtain ⟨j, hj, rfl, hM, hG⟩ := hrel
    by_cases hlt : j < 5
    · have hlt' : (j : Int) < 5 := by omega
      have hx := hix.out j hlt
      have hl := Hid.mk' (rowI_len hlt)
      have hat : Hid (∀ i < 24, (rowI j)[0]? = some (((ro.getD j (0, [])).1 : Nat) : Int) ∧ (rowI j)[1 + i]? = some (((ro.getD j (0, [])).2.getD i 0 : Nat) : Int)) := Hid.mk' (fun i hi => rowI_at hlt hi)
      have hjz := Hid.mk' hlt
      generalize rowI j = Z at *
      go_wp2_with (first
        | (refine wpList_allocA _ rfl 54 rfl (zs 25) (zero25 _) ?_; intro w2 ha2 hg2)
        | (refine wpList_storeA _ rfl 54 _ _ rfl 25 info25 _ (zs 25) Z (zs_len 25) hl.out rfl rfl ha2 ?_; intro w3 ha3 hg3)
        | (go_at_call 28; refine (a2.out _).mono ?_; rintro e w4 ⟨rfl, hg4⟩))
      have hg24 : Hid (wr.grownBy w4 none) := Hid.mk' (gt (grownBy_new hg2 hg3 (fun k hk => by have h5 := Option.some.inj hk; omega)) hg4)
      have hA4 := Hid.mk' (ha3.kept0 hg4)
      have hM4 := Hid.mk' (hM.out.kept0 hg24.out)
      have hG4 := Hid.mk' (gt hG.out hg24.out)
      clear ha2 ha3 hg2 hg3 hg4 hx
      generalize wr.heap.size = RB at *
      go_loopw [12] (fun t12 wy => ∃ i : Nat, i ≤ 24 ∧ t12 = .int .i64 (i : Int) ∧ Hid (MG wy 50 (plainElem (H := Unit) Try.prog 21) B zI (FK (24 * j + i)) (HK (24 * j + i)) (24 * j + i)) ∧ Hid (ArrAt wy RB 54 .i32 Z) ∧ Hid (w.grownBy wy none)) (fun t12 _ => 24 - (intOf t12).toNat)
      case atStart => exact ⟨0, by omega, rfl, hM4, hA4, hG4⟩
      case round =>
        obtain ⟨i, hi, rfl, hMi, hAi, hGi⟩ := hrel
        by_cases hil2 : i < 24
        · have hi' : (i : Int) < 24 := by omega
          have hi0 : (0 : Int) ≤ (i : Int) := by omega
          have hy := hil.out i hil2
          obtain ⟨e1, e2⟩ := hat.out i hil2
          have hp := pt_at hjz.out hil2
          generalize le.getD i 0 = x at *
          generalize (ro.getD j (0, [])).1 = y at *
          generalize (ro.getD j (0, [])).2.getD i 0 = z at *
          have c0 : wr.cell? ⟨RB, 0, none⟩ = some (.int .i32 (y : Int)) := by
            obtain ⟨h1, h2⟩ := List.getElem?_eq_some_iff.1 e1
            rw [← h2]
            exact hAi.out.cell 0 h1
          have c1 : wr.cell? ⟨RB, 1 + i, none⟩ = some (.int .i32 (z : Int)) := by
            obtain ⟨h1, h2⟩ := List.getElem?_eq_some_iff.1 e2
            rw [← h2]
            exact hAi.out.cell (1 + i) h1
          have hMd : MG wr.drew 50 (plainElem (H := Unit) Try.prog 21) B zI (FK (24 * j + i)) (HK (24 * j + i)) (24 * j + i) := hMi.out.kept0 ⟨rfl, rfl, rfl, Nat.le_refl _, fun _ _ _ => rfl⟩
          have hne : RB ≠ B := hMi.out.ne_cells hAi.out
          obtain ⟨w6, hup, hm6, hg6⟩ := hMd.entry hp (by omega)
          have hA6 : Hid (ArrAt w6 RB 54 .i32 Z) := Hid.mk' (ArrAt.kept (w := wr.drew) hAi.out hg6 (by simpa using hne))
          have hM6 := Hid.mk' hm6
          have hG6 : Hid (w.grownBy w6 none) := Hid.mk' (grownBy_new (gd hGi.out) hg6 (fun k hk => by have h5 := Option.some.inj hk; have h6 := hB0.out; omega))
          have hS0 : wr.drew.cell? ⟨RB, 0, none⟩ = some (.int .i32 (y : Int)) ∧ wr.drew.cell? ⟨RB, 1 + i, none⟩ = some (.int .i32 (z : Int)) := ⟨c0, c1⟩
          have hS6c : w6.cell? ⟨RB, 0, none⟩ = some (.int .i32 (y : Int)) ∧ w6.cell? ⟨RB, 1 + i, none⟩ = some (.int .i32 (z : Int)) := by
            obtain ⟨h1, h2⟩ := List.getElem?_eq_some_iff.1 e1
            obtain ⟨h3, h4⟩ := List.getElem?_eq_some_iff.1 e2
            rw [← h2, ← h4]
            exact ⟨hA6.out.cell 0 h1, hA6.out.cell (1 + i) h3⟩
          have hbp := build_pair (x : Int) (y : Int)
          clear hMd hm6 hg6 e1 e2 hp hne c0 c1
          go_wp2_with fail
          go_region_held3 (fun w' => w'.cell? ⟨RB, 0, none⟩ = some (.int .i32 (y : Int)) ∧ w'.cell? ⟨RB, 1 + i, none⟩ = some (.int .i32 (z : Int))) (first | assumption | exact hS0 | exact hS6c | go_keep) (first | (fail))
          all_goals clear hS0 hS6c hup hbp
          all_goals go_wp2_with fail
          all_goals go_roundw
          all_goals first | (simp [intOf]; omega) | exact ⟨i + 1, by omega, by go_num, hM6, hA6, hG6⟩
        · obtain rfl : i = 24 := by omega
          go_wp2_with fail
          go_roundw
          case rel => exact ⟨j + 1, by omega, by go_num, hMi, hGi⟩
          all_goals (simp [intOf]; omega)
    · obtain rfl : j = 5 := by omega
      go_wp2_with fail
      go_ret
      rw [hBe.out]
      exact ⟨rfl, hM.out, hG.out⟩
end Go.Proofs.Ytfehmbicolllkaa.C13

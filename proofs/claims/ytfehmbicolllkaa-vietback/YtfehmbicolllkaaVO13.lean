/- The program's Compose, Split, scalarOf, byteOf of layer 13: walks. -/
import Derived.Test.YtfehmbicolllkaaVN13
namespace Go.Proofs.Ytfehmbicolllkaa.C13
open Go.ChangeShapes Go.WideShapes Go.ChangeAt Go.RowKit Go.Maps Go.Proofs.Ytfehmbicolllkaa.Mem Go.Proofs.Ytfehmbicolllkaa.Ar
set_option linter.unusedVariables false
set_option linter.unusedSimpArgs false

set_option maxRecDepth 100000 in
set_option maxHeartbeats 1000000 in
theorem pCompose (l m : Int) (hl : I32 l) (hm : I32 m) (w : World) (R : Option Nat) (hR : Hid (coR l m = R)) : Calls Try.prog 9 #[.int .i32 l, .int .i32 m] w fun e w' => e = .returned (.tuple #[.int .i32 ((R.getD 0 : Nat) : Int), .bool R.isSome]) ∧ w.grownBy w' none := by
  cases hh : hoR l with
  | false =>
    have : R = none := by
      cases e : R with
      | none => rfl
      | some n => rw [e] at hR; rw [(coR_in hR.out).1] at hh; cases hh
    subst this
    have a1 := Hid.mk' (fun w => may_any l w false (Hid.mk' hh))
    clear hR hh hl hm
    go_enter Try.func9, Try.ntmps9
    go_wp2_with (go_at_call 22; refine (a1.out _).mono ?_; rintro e w1 ⟨rfl, hg1⟩)
    go_ret2
    exact ⟨rfl, hg1⟩
  | true =>
    have a1 := Hid.mk' (fun w => may_any l w true (Hid.mk' hh))
    cases hk : mkR m with
    | false =>
      have : R = none := by
        cases e : R with
        | none => rfl
        | some n => rw [e] at hR; rw [(coR_in hR.out).2] at hk; cases hk
      subst this
      have a2 := Hid.mk' (fun w => mark_any m w false (Hid.mk' hk))
      clear hR hh hl hm hk
      go_enter Try.func9, Try.ntmps9
      go_wp2_with (first
        | (go_at_call 22; refine (a1.out _).mono ?_; rintro e w1 ⟨rfl, hg1⟩)
        | (go_at_call 23; refine (a2.out _).mono ?_; rintro e w2 ⟨rfl, hg2⟩))
      go_ret2
      exact ⟨rfl, gt hg1 hg2⟩
    | true =>
      have a2 := Hid.mk' (fun w => mark_any m w true (Hid.mk' hk))
      have a3 := Hid.mk' (fun w => made_any w)
      have a4 := Hid.mk' (fun (w : World) (B : Nat) (h : MG w 50 (plainElem (H := Unit) Try.prog 21) B zI (FK 120) (HK 120) 120) => h.find hl hm hR.out)
      have hbp := build_pair l m
      generalize ((R.getD 0 : Nat) : Int) = r at *
      generalize R.isSome = ok at *
      clear hR hh hl hm hk
      go_enter Try.func9, Try.ntmps9
      go_wp2_with (first
        | (go_at_call 22; refine (a1.out _).mono ?_; rintro e w1 ⟨rfl, hg1⟩)
        | (go_at_call 23; refine (a2.out _).mono ?_; rintro e w2 ⟨rfl, hg2⟩)
        | (go_at_call 24; refine (a3.out _).mono ?_; rintro e w3 ⟨rfl, hm3, hg3⟩; have hlk := a4.out _ _ hm3))
      go_ret2
      exact ⟨rfl, gt (gt hg1 hg2) hg3⟩
theorem toI_get (L : List Nat) {i : Nat} (hi : i < (toI L).length) : (toI L)[i] = ((L.getD i 0 : Nat) : Int) := by
  have hi' : i < L.length := by simpa [toI_len] using hi
  simp [toI, List.getElem?_eq_getElem hi']
set_option maxRecDepth 100000 in
set_option maxHeartbeats 1000000 in
theorem pSplit (u : Int) (w : World) (R : Option (Nat × Nat)) (hR : Hid (spR u = R)) : Calls Try.prog 11 #[.int .i32 u] w fun e w' => e = .returned (.tuple #[.int .i32 ((spT R).1 : Int), .int .i32 ((spT R).2.1 : Int), .bool (spT R).2.2]) ∧ w.grownBy w' none := by
  have a1 := Hid.mk' (fun w => rows_any w)
  have a2 := Hid.mk' (fun w => letters_any w)
  have hix : Hid (∀ (j : Nat), j < 5 → ∀ w, (Instr.index 55 (arrV .i32 roI) (.int .i64 (j : Int))).run Try.prog w = .ok (arrV .i32 (rowI j)) w) := Hid.mk' (fun j hj w => idx_row hj w)
  have hil : Hid (∀ (i : Nat), i < 24 → ∀ w, (Instr.index 52 (arrV .i32 (toI le)) (.int .i64 (i : Int))).run Try.prog w = .ok (.int .i32 ((le.getD i 0 : Nat) : Int)) w) := Hid.mk' (fun j hj w => idx_le hj w)
  generalize arrV .i32 roI = V at *
  generalize arrV .i32 (toI le) = U at *
  go_enter Try.func11, Try.ntmps11
  go_wp2_with (go_at_call 26; refine (a1.out _).mono ?_; rintro e w1 ⟨rfl, hg1⟩)
  have hG1 := Hid.mk' hg1
  clear hg1
  go_loopw [9] (fun t9 wx => ∃ j : Nat, j ≤ 5 ∧ t9 = .int .i64 (j : Int) ∧ Hid (∀ i < j, ixR (toI (ro.getD i (0, [])).2) u = none) ∧ Hid (w.grownBy wx none)) (fun t9 _ => 5 - (intOf t9).toNat)
  case atStart => exact ⟨0, by omega, rfl, Hid.mk' (fun j h => by omega), hG1⟩
  case round =>
    obtain ⟨j, hj, rfl, hb, hG⟩ := hrel
    by_cases hlt : j < 5
    · have hlt' : (j : Int) < 5 := by omega
      have hx := hix.out j hlt
      have hl := Hid.mk' (rowI_len hlt)
      have hsp : Hid (∀ i, i < 24 → (((ro.getD j (0, [])).2.getD i 0 : Nat) : Int) = u → spR u = some (le.getD i 0, (ro.getD j (0, [])).1)) := Hid.mk' (fun i hi h => spR_hit hlt hi h)
      have hrl : Hid ((toI (ro.getD j (0, [])).2).length = 24) := Hid.mk' (res_len hlt)
      have hget : Hid (∀ i (hi : i < (toI (ro.getD j (0, [])).2).length), (toI (ro.getD j (0, [])).2)[i] = (((ro.getD j (0, [])).2.getD i 0 : Nat) : Int)) := Hid.mk' (fun i hi => toI_get _ hi)
      have he := Hid.mk' (rowI_eq hlt)
      generalize rowI j = Z at *
      cases hI : ixR (toI (ro.getD j (0, [])).2) u with
      | some i =>
        obtain ⟨hi1, hi2, hi3⟩ := ixR_some hI
        have hi24 : i < 24 := by rw [hrl.out] at hi1; exact hi1
        obtain ⟨x, hxx⟩ : ∃ x, le.getD i 0 = x := ⟨_, rfl⟩
        obtain ⟨y, hyy⟩ : ∃ y, (ro.getD j (0, [])).1 = y := ⟨_, rfl⟩
        have hRe : R = some (x, y) := by
          rw [← hR.out, ← hxx, ← hyy]
          exact hsp.out i hi24 (by rw [← hget.out i hi1]; exact hi2)
        subst hRe
        have hy := hil.out i hi24
        rw [hxx] at hy
        have a3 := Hid.mk' (fun (wz : World) (B : Nat) (ha : ArrAt wz B 54 .i32 Z) => index_some B 1 24 24 (toI (ro.getD j (0, [])).2) hrl.out u wz (ArrAt.runes1 (by rw [he.out] at ha; exact ha)) (by omega) (by omega) i hI)
        have hi0 : (0 : Int) ≤ (i : Int) := by omega
        have hi' : (i : Int) < 24 := by omega
        have hc0 : Hid (∀ (wz : World) (B : Nat), ArrAt wz B 54 .i32 Z → wz.cell? ⟨B, 0, none⟩ = some (.int .i32 (y : Int))) := Hid.mk' (fun wz B ha => by
          rw [he.out, hyy] at ha
          exact ha.cell 0 (by simp))
        clear hi3
        clear hR hb hsp hget hrl he hI hi1 hi2 hxx hyy
        go_upto_region 6 with (first
          | (refine wpList_allocA _ rfl 54 rfl (zs 25) (zero25 _) ?_; intro w2 ha2 hg2)
          | (refine wpList_storeA _ rfl 54 _ _ rfl 25 info25 _ (zs 25) Z (zs_len 25) hl.out rfl rfl ha2 ?_; intro w3 ha3 hg3)
          | (go_at_call 27; refine (a3.out _ _ ha3).mono ?_; rintro e w4 ⟨rfl, rfl⟩))
        have hA3 := Hid.mk' ha3
        have hgr : Hid (wr.grownBy w4 none) := Hid.mk' (grownBy_new hg2 hg3 (fun k hk => by have h5 := Option.some.inj hk; omega))
        have hS0 : w4.drew.cell? ⟨wr.heap.size, 0, none⟩ = some (.int .i32 (y : Int)) := hc0.out _ _ hA3.out
        clear ha2 ha3 hg2 hg3 hx
        generalize wr.heap.size = RB at *
        go_region_held3 (fun w' => w'.cell? ⟨RB, 0, none⟩ = some (.int .i32 (y : Int))) (first | assumption | exact hS0) (first
          | (go_at_call 28; refine (a2.out _).mono ?_; rintro e w5 ⟨rfl, hg5⟩; have hg35 : Hid (w4.grownBy w5 none) := Hid.mk' (by (repeat (first | with_reducible exact grownBy_refl _ _ | (with_reducible refine gs ?_ ?_; first | omega | (simp; omega)) | with_reducible refine ga ?_ | with_reducible refine gd ?_ | with_reducible refine gdn ?_ | with_reducible refine gt ?_ (by assumption)))); have hS5 := hc0.out _ _ (hA3.out.kept0 hg35.out)))
        all_goals go_wp2
        all_goals go_ret3
        all_goals exact ⟨rfl, gt (gt hG.out hgr.out) hg35.out⟩
      | none =>
        have a3 := Hid.mk' (fun (wz : World) (B : Nat) (ha : ArrAt wz B 54 .i32 Z) => index_none B 1 24 24 (toI (ro.getD j (0, [])).2) hrl.out u wz (ArrAt.runes1 (by rw [he.out] at ha; exact ha)) (by omega) (by omega) hI)
        have hb2 : Hid (∀ i < j + 1, ixR (toI (ro.getD i (0, [])).2) u = none) := Hid.mk' (fun i h => by
          by_cases e : i = j
          · subst e; exact hI
          · exact hb.out i (by omega))
        clear hb hsp hget hrl he hI
        go_wp2_with (first
          | (refine wpList_allocA _ rfl 54 rfl (zs 25) (zero25 _) ?_; intro w2 ha2 hg2)
          | (refine wpList_storeA _ rfl 54 _ _ rfl 25 info25 _ (zs 25) Z (zs_len 25) hl.out rfl rfl ha2 ?_; intro w3 ha3 hg3)
          | (go_at_call 27; refine (a3.out _ _ ha3).mono ?_; rintro e w4 ⟨rfl, rfl⟩))
        go_roundw
        case rel => exact ⟨j + 1, by omega, by go_num, hb2, Hid.mk' (gt hG.out (grownBy_new hg2 hg3 (fun k hk => by have h5 := Option.some.inj hk; omega)))⟩
        all_goals (simp [intOf]; omega)
    · obtain rfl : j = 5 := by omega
      have : R = none := by rw [← hR.out]; exact spR_miss hb.out
      subst this
      clear hR hb
      go_wp2_with fail
      go_ret3
      exact ⟨rfl, hG.out⟩
end Go.Proofs.Ytfehmbicolllkaa.C13

/- slices.Index and slices.Contains over runes; the program's mayBeHeld, isMark, scalarOf, byteOf of layer 13: walks. -/
import Derived.Test.YtfehmbicolllkaaVK13
namespace Go.Proofs.Ytfehmbicolllkaa.C13
open Go.ChangeShapes Go.WideShapes Go.ChangeAt Go.RowKit Go.Proofs.Ytfehmbicolllkaa.Mem Go.Proofs.Ytfehmbicolllkaa.Ar
set_option linter.unusedVariables false
set_option linter.unusedSimpArgs false

/-- Runes in memory, from a place on. -/
def RunesAt (w : World) (b o : Nat) (L : List Int) : Prop := ∀ j (hj : j < L.length), w.cell? ⟨b, o + j, none⟩ = some (.int .i32 L[j])
theorem ArrAt.runes {w : World} {b T : Nat} {zs : List Int} (h : ArrAt w b T .i32 zs) : RunesAt w b 0 zs := fun j hj => by rw [Nat.zero_add]; exact h.cell j hj
theorem ArrAt.runes1 {w : World} {b T : Nat} {z : Int} {zs : List Int} (h : ArrAt w b T .i32 (z :: zs)) : RunesAt w b 1 zs := fun j hj => by
  have := h.cell (j + 1) (by simp; omega)
  rw [Nat.add_comm]
  simpa using this
set_option maxRecDepth 100000 in
set_option maxHeartbeats 1000000 in
theorem index_any (b o n cap : Nat) (L : List Int) (hn : L.length = n) (u : Int) (w : World) (hL : RunesAt w b o L) (hc : n ≤ cap) (hcm : cap ≤ 9223372036854775807) (R : Option Nat) (hR : Hid (ixR L u = R)) :
    Calls Try.prog 27 #[.slice (some ⟨b, o, none⟩) n cap, .int .i32 u] w fun e w' => e = .returned (.int .i64 (ixV R)) ∧ w' = w := by
  have hL0 := Hid.mk' hL
  have hn0 := Hid.mk' hn
  clear hL hn
  go_enter Try.func27, Try.ntmps27
  go_wp2
  go_loopw [8] (fun t8 wx => ∃ i : Nat, i ≤ n ∧ t8 = .int .i64 (i : Int) ∧ Hid (∀ j (hj : j < L.length), j < i → ¬ L[j] = u) ∧ wx = w) (fun t8 _ => n - (intOf t8).toNat)
  case atStart => exact ⟨0, by omega, rfl, Hid.mk' (fun j _ h => by omega), rfl⟩
  case round =>
    obtain ⟨i, hi, rfl, hb, rfl⟩ := hrel
    by_cases hlt : i < n
    · have hlt' : (i : Int) < (n : Int) := by omega
      have hi0 : (0 : Int) ≤ (i : Int) := by omega
      have hiL : Hid (i < L.length) := Hid.mk' (by rw [hn0.out]; exact hlt)
      obtain ⟨z, hz⟩ : ∃ z, Hid (L[i]'hiL.out = z) := ⟨_, Hid.mk' rfl⟩
      have hcl := hL0.out i hiL.out
      rw [hz.out] at hcl
      by_cases hu : z = u
      · have : R = some i := by
          rw [← hR.out]
          exact ixR_hit hiL.out (by rw [hz.out]; exact hu) (fun j hj => hb.out j (by have := hiL.out; omega) hj)
        subst this
        subst hu
        clear hR hb
        go_wp2
        go_ret
        exact ⟨rfl, rfl⟩
      · have hu' : (u == z) = false := by simpa using fun e => hu e.symm
        go_wp2
        go_roundw
        case rel => exact ⟨i + 1, by omega, by go_num, Hid.mk' (fun j hj h => by
          by_cases e : j = i
          · subst e; rw [hz.out]; exact hu
          · exact hb.out j hj (by omega)), by first | exact rfl | trivial⟩
        case measure => simp [intOf]; omega
    · obtain rfl : i = n := by omega
      have : R = none := by
        rw [← hR.out]
        exact ixR_miss (fun j hj => hb.out j hj (by have := hn0.out; omega))
      subst this
      clear hR hb
      go_wp2
      go_ret
      exact ⟨rfl, rfl⟩
theorem index_some (b o n cap : Nat) (L : List Int) (hn : L.length = n) (u : Int) (w : World) (hL : RunesAt w b o L) (hc : n ≤ cap) (hcm : cap ≤ 9223372036854775807) (i : Nat) (hR : ixR L u = some i) :
    Calls Try.prog 27 #[.slice (some ⟨b, o, none⟩) n cap, .int .i32 u] w fun e w' => e = .returned (.int .i64 (i : Int)) ∧ w' = w := index_any b o n cap L hn u w hL hc hcm (some i) (Hid.mk' hR)
theorem index_none (b o n cap : Nat) (L : List Int) (hn : L.length = n) (u : Int) (w : World) (hL : RunesAt w b o L) (hc : n ≤ cap) (hcm : cap ≤ 9223372036854775807) (hR : ixR L u = none) :
    Calls Try.prog 27 #[.slice (some ⟨b, o, none⟩) n cap, .int .i32 u] w fun e w' => e = .returned (.int .i64 (-1)) ∧ w' = w := index_any b o n cap L hn u w hL hc hcm none (Hid.mk' hR)
set_option maxRecDepth 100000 in
set_option maxHeartbeats 1000000 in
theorem contains_any (b o n cap : Nat) (L : List Int) (hn : L.length = n) (u : Int) (w : World) (hL : RunesAt w b o L) (hc : n ≤ cap) (hcm : cap ≤ 9223372036854775807) (H : Bool) (hH : Hid ((ixR L u).isSome = H)) :
    Calls Try.prog 35 #[.slice (some ⟨b, o, none⟩) n cap, .int .i32 u] w fun e w' => e = .returned (.bool H) ∧ w' = w := by
  cases hR : ixR L u with
  | some i =>
    have a1 := Hid.mk' (index_some b o n cap L hn u w hL hc hcm i hR)
    have hi0 : (0 : Int) ≤ (i : Int) := by omega
    have : H = true := by rw [← hH.out, hR]; rfl
    subst this
    clear hH hR hL hn
    go_enter Try.func35, Try.ntmps35
    go_wp2_with (go_at_call 27; refine a1.out.mono ?_; rintro e w1 ⟨rfl, rfl⟩)
    go_ret
    exact ⟨rfl, rfl⟩
  | none =>
    have a1 := Hid.mk' (index_none b o n cap L hn u w hL hc hcm hR)
    have : H = false := by rw [← hH.out, hR]; rfl
    subst this
    clear hH hR hL hn
    go_enter Try.func35, Try.ntmps35
    go_wp2_with (go_at_call 27; refine a1.out.mono ?_; rintro e w1 ⟨rfl, rfl⟩)
    go_ret
    exact ⟨rfl, rfl⟩
set_option maxRecDepth 100000 in
set_option maxHeartbeats 1000000 in
theorem may_any (u : Int) (w : World) (H : Bool) (hH : Hid (hoR u = H)) : Calls Try.prog 22 #[.int .i32 u] w fun e w' => e = .returned (.bool H) ∧ w.grownBy w' none := by
  have a1 := Hid.mk' (fun w => letters_any w)
  have hl0 := Hid.mk' leI_len
  have hx : Hid ((ixR (toI le) u).isSome = H) := Hid.mk' (by rw [ixR_le]; exact hH.out)
  generalize toI le = Z at *
  clear hH
  go_enter Try.func22, Try.ntmps22
  go_upto_region 2 with (first
    | (go_at_call 28; refine (a1.out _).mono ?_; rintro e w1 ⟨rfl, hg1⟩)
    | (refine wpList_allocA _ rfl 52 rfl (zs 24) (zero24 _) ?_; intro w2 ha2 hg2)
    | (refine wpList_storeA _ rfl 52 _ _ rfl 24 info24 w1.heap.size (zs 24) Z (zs_len 24) hl0.out rfl rfl ha2 ?_; intro w3 ha3 hg3))
  have hG : Hid (w.grownBy w3 none) := Hid.mk' (grownBy_new (grownBy_trans hg1 hg2) hg3 (fun k hk => by have h5 := Option.some.inj hk; have h6 := hg1.size; omega))
  have a2 := Hid.mk' (contains_any w1.heap.size 0 24 24 Z hl0.out u w3 (ArrAt.runes ha3) (by omega) (by omega) H hx)
  clear ha2 ha3 hg1 hg2 hg3
  generalize w1.heap.size = B at *
  go_wp2_with (go_at_call 35; refine a2.out.mono ?_; rintro e w4 ⟨rfl, rfl⟩)
  go_ret
  exact ⟨rfl, hG.out⟩
/-- What isMark and Split find in the rows: row j's mark, and its results behind it. -/
theorem rowI_eq {j : Nat} (hj : j < 5) : rowI j = (((ro.getD j (0, [])).1 : Nat) : Int) :: toI (ro.getD j (0, [])).2 := rfl
theorem res_len {j : Nat} (hj : j < 5) : (toI (ro.getD j (0, [])).2).length = 24 := by
  have := rowI_len hj
  rw [rowI_eq hj] at this
  simpa using this
theorem mkR_hit {u : Int} {j : Nat} (hj : j < 5) (h : (((ro.getD j (0, [])).1 : Nat) : Int) = u) : mkR u = true := by
  have hj' : j < ro.length := by rw [ro_len]; exact hj
  refine List.any_eq_true.2 ⟨ro[j], List.getElem_mem hj', decide_eq_true ?_⟩
  rw [List.getD_eq_getElem?_getD, List.getElem?_eq_getElem hj'] at h
  exact h
theorem mkR_miss {u : Int} (h : ∀ j < 5, ¬ (((ro.getD j (0, [])).1 : Nat) : Int) = u) : mkR u = false := by
  refine List.any_eq_false.2 ?_
  intro r hr
  obtain ⟨j, hj, rfl⟩ := List.getElem_of_mem hr
  have := h j (by rw [ro_len] at hj; exact hj)
  rw [List.getD_eq_getElem?_getD, List.getElem?_eq_getElem hj] at this
  simpa using this
set_option maxRecDepth 100000 in
set_option maxHeartbeats 1000000 in
theorem mark_any (u : Int) (w : World) (H : Bool) (hH : Hid (mkR u = H)) : Calls Try.prog 23 #[.int .i32 u] w fun e w' => e = .returned (.bool H) ∧ w.grownBy w' none := by
  have a1 := Hid.mk' (fun w => rows_any w)
  have hix : Hid (∀ (j : Nat), j < 5 → ∀ w, (Instr.index 55 (arrV .i32 roI) (.int .i64 (j : Int))).run Try.prog w = .ok (arrV .i32 (rowI j)) w) := Hid.mk' (fun j hj w => idx_row hj w)
  generalize arrV .i32 roI = V at *
  go_enter Try.func23, Try.ntmps23
  go_wp2_with (go_at_call 26; refine (a1.out _).mono ?_; rintro e w1 ⟨rfl, hg1⟩)
  have hG1 := Hid.mk' hg1
  clear hg1
  go_loopw [6] (fun t6 wx => ∃ j : Nat, j ≤ 5 ∧ t6 = .int .i64 (j : Int) ∧ Hid (∀ i < j, ¬ (((ro.getD i (0, [])).1 : Nat) : Int) = u) ∧ Hid (w.grownBy wx none)) (fun t6 _ => 5 - (intOf t6).toNat)
  case atStart => exact ⟨0, by omega, rfl, Hid.mk' (fun j h => by omega), hG1⟩
  case round =>
    obtain ⟨j, hj, rfl, hb, hG⟩ := hrel
    by_cases hlt : j < 5
    · have hlt' : (j : Int) < 5 := by omega
      have hx := hix.out j hlt
      have hl := Hid.mk' (rowI_len hlt)
      have he := Hid.mk' (rowI_eq hlt)
      obtain ⟨z, hz⟩ : ∃ z : Int, Hid ((((ro.getD j (0, [])).1 : Nat) : Int) = z) := ⟨_, Hid.mk' rfl⟩
      have he2 : Hid (∃ Y, rowI j = z :: Y) := Hid.mk' ⟨_, by rw [← hz.out]; exact he.out⟩
      generalize rowI j = Z at *
      clear he
      by_cases hu : z = u
      · have : H = true := by rw [← hH.out]; exact mkR_hit hlt (by rw [hz.out]; exact hu)
        subst this
        subst hu
        clear hH hb hz
        go_wp2_with (first
          | (refine wpList_allocA _ rfl 54 rfl (zs 25) (zero25 _) ?_; intro w2 ha2 hg2)
          | (refine wpList_storeA _ rfl 54 _ _ rfl 25 info25 _ (zs 25) Z (zs_len 25) hl.out rfl rfl ha2 ?_; intro w3 ha3 hg3; have hc : w3.cell? ⟨wr.heap.size, 0, none⟩ = some (.int .i32 z) := (by obtain ⟨Y, hY⟩ := he2.out; subst hY; exact ha3.cell 0 (by simp))))
        go_ret
        exact ⟨rfl, gt hG.out (grownBy_new hg2 hg3 (fun k hk => by have h5 := Option.some.inj hk; omega))⟩
      · have hu' : (z == u) = false := by simpa using hu
        go_wp2_with (first
          | (refine wpList_allocA _ rfl 54 rfl (zs 25) (zero25 _) ?_; intro w2 ha2 hg2)
          | (refine wpList_storeA _ rfl 54 _ _ rfl 25 info25 _ (zs 25) Z (zs_len 25) hl.out rfl rfl ha2 ?_; intro w3 ha3 hg3; have hc : w3.cell? ⟨wr.heap.size, 0, none⟩ = some (.int .i32 z) := (by obtain ⟨Y, hY⟩ := he2.out; subst hY; exact ha3.cell 0 (by simp))))
        go_roundw
        case rel => exact ⟨j + 1, by omega, by go_num, Hid.mk' (fun i h => by
          by_cases e : i = j
          · subst e; rw [hz.out]; exact hu
          · exact hb.out i (by omega)), Hid.mk' (gt hG.out (grownBy_new hg2 hg3 (fun k hk => by have h5 := Option.some.inj hk; omega)))⟩
        all_goals (simp [intOf]; omega)
    · obtain rfl : j = 5 := by omega
      have : H = false := by rw [← hH.out]; exact mkR_miss hb.out
      subst this
      clear hH hb
      go_wp2_with fail
      go_ret
      exact ⟨rfl, hG.out⟩
end Go.Proofs.Ytfehmbicolllkaa.C13

/- The document's Pack, Unpack and begins of layer 19: walks. -/
import Derived.Test.YtdphkpjamclhjaaJP19
import Derived.Test.YtdphkpjamclhjaaRegion
import Derived.Deep.RegionHeld3
import Derived.BigQuiet
namespace Go.Proofs.Ytdphkpjamclhjaa.C19
open Go.ChangeShapes Go.WideShapes Go.ChangeAt Go.RowKit Go.Proofs.Ytdphkpjamclhjaa.Mem Go.Proofs.Ytdphkpjamclhjaa.Cb Go.Proofs.Ytdphkpjamclhjaa.Sp
set_option linter.unusedVariables false
set_option linter.unusedSimpArgs false

def rowI (L : List Nat) : Array Value := (L.map (fun n : Nat => Value.int .i64 (n : Int))).toArray
theorem rowI_at {w : World} {b : Nat} {L : List Nat} (h : CA w b 3 (rowI L)) {i : Nat} (hi : i < L.length) : w.cell? ⟨b, i, none⟩ = some (.int .i64 (L[i] : Int)) := h.cell i (by simp [rowI, List.getElem?_map, List.getElem?_eq_getElem hi])
set_option maxRecDepth 100000 in
set_option maxHeartbeats 1000000 in
theorem middles_any (w : World) : Calls Try.prog 28 #[] w fun e w' => e = .returned (.slice (some ⟨w.heap.size, 0, none⟩) 21 21) ∧ CA w' w.heap.size 3 (rowI mids) ∧ w.grownBy w' none := by
  go_enter Try.func28, Try.ntmps28
  go_wp2
  go_ret
  exact ⟨rfl, heap_alloc_new w _, World.grownBy_alloc _ _ _⟩
set_option maxRecDepth 100000 in
set_option maxHeartbeats 1000000 in
theorem lasts_any (w : World) : Calls Try.prog 29 #[] w fun e w' => e = .returned (.slice (some ⟨w.heap.size, 0, none⟩) 28 28) ∧ CA w' w.heap.size 3 (rowI lsts) ∧ w.grownBy w' none := by
  go_enter Try.func29, Try.ntmps29
  go_wp2
  go_ret
  exact ⟨rfl, heap_alloc_new w _, World.grownBy_alloc _ _ _⟩
set_option maxRecDepth 100000 in
set_option maxHeartbeats 1000000 in
theorem place_any (L : List Nat) (hL : L.length ≤ 28) (n : Nat) (b : Nat) (w : World) (h : CA w b 3 (rowI L)) (p : Int) (hp : Hid (plc L n = p)) : Calls Try.prog 31 #[.slice (some ⟨b, 0, none⟩) L.length L.length, .int .i64 (n : Int)] w fun e w' => e = .returned (.int .i64 p) ∧ w.grownBy w' none := by
  have hc : Hid (∀ i (hi : i < L.length), w.cell? ⟨b, i, none⟩ = some (.int .i64 (L[i] : Int))) := Hid.mk' (fun i hi => rowI_at h hi)
  clear h
  obtain ⟨N0, hN⟩ : ∃ N0, L.length = N0 := ⟨_, rfl⟩
  have hN0 := Hid.mk' hN
  rw [hN] at hL ⊢
  clear hN
  go_enter Try.func31, Try.ntmps31
  go_wp2
  go_loopw [5] (fun t5 wx => ∃ (i : Nat), i ≤ N0 ∧ t5 = .int .i64 (i : Int) ∧ Hid (∀ j (hj : j < L.length), j < i → L[j] ≠ n) ∧ wx = w) (fun t5 _ => N0 - (intOf t5).toNat)
  case atStart => exact ⟨0, by omega, rfl, Hid.mk' (by omega), rfl⟩
  case round =>
    obtain ⟨i, hi, rfl, hb, rfl⟩ := hrel
    by_cases hlt : i < N0
    · have hlt' : (i : Int) < (N0 : Int) := by omega
      have hi0 : (0 : Int) ≤ (i : Int) := by omega
      have hiL : i < L.length := by rw [hN0.out]; exact hlt
      have hx := hc.out i hiL
      obtain ⟨v, hv⟩ : ∃ v, Hid (L[i] = v) := ⟨_, Hid.mk' rfl⟩
      rw [hv.out] at hx
      by_cases hvn : v = n
      · have : p = (i : Int) := by
          rw [← hp.out, plc]
          have : L.findIdx? (fun x => x == n) = some i := by
            rw [List.findIdx?_eq_some_iff_getElem]
            exact ⟨hiL, by rw [hv.out, hvn]; simp, fun j hj => by simpa using hb.out j (by omega) hj⟩
          rw [this]
        subst this
        subst hvn
        have hvv : ((v : Int) == (v : Int)) = true := by simp
        clear hp hb hc
        go_wp2
        go_ret
        exact ⟨rfl, grownBy_refl _ _⟩
      · have hvn' : ((v : Int) == (n : Int)) = false := by simp; omega
        go_wp2
        go_roundw
        case rel => exact ⟨i + 1, by omega, by go_num, Hid.mk' (fun j hj h2 => by
          by_cases e : j = i
          · subst e; rw [hv.out]; exact hvn
          · exact hb.out j hj (by omega)), by first | exact rfl | trivial⟩
        all_goals (simp [intOf]; omega)
    · obtain rfl : i = N0 := by omega
      have : p = -1 := by
        rw [← hp.out, plc]
        have : L.findIdx? (fun x => x == n) = none := by
          rw [List.findIdx?_eq_none_iff]
          intro x hx
          obtain ⟨j, hj, rfl⟩ := List.getElem_of_mem hx
          simpa using hb.out j hj (by rw [hN0.out] at hj; exact hj)
        rw [this]
      subst this
      clear hp hb hc
      go_wp2_with fail
      go_ret
      exact ⟨rfl, grownBy_refl _ _⟩
set_option maxRecDepth 100000 in
set_option maxHeartbeats 1000000 in
theorem pack_yes (a b c : Nat) (h1 : a ≤ 18) (h2 : b ≤ 20) (h3 : c ≤ 27) (w : World) : Calls Try.prog 14 #[.int .i64 (a : Int), .int .i64 (b : Int), .int .i64 (c : Int)] w fun e w' => e = .returned (.tuple #[.int .i64 (code a b c : Int), .bool true]) ∧ w.grownBy w' none := by
  have a0 : Hid (∀ w, Calls Try.prog 21 #[.int .i64 (a : Int), .int .i64 (b : Int), .int .i64 (c : Int)] w fun e w' => e = .returned (.tuple #[.int .i32 (C16.syV a b c), .bool true]) ∧ w.grownBy w' none) := Hid.mk' (fun w => (C16.refSyl_yes _ _ _ (nat_in3 h1 h2 h3) w).mono (fun e w' h => ⟨h.1, by rw [h.2]; exact grownBy_refl _ _⟩))
  have a1 := Hid.mk' (fun w => middles_any w)
  have a2 := Hid.mk' (fun w => lasts_any w)
  obtain ⟨x, hx⟩ : ∃ x, Hid (md b = x) := ⟨_, Hid.mk' rfl⟩
  obtain ⟨y, hy⟩ : ∃ y, Hid (ls c = y) := ⟨_, Hid.mk' rfl⟩
  have hxl : x < 32 := by rw [← hx.out]; exact (md_lt b (by omega)).1
  have hyl : y < 32 := by rw [← hy.out]; exact (ls_lt c (by omega)).1
  have hmc : Hid (∀ w B, CA w B 3 (rowI mids) → w.cell? ⟨B, b, none⟩ = some (.int .i64 (x : Int))) := Hid.mk' (fun w B h => by
    have hl : b < mids.length := by have : mids.length = 21 := rfl; omega
    rw [rowI_at h hl, ← hx.out, md, List.getD_eq_getElem?_getD, List.getElem?_eq_getElem hl]
    rfl)
  have hlc : Hid (∀ w B, CA w B 3 (rowI lsts) → w.cell? ⟨B, c, none⟩ = some (.int .i64 (y : Int))) := Hid.mk' (fun w B h => by
    have hl : c < lsts.length := by have : lsts.length = 28 := rfl; omega
    rw [rowI_at h hl, ← hy.out, ls, List.getD_eq_getElem?_getD, List.getElem?_eq_getElem hl]
    rfl)
  obtain ⟨z, hz⟩ : ∃ z, Hid (code a b c = z) := ⟨_, Hid.mk' rfl⟩
  have hzz : 32768 + (a + 2) * 1024 + x * 32 + y = z := by rw [← hz.out, code, hx.out, hy.out]
  rw [hz.out]
  obtain ⟨p1, e1⟩ : ∃ p : Nat, (a : Int) + 2 = (p : Int) := ⟨a + 2, by omega⟩
  obtain ⟨p2, e2⟩ : ∃ p : Nat, (p1 : Int) * 1024 = (p : Int) := ⟨p1 * 1024, by omega⟩
  obtain ⟨p3, e3⟩ : ∃ p : Nat, 32768 + (p2 : Int) = (p : Int) := ⟨32768 + p2, by omega⟩
  obtain ⟨p4, e4⟩ : ∃ p : Nat, (x : Int) * 32 = (p : Int) := ⟨x * 32, by omega⟩
  obtain ⟨p5, e5⟩ : ∃ p : Nat, (p3 : Int) + (p4 : Int) = (p : Int) := ⟨p3 + p4, by omega⟩
  have e6 : (p5 : Int) + (y : Int) = (z : Int) := by omega
  have f1 : IntKind.i64.wrap (p1 : Int) = (p1 : Int) := by rw [IntKind.wrap_i64]; omega
  have f2 : IntKind.i64.wrap (p2 : Int) = (p2 : Int) := by rw [IntKind.wrap_i64]; omega
  have f3 : IntKind.i64.wrap (p3 : Int) = (p3 : Int) := by rw [IntKind.wrap_i64]; omega
  have f4 : IntKind.i64.wrap (p4 : Int) = (p4 : Int) := by rw [IntKind.wrap_i64]; omega
  have f5 : IntKind.i64.wrap (p5 : Int) = (p5 : Int) := by rw [IntKind.wrap_i64]; omega
  have f6 : IntKind.i64.wrap (z : Int) = (z : Int) := by rw [IntKind.wrap_i64]; omega
  have i1 : (0 : Int) ≤ (b : Int) := by omega
  have i2 : (b : Int) < 21 := by omega
  have i3 : (0 : Int) ≤ (c : Int) := by omega
  have i4 : (c : Int) < 28 := by omega
  clear hzz hz hx hy
  go_enter Try.func14, Try.ntmps14
  go_upto_region 4 with (go_at_call 21; refine (a0.out _).mono ?_; rintro e w2 ⟨rfl, hg2⟩; have hG2 : Hid (w.grownBy w2 none) := Hid.mk' hg2)
  clear a0 hg2
  refine wp_region_held_drew (S := fun _ => True) (by kernel_rfl) trivial (fun hHeld => ?_)
  refine wpAnyH_take (i := 0) (v := ?_) rfl (by kernel_rfl) (by kernel_rfl) (by kernel_rfl) (fun _ _ _ h => h) (Or.inl ⟨by rfl, ?_⟩) (by assumption) ?_; rotate_left
  · (intro w hSw; (try dsimp only at hSw); go_simp; try with_reducible rfl)
  try simp only [List.getElem_toArray, List.getElem_cons_zero, Act.put, List.setIfInBounds_toArray, List.set_cons_zero, List.set_cons_succ]
  refine wpAnyH_take (i := 1) (v := ?_) rfl (by kernel_rfl) (by kernel_rfl) (by kernel_rfl) (fun _ _ _ h => h) (Or.inl ⟨by rfl, ?_⟩) (by assumption) ?_; rotate_left
  · (intro w hSw; (try dsimp only at hSw); go_simp; try with_reducible rfl)
  try simp only [List.getElem_toArray, List.getElem_cons_zero, List.getElem_cons_succ, Act.put, List.setIfInBounds_toArray, List.set_cons_zero, List.set_cons_succ]
  refine wpAnyH_take (i := 2) (v := ?_) rfl (by kernel_rfl) (by kernel_rfl) (by kernel_rfl) (fun _ _ _ h => h) (Or.inl ⟨by rfl, ?_⟩) (by assumption) ?_; rotate_left
  · (intro w hSw; (try dsimp only at hSw); go_simp; try with_reducible rfl)
  try simp only [List.getElem_toArray, List.getElem_cons_zero, List.getElem_cons_succ, Act.put, List.setIfInBounds_toArray, List.set_cons_zero, List.set_cons_succ]
  refine wpAnyH_take (i := 3) (v := ?_) rfl (by kernel_rfl) (by kernel_rfl) (by kernel_rfl) (fun _ _ _ h => h) (Or.inl ⟨by rfl, ?_⟩) (by assumption) ?_; rotate_left
  · (intro w hSw; (try dsimp only at hSw); go_simp; try with_reducible rfl)
  try simp only [List.getElem_toArray, List.getElem_cons_zero, List.getElem_cons_succ, Act.put, List.setIfInBounds_toArray, List.set_cons_zero, List.set_cons_succ]
  refine wpAnyH_take (i := 5) (v := ?_) rfl (by kernel_rfl) (by kernel_rfl) (by kernel_rfl) (fun _ _ _ h => h) (Or.inl ⟨by rfl, ?_⟩) (by assumption) ?_; rotate_left
  · (intro w hSw; (try dsimp only at hSw); go_simp; try with_reducible rfl)
  try simp only [List.getElem_toArray, List.getElem_cons_zero, List.getElem_cons_succ, Act.put, List.setIfInBounds_toArray, List.set_cons_zero, List.set_cons_succ]
  refine wpAnyH_take (i := 11) (v := ?_) rfl (by kernel_rfl) (by kernel_rfl) (by kernel_rfl) (fun _ _ _ h => h) (Or.inl ⟨by rfl, ?_⟩) (by assumption) ?_; rotate_left
  · (intro w hSw; (try dsimp only at hSw); go_simp; try with_reducible rfl)
  try simp only [List.getElem_toArray, List.getElem_cons_zero, List.getElem_cons_succ, Act.put, List.setIfInBounds_toArray, List.set_cons_zero, List.set_cons_succ]
  refine wpAnyH_ready (rs := [4]) (by kernel_rfl) (by simp) ?_
  refine AllReadyH.cons rfl (fun K hK => ?_) AllReadyH.nil
  go_simp
  refine (a1.out _).mono ?_; rintro e w3 ⟨rfl, hr3, hg3⟩; have hG3 : Hid (w.grownBy w3 none) := Hid.mk' (gt hG2.out (gt (grownBy_drew (grownBy_refl _ _)) hg3)); have hm3 : Hid (CA w3 w2.heap.size 3 (rowI mids)) := Hid.mk' hr3; try dsimp only
  refine hK.out _ _ trivial (fun hHeld => ?_)
  clear hK K
  try simp only [List.getElem_toArray, List.getElem_cons_zero, List.getElem_cons_succ, Act.put, List.setIfInBounds_toArray, List.set_cons_zero, List.set_cons_succ]
  obtain ⟨MB, hMB⟩ : ∃ B, w2.heap.size = B := ⟨_, rfl⟩
  rw [hMB] at hm3
  try rw [show w2.drew.heap.size = w2.heap.size from rfl]
  try rw [hMB]
  have hc3 := hmc.out _ _ hm3.out
  refine wpAnyH_mono (T := fun w' => True ∧ w'.cell? ⟨MB, b, none⟩ = some (.int .i64 (x : Int))) (fun _ h => h.1) _ _ _ _ ?_
  have hHeld2 : (fun w' => True ∧ w'.cell? ⟨MB, b, none⟩ = some (.int .i64 (x : Int))) w3 := ⟨trivial, hc3⟩
  refine wpAnyH_take (i := 6) (v := ?_) rfl (by kernel_rfl) (by kernel_rfl) (by kernel_rfl) (fun _ _ _ h => h) (Or.inl ⟨by rfl, ?_⟩) (by assumption) ?_; rotate_left
  · (intro w hSw; (try dsimp only at hSw); go_simp; try with_reducible rfl)
  try simp only [List.getElem_toArray, List.getElem_cons_zero, List.getElem_cons_succ, Act.put, List.setIfInBounds_toArray, List.set_cons_zero, List.set_cons_succ]
  refine wpAnyH_take (i := 7) (v := ?_) rfl (by kernel_rfl) (by kernel_rfl) (by kernel_rfl) (fun _ _ _ h => h) (Or.inl ⟨by rfl, ?_⟩) (by assumption) ?_; rotate_left
  · (intro w hSw; (try dsimp only at hSw); go_simp; try with_reducible rfl)
  try simp only [List.getElem_toArray, List.getElem_cons_zero, List.getElem_cons_succ, Act.put, List.setIfInBounds_toArray, List.set_cons_zero, List.set_cons_succ]
  refine wpAnyH_take (i := 8) (v := ?_) rfl (by kernel_rfl) (by kernel_rfl) (by kernel_rfl) (fun _ _ _ h => h) (Or.inl ⟨by rfl, ?_⟩) (by assumption) ?_; rotate_left
  · (intro w hSw; (try dsimp only at hSw); go_simp; try with_reducible rfl)
  try simp only [List.getElem_toArray, List.getElem_cons_zero, List.getElem_cons_succ, Act.put, List.setIfInBounds_toArray, List.set_cons_zero, List.set_cons_succ]
  refine wpAnyH_take (i := 9) (v := ?_) rfl (by kernel_rfl) (by kernel_rfl) (by kernel_rfl) (fun _ _ _ h => h) (Or.inl ⟨by rfl, ?_⟩) (by assumption) ?_; rotate_left
  · (intro w hSw; (try dsimp only at hSw); go_simp; try with_reducible rfl)
  try simp only [List.getElem_toArray, List.getElem_cons_zero, List.getElem_cons_succ, Act.put, List.setIfInBounds_toArray, List.set_cons_zero, List.set_cons_succ]
  refine wpAnyH_ready (rs := [10]) (by kernel_rfl) (by simp) ?_
  refine AllReadyH.cons rfl (fun K hK => ?_) AllReadyH.nil
  go_simp
  refine (a2.out _).mono ?_; rintro e w4 ⟨rfl, hr4, hg4⟩; have hG4 : Hid (w.grownBy w4 none) := Hid.mk' (gt hG3.out hg4); have hl4 : Hid (CA w4 w3.heap.size 3 (rowI lsts)) := Hid.mk' hr4; have hc4 := hmc.out _ _ (hm3.out.kept0 hg4); try dsimp only
  refine hK.out _ _ ⟨trivial, hc4⟩ (fun hHeld => ?_)
  clear hK K
  try simp only [List.getElem_toArray, List.getElem_cons_zero, List.getElem_cons_succ, Act.put, List.setIfInBounds_toArray, List.set_cons_zero, List.set_cons_succ]
  obtain ⟨LB, hLB⟩ : ∃ B, w3.heap.size = B := ⟨_, rfl⟩
  rw [hLB] at hl4
  try rw [hLB]
  have hc5 := hlc.out _ _ hl4.out
  refine wpAnyH_mono (T := fun w' => (True ∧ w'.cell? ⟨MB, b, none⟩ = some (.int .i64 (x : Int))) ∧ w'.cell? ⟨LB, c, none⟩ = some (.int .i64 (y : Int))) (fun _ h => h.1) _ _ _ _ ?_
  have hHeld2 : (fun w' => (True ∧ w'.cell? ⟨MB, b, none⟩ = some (.int .i64 (x : Int))) ∧ w'.cell? ⟨LB, c, none⟩ = some (.int .i64 (y : Int))) w4 := ⟨⟨trivial, hc4⟩, hc5⟩
  refine wpAnyH_take (i := 12) (v := ?_) rfl (by kernel_rfl) (by kernel_rfl) (by kernel_rfl) (fun _ _ _ h => h) (Or.inl ⟨by rfl, ?_⟩) (by assumption) ?_; rotate_left
  · (intro w hSw; (try dsimp only at hSw); go_simp; try with_reducible rfl)
  try simp only [List.getElem_toArray, List.getElem_cons_zero, List.getElem_cons_succ, Act.put, List.setIfInBounds_toArray, List.set_cons_zero, List.set_cons_succ]
  refine wpAnyH_take (i := 13) (v := ?_) rfl (by kernel_rfl) (by kernel_rfl) (by kernel_rfl) (fun _ _ _ h => h) (Or.inl ⟨by rfl, ?_⟩) (by assumption) ?_; rotate_left
  · (intro w hSw; (try dsimp only at hSw); go_simp; try with_reducible rfl)
  try simp only [List.getElem_toArray, List.getElem_cons_zero, List.getElem_cons_succ, Act.put, List.setIfInBounds_toArray, List.set_cons_zero, List.set_cons_succ]
  refine wpAnyH_take (i := 14) (v := ?_) rfl (by kernel_rfl) (by kernel_rfl) (by kernel_rfl) (fun _ _ _ h => h) (Or.inl ⟨by rfl, ?_⟩) (by assumption) ?_; rotate_left
  · (intro w hSw; (try dsimp only at hSw); go_simp; try with_reducible rfl)
  try simp only [List.getElem_toArray, List.getElem_cons_zero, List.getElem_cons_succ, Act.put, List.setIfInBounds_toArray, List.set_cons_zero, List.set_cons_succ]
  refine wpAnyH_take (i := 15) (v := ?_) rfl (by kernel_rfl) (by kernel_rfl) (by kernel_rfl) (fun _ _ _ h => h) (Or.inl ⟨by rfl, ?_⟩) (by assumption) ?_; rotate_left
  · (intro w hSw; (try dsimp only at hSw); go_simp; try with_reducible rfl)
  try simp only [List.getElem_toArray, List.getElem_cons_zero, List.getElem_cons_succ, Act.put, List.setIfInBounds_toArray, List.set_cons_zero, List.set_cons_succ]
  refine wpAnyH_take (i := 16) (v := ?_) rfl (by kernel_rfl) (by kernel_rfl) (by kernel_rfl) (fun _ _ _ h => h) (Or.inl ⟨by rfl, ?_⟩) (by assumption) ?_; rotate_left
  · (intro w hSw; (try dsimp only at hSw); go_simp; try with_reducible rfl)
  try simp only [List.getElem_toArray, List.getElem_cons_zero, List.getElem_cons_succ, Act.put, List.setIfInBounds_toArray, List.set_cons_zero, List.set_cons_succ]
  refine wpAnyH_done (by kernel_rfl) ?_ _
  go_wp2
  go_ret2
  exact ⟨rfl, hG4.out⟩
set_option maxRecDepth 100000 in
set_option maxHeartbeats 1000000 in
theorem pack_no (f m l : Int) (h : ¬ C16.In3 f m l) (w : World) : Calls Try.prog 14 #[.int .i64 f, .int .i64 m, .int .i64 l] w fun e w' => e = .returned (.tuple #[.int .i64 0, .bool false]) ∧ w.grownBy w' none := by
  have a0 := Hid.mk' (fun w => C16.refSyl_no f m l h w)
  clear h
  go_enter Try.func14, Try.ntmps14
  go_wp2_with (go_at_call 21; refine (a0.out _).mono ?_; rintro e w2 ⟨rfl, rfl⟩)
  go_ret2
  exact ⟨rfl, grownBy_refl _ _⟩
theorem packRef (f m l : Int) (c : Int) (ok : Bool) (hP : Hid (pkT f m l = (c, ok))) (w : World) : Calls Try.prog 14 #[.int .i64 f, .int .i64 m, .int .i64 l] w fun e w' => e = .returned (.tuple #[.int .i64 c, .bool ok]) ∧ w.grownBy w' none := by
  have h := hP.out
  unfold pkT at h
  by_cases hi : C16.In3 f m l
  · rw [if_pos hi] at h
    simp only [Prod.mk.injEq] at h
    obtain ⟨rfl, rfl⟩ := h
    obtain ⟨a, b, d, rfl, rfl, rfl, k1, k2, k3⟩ := in3_nat hi
    simp only [Int.toNat_natCast]
    exact pack_yes a b d k1 k2 k3 w
  · rw [if_neg hi] at h
    simp only [Prod.mk.injEq] at h
    obtain ⟨rfl, rfl⟩ := h
    exact pack_no f m l hi w
end Go.Proofs.Ytdphkpjamclhjaa.C19

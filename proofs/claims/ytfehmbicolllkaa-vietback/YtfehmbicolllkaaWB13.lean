/- VietBytes: the walk. -/
import Derived.Test.YtfehmbicolllkaaVY13
import Derived.Test.YtfehmbicolllkaaVH13
import Derived.Test.YtfehmbicolllkaaConvApp
namespace Go.Proofs.Ytfehmbicolllkaa.C13
open Go.ChangeShapes Go.WideShapes Go.ChangeAt Go.RowKit Go.Proofs.Ytfehmbicolllkaa.Mem Go.Proofs.Ytfehmbicolllkaa.Cb
set_option linter.unusedVariables false
set_option linter.unusedSimpArgs false

theorem ge_byte (c : UInt8) : geV 0 0 0 0 [c] = gtV 0 (vsR c.toNat) := by
  unfold geV
  rw [if_pos (by decide +kernel)]
theorem onR_vs {b n : Nat} (hb : b < 256) (hn : vsR b = n) (h9 : ¬ n = 65533) : ∃ x, onR (n : Int) = some x ∧ x < 256 ∧ vsR x = n := by
  unfold onR
  rw [if_neg (by omega)]
  cases e : (List.range 256).find? (fun b => decide ((vsR b : Int) = (n : Int))) with
  | none =>
    rw [List.find?_eq_none] at e
    have := e b (List.mem_range.2 hb)
    simp only [decide_eq_true_eq] at this
    exact absurd (by rw [hn]) this
  | some x =>
    have h1 := List.find?_some e
    simp only [decide_eq_true_eq] at h1
    exact ⟨x, rfl, List.mem_range.1 (List.mem_of_find?_eq_some e), by omega⟩
theorem se_byte {n x : Nat} (h : onR (n : Int) = some x) : seR (n : Int) = some [b8 x] := by simp only [seR, h]
theorem b8_toNat {x : Nat} (h : x < 256) : (b8 x).toNat = x := by have := b8_nat h; omega
abbrev pC (e : Int) (s : ByteArray) : Array Value := #[.int .i64 e, .string s, .int .i64 0, .int .i64 0, .int .u32 0, .int .i32 0]
theorem zeroP (w : World) : (zeroValue 39).run Try.prog w = .ok (.agg (pC 0 ⟨#[]⟩)) w := by kernel_rfl
theorem pC_one (e : Int) (s : ByteArray) : (pC e s).all (·.oneCell') = true := by kernel_rfl
theorem infoP : (Try.prog.info? 39).map (·.size) = some 6 := by kernel_rfl
set_option maxRecDepth 100000 in
set_option maxHeartbeats 2000000 in
theorem bytes_ill {P : World → Prop} (C : Con P) (c : UInt8) (hG : geV 0 0 0 0 [c] = vgV 10 1 0 0 0 0) (hc : 128 ≤ c.toNat) (w : World) (hw : P w) : Calls Try.prog 8 #[.int .u8 (c.toNat : Int)] w fun e w' => e = .returned (.bool true) ∧ w.grownBy w' none := by
  have a0 := Hid.mk' (fun w hw => works_any C w hw)
  have a1 : Hid (∀ w, P w → Calls Try.prog 15 #[stV 0 0 0 0, .slice (some ⟨w.heap.size, 0, none⟩) 1 1] (w.alloc (.cells #[.int .u8 (c.toNat : Int)] 5)) fun e w' => e = .returned (vgV 10 1 0 0 0 0) ∧ w.grownBy w' none) := Hid.mk' (fun w hw => by
    have := C.get 0 0 0 0 (some ⟨w.heap.size, 0, none⟩) 1 [c] 1 rfl _ (bytes_new w c (0, 0)) (by omega) (by omega) (C.keep hw (World.grownBy_alloc w _ none))
    rw [hG] at this
    exact this.mono (fun e w' h => ⟨h.1, gt (World.grownBy_alloc _ _ _) h.2⟩))
  have K := Hid.mk' (fun (a b : World) (h : P a) (g : a.grownBy b none) => C.keep h g)
  have hq := Hid.mk' hw
  have h1 : (128 : Int) ≤ (c.toNat : Int) := by omega
  generalize (c.toNat : Int) = B at *
  clear hw C hG hc
  go_enter Try.func8, Try.ntmps8
  go_upto_region 4 with (first
    | (go_at_call 21; refine (a0.out _ hq.out).mono ?_; rintro e w1 ⟨rfl, hg1, hp1⟩; have hq1 := Hid.mk' hp1)
    | (go_at_call 15; refine (a1.out w1 hq1.out).mono ?_; rintro e w2 ⟨rfl, hg2⟩)
    | (refine wpList_allocC _ rfl 34 rfl (gC 0 0 0 0 0 0) (zeroG _) ?_; intro w3 g3 hg3)
    | (refine wpList_storeC _ rfl 34 _ _ rfl _ (gC 0 0 0 0 0 0) (gC 10 1 0 0 0 0) infoG rfl (gC_one _ _ _ _ _ _) rfl rfl g3 ?_; intro w4 g4 hg4))
  have hG4 : Hid (w1.grownBy w4 none) := Hid.mk' (grownBy_new (gt hg2 hg3) hg4 (fun k hk => by have h5 := Option.some.inj hk; have h6 := hg2.size; omega))
  have hGw : Hid (w.grownBy w4 none) := Hid.mk' (gt hg1 hG4.out)
  have hq4 := Hid.mk' (K.out _ _ hq1.out hG4.out)
  clear hg1 hg2 hg3 hg4 g3 hG4 hp1
  generalize w2.heap.size = GB at *
  have c0 := g4.cell 0 (v := .int .i64 10) rfl
  have c1 := g4.cell 1 (v := .int .i64 1) rfl
  have c2 := g4.cell 2 (v := .int .i64 0) rfl
  have c3 := g4.cell 3 (v := .int .i32 0) rfl
  have c4 := g4.cell 4 (v := .int .i32 0) rfl
  have c5 := g4.cell 5 (v := .int .i64 0) rfl
  have c6 := g4.cell 6 (v := .int .i64 0) rfl
  have c7 := g4.cell 7 (v := .int .u32 0) rfl
  have c8 := g4.cell 8 (v := .int .i32 0) rfl
  go_wp2
  go_ret
  exact ⟨rfl, hGw.out⟩
set_option maxRecDepth 100000 in
set_option maxHeartbeats 2000000 in
theorem bytes_held_low {P : World → Prop} (C : Con P) (c : UInt8) (n x : Nat) (hn : n ≤ 65535) (hG : geV 0 0 0 0 [c] = vgV 0 1 0 0 0 (n : Int)) (hlow : c.toNat = n) (hc : c.toNat < 128) (hx : onR (n : Int) = some x) (hG2 : geV 0 0 0 0 [b8 x] = vgV 0 1 0 0 0 (n : Int)) (hD : drT 0 0 0 (n : Int) = ((n : Int), true)) (w : World) (hw : P w) : Calls Try.prog 8 #[.int .u8 (c.toNat : Int)] w fun e w' => e = .returned (.bool true) ∧ w.grownBy w' none := by
  have a0 := Hid.mk' (fun w hw => works_any C w hw)
  have a1 : Hid (∀ w, P w → Calls Try.prog 15 #[stV 0 0 0 0, .slice (some ⟨w.heap.size, 0, none⟩) 1 1] (w.alloc (.cells #[.int .u8 (c.toNat : Int)] 5)) fun e w' => e = .returned (vgV 0 1 0 0 0 (n : Int)) ∧ w.grownBy w' none) := Hid.mk' (fun w hw => by
    have := C.get 0 0 0 0 (some ⟨w.heap.size, 0, none⟩) 1 [c] 1 rfl _ (bytes_new w c (0, 0)) (by omega) (by omega) (C.keep hw (World.grownBy_alloc w _ none))
    rw [hG] at this
    exact this.mono (fun e w' h => ⟨h.1, gt (World.grownBy_alloc _ _ _) h.2⟩))
  have K := Hid.mk' (fun (a b : World) (h : P a) (g : a.grownBy b none) => C.keep h g)
  have hq := Hid.mk' hw
  have a3 : Hid (∀ w, P w → Calls Try.prog 19 #[.int .i32 (n : Int)] w fun e w' => e = .returned (vpV 0 (str [b8 x])) ∧ w.grownBy w' none) := Hid.mk' (fun w hw => by have := C.set (n : Int) (by unfold I32; omega) w hw; rw [se_byte hx] at this; exact this)
  have a2 : Hid (∀ w, P w → Calls Try.prog 13 #[stV 0 0 0 (n : Int)] w fun e w' => e = .returned (.tuple #[.int .i32 (n : Int), .bool true]) ∧ w.grownBy w' none) := Hid.mk' (fun w hw => C.drain 0 0 0 (n : Int) w (n : Int) true (Hid.mk' hD) hw)
  have a4 : Hid (∀ ao cap w, Bytes w ao [b8 x] → 1 ≤ cap → cap ≤ 9223372036854775807 → P w → Calls Try.prog 15 #[stV 0 0 0 0, .slice ao 1 cap] w fun e w' => e = .returned (vgV 0 1 0 0 0 (n : Int)) ∧ w.grownBy w' none) := Hid.mk' (fun ao cap w hB h1 h2 hw => by
    have := C.get 0 0 0 0 ao cap [b8 x] 1 rfl w hB h1 h2 hw
    rw [hG2] at this
    exact this)
  have hb1 : (str [b8 x]).size = 1 := by rw [str_size]; rfl
  have hb2 : (str [b8 x]).toList = [b8 x] := by rw [ByteArray.toList_eq, str_data]
  have hnB : (n : Int) = (c.toNat : Int) := by omega
  rw [hnB] at a1 a3 a4 a2
  have h1 : (c.toNat : Int) < 128 := by omega
  have h0 : (0 : Int) ≤ (c.toNat : Int) := by omega
  generalize (c.toNat : Int) = B at *
  have hnn : (B == B) = true := by simp
  have hd : decide ((128 : Int) ≤ B) = false := by simp; omega
  have hwr : IntKind.i32.wrap B = B := by rw [IntKind.wrap_i32]; omega
  obtain ⟨s, hs⟩ : ∃ s, str [b8 x] = s := ⟨_, rfl⟩
  rw [hs] at a3 hb1 hb2
  have hb10 := Hid.mk' hb1
  have hb20 := Hid.mk' hb2
  clear hw C hG hc hG2 hx hs hb1 hb2 hD hlow hnB hn
  go_enter Try.func8, Try.ntmps8
  go_upto_region 4 with (first
    | (go_at_call 21; refine (a0.out _ hq.out).mono ?_; rintro e w1 ⟨rfl, hg1, hp1⟩; have hq1 := Hid.mk' hp1)
    | (go_at_call 15; refine (a1.out w1 hq1.out).mono ?_; rintro e w2 ⟨rfl, hg2⟩)
    | (refine wpList_allocC _ rfl 34 rfl (gC 0 0 0 0 0 0) (zeroG _) ?_; intro w3 g3 hg3)
    | (refine wpList_storeC _ rfl 34 _ _ rfl _ (gC 0 0 0 0 0 0) (gC 0 1 0 0 0 B) infoG rfl (gC_one _ _ _ _ _ _) rfl rfl g3 ?_; intro w4 g4 hg4))
  have hG4 : Hid (w1.grownBy w4 none) := Hid.mk' (grownBy_new (gt hg2 hg3) hg4 (fun k hk => by have h5 := Option.some.inj hk; have h6 := hg2.size; omega))
  have hGw : Hid (w.grownBy w4 none) := Hid.mk' (gt hg1 hG4.out)
  have hq4 := Hid.mk' (K.out _ _ hq1.out hG4.out)
  clear hg1 hg2 hg3 hg4 g3 hG4 hp1
  generalize w2.heap.size = GB at *
  have c0 := g4.cell 0 (v := .int .i64 0) rfl
  have c1 := g4.cell 1 (v := .int .i64 1) rfl
  have c2 := g4.cell 2 (v := .int .i64 0) rfl
  have c3 := g4.cell 3 (v := .int .i32 0) rfl
  have c4 := g4.cell 4 (v := .int .i32 0) rfl
  have c5 := g4.cell 5 (v := .int .i64 0) rfl
  have c6 := g4.cell 6 (v := .int .i64 0) rfl
  have c7 := g4.cell 7 (v := .int .u32 0) rfl
  have c8 := g4.cell 8 (v := .int .i32 B) rfl
  go_upto_region 13 with (first
    | (go_at_call 13; refine (a2.out _ hq4.out).mono ?_; rintro e w5 ⟨rfl, hg5⟩; have g5 := g4.kept0 hg5; have hq5 := Hid.mk' (K.out _ _ hq4.out hg5))
    | (go_at_call 19; refine (a3.out _ hq5.out).mono ?_; rintro e w6 ⟨rfl, hg6⟩; have g6 := g5.kept0 hg6; have hq6 := Hid.mk' (K.out _ _ hq5.out hg6))
    | (refine wpList_allocC _ rfl 39 rfl (pC 0 ⟨#[]⟩) (zeroP _) ?_; intro w7 p7 hg7)
    | (refine wpList_storeC _ rfl 39 _ _ rfl _ (pC 0 ⟨#[]⟩) (pC 0 s) infoP rfl (pC_one _ _) rfl rfl p7 ?_; intro w8 p8 hg8))
  have hG8 : Hid (w6.grownBy w8 none) := Hid.mk' (grownBy_new hg7 hg8 (fun k hk => by have h5 := Option.some.inj hk; omega))
  have hGw8 : Hid (w.grownBy w8 none) := Hid.mk' (gt (gt (gt hGw.out hg5) hg6) hG8.out)
  have g8 := g6.kept0 hG8.out
  have hq8 := Hid.mk' (K.out _ _ hq6.out hG8.out)
  clear c0 c1 c2 c3 c4 c5 c6 c7 c8 g4 g6 p7 hg6 hg7 hg8 g5 hg5 hGw
  generalize w6.heap.size = PB at *
  have hcell : Hid (∀ wx, w8.grownBy wx none → (fun w' => (w'.cell? ⟨PB, 0, none⟩ = some (.int .i64 0) ∧ w'.cell? ⟨PB, 1, none⟩ = some (.string s)) ∧ w'.cell? ⟨GB, 0, none⟩ = some (.int .i64 0) ∧ w'.cell? ⟨GB, 1, none⟩ = some (.int .i64 1) ∧ w'.cell? ⟨GB, 2, none⟩ = some (.int .i64 0) ∧ w'.cell? ⟨GB, 3, none⟩ = some (.int .i32 0) ∧ w'.cell? ⟨GB, 4, none⟩ = some (.int .i32 0) ∧ w'.cell? ⟨GB, 5, none⟩ = some (.int .i64 0) ∧ w'.cell? ⟨GB, 6, none⟩ = some (.int .i64 0) ∧ w'.cell? ⟨GB, 7, none⟩ = some (.int .u32 0) ∧ w'.cell? ⟨GB, 8, none⟩ = some (.int .i32 B)) wx) := Hid.mk' (fun wx hg => ⟨⟨(p8.kept0 hg).cell 0 rfl, (p8.kept0 hg).cell 1 rfl⟩, (g8.kept0 hg).cell 0 rfl, (g8.kept0 hg).cell 1 rfl, (g8.kept0 hg).cell 2 rfl, (g8.kept0 hg).cell 3 rfl, (g8.kept0 hg).cell 4 rfl, (g8.kept0 hg).cell 5 rfl, (g8.kept0 hg).cell 6 rfl, (g8.kept0 hg).cell 7 rfl, (g8.kept0 hg).cell 8 rfl⟩)
  obtain ⟨cp, w9, hcvt, hB9, hg9, hcp1, hcp2⟩ := conv_new (P := Try.prog) w8.drew 9 30 s Try.underlying9 Try.underlying30 Try.underlying5 (by have := hb10.out; omega)
  rw [hb10.out] at hcvt hcp1
  rw [hb20.out] at hB9
  have hg89 : Hid (w8.grownBy w9 none) := Hid.mk' (gt (gd (grownBy_refl w8 none)) hg9)
  have hS0 : (fun w' => (w'.cell? ⟨PB, 0, none⟩ = some (.int .i64 0) ∧ w'.cell? ⟨PB, 1, none⟩ = some (.string s)) ∧ w'.cell? ⟨GB, 0, none⟩ = some (.int .i64 0) ∧ w'.cell? ⟨GB, 1, none⟩ = some (.int .i64 1) ∧ w'.cell? ⟨GB, 2, none⟩ = some (.int .i64 0) ∧ w'.cell? ⟨GB, 3, none⟩ = some (.int .i32 0) ∧ w'.cell? ⟨GB, 4, none⟩ = some (.int .i32 0) ∧ w'.cell? ⟨GB, 5, none⟩ = some (.int .i64 0) ∧ w'.cell? ⟨GB, 6, none⟩ = some (.int .i64 0) ∧ w'.cell? ⟨GB, 7, none⟩ = some (.int .u32 0) ∧ w'.cell? ⟨GB, 8, none⟩ = some (.int .i32 B)) w8.drew := hcell.out _ (gd (grownBy_refl w8 none))
  have hS9 : (fun w' => (w'.cell? ⟨PB, 0, none⟩ = some (.int .i64 0) ∧ w'.cell? ⟨PB, 1, none⟩ = some (.string s)) ∧ w'.cell? ⟨GB, 0, none⟩ = some (.int .i64 0) ∧ w'.cell? ⟨GB, 1, none⟩ = some (.int .i64 1) ∧ w'.cell? ⟨GB, 2, none⟩ = some (.int .i64 0) ∧ w'.cell? ⟨GB, 3, none⟩ = some (.int .i32 0) ∧ w'.cell? ⟨GB, 4, none⟩ = some (.int .i32 0) ∧ w'.cell? ⟨GB, 5, none⟩ = some (.int .i64 0) ∧ w'.cell? ⟨GB, 6, none⟩ = some (.int .i64 0) ∧ w'.cell? ⟨GB, 7, none⟩ = some (.int .u32 0) ∧ w'.cell? ⟨GB, 8, none⟩ = some (.int .i32 B)) w9 := hcell.out _ hg89.out
  have a5 := Hid.mk' (a4.out _ cp w9 hB9 hcp1 hcp2 (K.out _ _ hq8.out hg89.out))
  have hsz : s.size = 1 := hb10.out
  clear hg9 hB9 hcp1 hcp2 a4 hb10 hb20 p8 g8
  refine wp_region_held_drew (S := fun w' => (w'.cell? ⟨PB, 0, none⟩ = some (.int .i64 0) ∧ w'.cell? ⟨PB, 1, none⟩ = some (.string s)) ∧ w'.cell? ⟨GB, 0, none⟩ = some (.int .i64 0) ∧ w'.cell? ⟨GB, 1, none⟩ = some (.int .i64 1) ∧ w'.cell? ⟨GB, 2, none⟩ = some (.int .i64 0) ∧ w'.cell? ⟨GB, 3, none⟩ = some (.int .i32 0) ∧ w'.cell? ⟨GB, 4, none⟩ = some (.int .i32 0) ∧ w'.cell? ⟨GB, 5, none⟩ = some (.int .i64 0) ∧ w'.cell? ⟨GB, 6, none⟩ = some (.int .i64 0) ∧ w'.cell? ⟨GB, 7, none⟩ = some (.int .u32 0) ∧ w'.cell? ⟨GB, 8, none⟩ = some (.int .i32 B)) (by kernel_rfl) hS0 (fun hHeld => ?_)
  refine wpAnyH_take (i := 0) (v := ?_) rfl (by kernel_rfl) (by kernel_rfl) (by kernel_rfl) (fun _ _ _ h => h) (Or.inl ⟨by rfl, ?_⟩) (by assumption) ?_; rotate_left
  · (intro w hSw; (try dsimp only at hSw); go_simp; try with_reducible rfl)
  try simp only [List.getElem_toArray, List.getElem_cons_zero, Act.put, List.setIfInBounds_toArray, List.set_cons_zero, List.set_cons_succ]
  refine wpAnyH_take (i := 1) (v := ?_) rfl (by kernel_rfl) (by kernel_rfl) (by kernel_rfl) (fun _ _ _ h => h) (Or.inl ⟨by rfl, ?_⟩) (by assumption) ?_; rotate_left
  · (intro w hSw; (try dsimp only at hSw); go_simp; try with_reducible rfl)
  try simp only [List.getElem_toArray, List.getElem_cons_zero, List.getElem_cons_succ, Act.put, List.setIfInBounds_toArray, List.set_cons_zero, List.set_cons_succ]
  refine wpAnyH_take (i := 2) (v := ?_) rfl (by kernel_rfl) (by kernel_rfl) (by kernel_rfl) (fun _ _ _ h => h) (Or.inl ⟨by rfl, ?_⟩) (by assumption) ?_; rotate_left
  · (intro w hSw; (try dsimp only at hSw); go_simp; try with_reducible rfl)
  try simp only [List.getElem_toArray, List.getElem_cons_zero, List.getElem_cons_succ, Act.put, List.setIfInBounds_toArray, List.set_cons_zero, List.set_cons_succ]
  refine wpAnyH_take (i := 3) (v := ?_) rfl (by kernel_rfl) (by kernel_rfl) (by kernel_rfl) (fun _ _ _ h => h) (Or.inl ⟨by rfl, ?_⟩) (by assumption) ?_; rotate_left
  · (intro w hSw; (try dsimp only at hSw); go_simp; try with_reducible rfl)
  try simp only [List.getElem_toArray, List.getElem_cons_zero, List.getElem_cons_succ, Act.put, List.setIfInBounds_toArray, List.set_cons_zero, List.set_cons_succ]
  refine wpAnyH_take (i := 4) (v := ?_) rfl (by kernel_rfl) (by kernel_rfl) (by kernel_rfl) (fun _ _ _ h => h) (Or.inl ⟨by rfl, ?_⟩) (by assumption) ?_; rotate_left
  · (intro w hSw; (try dsimp only at hSw); go_simp; try with_reducible rfl)
  try simp only [List.getElem_toArray, List.getElem_cons_zero, List.getElem_cons_succ, Act.put, List.setIfInBounds_toArray, List.set_cons_zero, List.set_cons_succ]
  refine wpAnyH_take (i := 5) (v := ?_) rfl (by kernel_rfl) (by kernel_rfl) (by kernel_rfl) (fun _ _ _ h => h) (Or.inl ⟨by rfl, ?_⟩) (by assumption) ?_; rotate_left
  · (intro w hSw; (try dsimp only at hSw); go_simp; try with_reducible rfl)
  try simp only [List.getElem_toArray, List.getElem_cons_zero, List.getElem_cons_succ, Act.put, List.setIfInBounds_toArray, List.set_cons_zero, List.set_cons_succ]
  refine wpAnyH_take (i := 6) (v := ?_) rfl (by kernel_rfl) (by kernel_rfl) (by kernel_rfl) (fun _ _ _ h => h) (Or.inl ⟨by rfl, ?_⟩) (by assumption) ?_; rotate_left
  · (intro w hSw; (try dsimp only at hSw); go_simp; try with_reducible rfl)
  try simp only [List.getElem_toArray, List.getElem_cons_zero, List.getElem_cons_succ, Act.put, List.setIfInBounds_toArray, List.set_cons_zero, List.set_cons_succ]
  refine wpAnyH_take (i := 7) (v := ?_) rfl (by kernel_rfl) (by kernel_rfl) (by kernel_rfl) (fun _ _ _ h => h) (Or.inl ⟨by rfl, ?_⟩) (by assumption) ?_; rotate_left
  · (intro w hSw; (try dsimp only at hSw); go_simp; try with_reducible rfl)
  try simp only [List.getElem_toArray, List.getElem_cons_zero, List.getElem_cons_succ, Act.put, List.setIfInBounds_toArray, List.set_cons_zero, List.set_cons_succ]
  refine wpAnyH_take (i := 8) (v := ?_) rfl (by kernel_rfl) (by kernel_rfl) (by kernel_rfl) (fun _ _ _ h => h) (Or.inl ⟨by rfl, ?_⟩) (by assumption) ?_; rotate_left
  · (intro w hSw; (try dsimp only at hSw); go_simp; try with_reducible rfl)
  try simp only [List.getElem_toArray, List.getElem_cons_zero, List.getElem_cons_succ, Act.put, List.setIfInBounds_toArray, List.set_cons_zero, List.set_cons_succ]
  refine wpAnyH_take (i := 9) (v := ?_) rfl (by kernel_rfl) (by kernel_rfl) (by kernel_rfl) (fun _ _ _ h => h) (Or.inl ⟨by rfl, ?_⟩) (by assumption) ?_; rotate_left
  · (intro w hSw; (try dsimp only at hSw); go_simp; try with_reducible rfl)
  try simp only [List.getElem_toArray, List.getElem_cons_zero, List.getElem_cons_succ, Act.put, List.setIfInBounds_toArray, List.set_cons_zero, List.set_cons_succ]
  refine wpAnyH_take (i := 10) (v := ?_) rfl (by kernel_rfl) (by kernel_rfl) (by kernel_rfl) (fun _ _ _ h => h) (Or.inl ⟨by rfl, ?_⟩) (by assumption) ?_; rotate_left
  · (intro w hSw; (try dsimp only at hSw); go_simp; try with_reducible rfl)
  try simp only [List.getElem_toArray, List.getElem_cons_zero, List.getElem_cons_succ, Act.put, List.setIfInBounds_toArray, List.set_cons_zero, List.set_cons_succ]
  refine wpAnyH_take (i := 11) (v := ?_) rfl (by kernel_rfl) (by kernel_rfl) (by kernel_rfl) (fun _ _ _ h => h) (Or.inl ⟨by rfl, ?_⟩) (by assumption) ?_; rotate_left
  · (intro w hSw; (try dsimp only at hSw); go_simp; try with_reducible rfl)
  try simp only [List.getElem_toArray, List.getElem_cons_zero, List.getElem_cons_succ, Act.put, List.setIfInBounds_toArray, List.set_cons_zero, List.set_cons_succ]
  refine wpAnyH_take (i := 12) (v := ?_) rfl (by kernel_rfl) (by kernel_rfl) (by kernel_rfl) (fun _ _ _ h => h) (Or.inl ⟨by rfl, ?_⟩) (by assumption) ?_; rotate_left
  · (intro w hSw; (try dsimp only at hSw); go_simp; try with_reducible rfl)
  try simp only [List.getElem_toArray, List.getElem_cons_zero, List.getElem_cons_succ, Act.put, List.setIfInBounds_toArray, List.set_cons_zero, List.set_cons_succ]
  refine wpAnyH_take (i := 15) (v := ?_) rfl (by kernel_rfl) (by kernel_rfl) (by kernel_rfl) (fun _ _ _ h => h) (Or.inl ⟨by rfl, ?_⟩) (by assumption) ?_; rotate_left
  · (intro w hSw; (try dsimp only at hSw); go_simp; try with_reducible rfl)
  try simp only [List.getElem_toArray, List.getElem_cons_zero, List.getElem_cons_succ, Act.put, List.setIfInBounds_toArray, List.set_cons_zero, List.set_cons_succ]
  refine wpAnyH_ready (rs := [13]) (by kernel_rfl) (by simp) ?_
  refine AllReadyH.cons rfl (fun K hK => ?_) AllReadyH.nil
  refine step_run (by rfl) (exec_convert _ _ _ (by rfl) (by simp [Act.eval]) hcvt) ?_
  refine hK.out _ _ hS9 (fun hHeld => ?_)
  clear hK K
  try simp only [List.getElem_toArray, List.getElem_cons_zero, List.getElem_cons_succ, Act.put, List.setIfInBounds_toArray, List.set_cons_zero, List.set_cons_succ]
  refine wpAnyH_ready (rs := [14]) (by kernel_rfl) (by simp) ?_
  refine AllReadyH.cons rfl (fun K hK => ?_) AllReadyH.nil
  go_simp
  refine a5.out.mono ?_; rintro e w' ⟨rfl, hg10⟩; have hS10 := hcell.out _ (gt hg89.out hg10); try dsimp only
  refine hK.out _ _ hS10 (fun hHeld => ?_)
  clear hK K
  try simp only [List.getElem_toArray, List.getElem_cons_zero, List.getElem_cons_succ, Act.put, List.setIfInBounds_toArray, List.set_cons_zero, List.set_cons_succ]
  refine wpAnyH_take (i := 16) (v := ?_) rfl (by kernel_rfl) (by kernel_rfl) (by kernel_rfl) (fun _ _ _ h => h) (Or.inl ⟨by rfl, ?_⟩) (by assumption) ?_; rotate_left
  · (intro w hSw; (try dsimp only at hSw); go_simp; try with_reducible rfl)
  try simp only [List.getElem_toArray, List.getElem_cons_zero, List.getElem_cons_succ, Act.put, List.setIfInBounds_toArray, List.set_cons_zero, List.set_cons_succ]
  refine wpAnyH_take (i := 17) (v := ?_) rfl (by kernel_rfl) (by kernel_rfl) (by kernel_rfl) (fun _ _ _ h => h) (Or.inl ⟨by rfl, ?_⟩) (by assumption) ?_; rotate_left
  · (intro w hSw; (try dsimp only at hSw); go_simp; try with_reducible rfl)
  try simp only [List.getElem_toArray, List.getElem_cons_zero, List.getElem_cons_succ, Act.put, List.setIfInBounds_toArray, List.set_cons_zero, List.set_cons_succ]
  refine wpAnyH_take (i := 18) (v := ?_) rfl (by kernel_rfl) (by kernel_rfl) (by kernel_rfl) (fun _ _ _ h => h) (Or.inl ⟨by rfl, ?_⟩) (by assumption) ?_; rotate_left
  · (intro w hSw; (try dsimp only at hSw); go_simp; try with_reducible rfl)
  try simp only [List.getElem_toArray, List.getElem_cons_zero, List.getElem_cons_succ, Act.put, List.setIfInBounds_toArray, List.set_cons_zero, List.set_cons_succ]
  refine wpAnyH_take (i := 19) (v := ?_) rfl (by kernel_rfl) (by kernel_rfl) (by kernel_rfl) (fun _ _ _ h => h) (Or.inl ⟨by rfl, ?_⟩) (by assumption) ?_; rotate_left
  · (intro w hSw; (try dsimp only at hSw); go_simp; try with_reducible rfl)
  try simp only [List.getElem_toArray, List.getElem_cons_zero, List.getElem_cons_succ, Act.put, List.setIfInBounds_toArray, List.set_cons_zero, List.set_cons_succ]
  refine wpAnyH_take (i := 20) (v := ?_) rfl (by kernel_rfl) (by kernel_rfl) (by kernel_rfl) (fun _ _ _ h => h) (Or.inl ⟨by rfl, ?_⟩) (by assumption) ?_; rotate_left
  · (intro w hSw; (try dsimp only at hSw); go_simp; try with_reducible rfl)
  try simp only [List.getElem_toArray, List.getElem_cons_zero, List.getElem_cons_succ, Act.put, List.setIfInBounds_toArray, List.set_cons_zero, List.set_cons_succ]
  refine wpAnyH_take (i := 21) (v := ?_) rfl (by kernel_rfl) (by kernel_rfl) (by kernel_rfl) (fun _ _ _ h => h) (Or.inl ⟨by rfl, ?_⟩) (by assumption) ?_; rotate_left
  · (intro w hSw; (try dsimp only at hSw); go_simp; try with_reducible rfl)
  try simp only [List.getElem_toArray, List.getElem_cons_zero, List.getElem_cons_succ, Act.put, List.setIfInBounds_toArray, List.set_cons_zero, List.set_cons_succ]
  refine wpAnyH_take (i := 22) (v := ?_) rfl (by kernel_rfl) (by kernel_rfl) (by kernel_rfl) (fun _ _ _ h => h) (Or.inl ⟨by rfl, ?_⟩) (by assumption) ?_; rotate_left
  · (intro w hSw; (try dsimp only at hSw); go_simp; try with_reducible rfl)
  try simp only [List.getElem_toArray, List.getElem_cons_zero, List.getElem_cons_succ, Act.put, List.setIfInBounds_toArray, List.set_cons_zero, List.set_cons_succ]
  refine wpAnyH_take (i := 23) (v := ?_) rfl (by kernel_rfl) (by kernel_rfl) (by kernel_rfl) (fun _ _ _ h => h) (Or.inl ⟨by rfl, ?_⟩) (by assumption) ?_; rotate_left
  · (intro w hSw; (try dsimp only at hSw); go_simp; try with_reducible rfl)
  try simp only [List.getElem_toArray, List.getElem_cons_zero, List.getElem_cons_succ, Act.put, List.setIfInBounds_toArray, List.set_cons_zero, List.set_cons_succ]
  refine wpAnyH_take (i := 24) (v := ?_) rfl (by kernel_rfl) (by kernel_rfl) (by kernel_rfl) (fun _ _ _ h => h) (Or.inl ⟨by rfl, ?_⟩) (by assumption) ?_; rotate_left
  · (intro w hSw; (try dsimp only at hSw); go_simp; try with_reducible rfl)
  try simp only [List.getElem_toArray, List.getElem_cons_zero, List.getElem_cons_succ, Act.put, List.setIfInBounds_toArray, List.set_cons_zero, List.set_cons_succ]
  refine wpAnyH_take (i := 25) (v := ?_) rfl (by kernel_rfl) (by kernel_rfl) (by kernel_rfl) (fun _ _ _ h => h) (Or.inl ⟨by rfl, ?_⟩) (by assumption) ?_; rotate_left
  · (intro w hSw; (try dsimp only at hSw); go_simp; try with_reducible rfl)
  try simp only [List.getElem_toArray, List.getElem_cons_zero, List.getElem_cons_succ, Act.put, List.setIfInBounds_toArray, List.set_cons_zero, List.set_cons_succ]
  refine wpAnyH_take (i := 26) (v := ?_) rfl (by kernel_rfl) (by kernel_rfl) (by kernel_rfl) (fun _ _ _ h => h) (Or.inl ⟨by rfl, ?_⟩) (by assumption) ?_; rotate_left
  · (intro w hSw; (try dsimp only at hSw); go_simp; try with_reducible rfl)
  try simp only [List.getElem_toArray, List.getElem_cons_zero, List.getElem_cons_succ, Act.put, List.setIfInBounds_toArray, List.set_cons_zero, List.set_cons_succ]
  refine wpAnyH_take (i := 27) (v := ?_) rfl (by kernel_rfl) (by kernel_rfl) (by kernel_rfl) (fun _ _ _ h => h) (Or.inl ⟨by rfl, ?_⟩) (by assumption) ?_; rotate_left
  · (intro w hSw; (try dsimp only at hSw); go_simp; try with_reducible rfl)
  try simp only [List.getElem_toArray, List.getElem_cons_zero, List.getElem_cons_succ, Act.put, List.setIfInBounds_toArray, List.set_cons_zero, List.set_cons_succ]
  refine wpAnyH_take (i := 28) (v := ?_) rfl (by kernel_rfl) (by kernel_rfl) (by kernel_rfl) (fun _ _ _ h => h) (Or.inl ⟨by rfl, ?_⟩) (by assumption) ?_; rotate_left
  · (intro w hSw; (try dsimp only at hSw); go_simp; try with_reducible rfl)
  try simp only [List.getElem_toArray, List.getElem_cons_zero, List.getElem_cons_succ, Act.put, List.setIfInBounds_toArray, List.set_cons_zero, List.set_cons_succ]
  refine wpAnyH_done (by kernel_rfl) ?_ _
  go_wp2
  go_ret
  exact ⟨rfl, gt (gt hGw8.out hg89.out) hg10⟩
set_option maxRecDepth 100000 in
set_option maxHeartbeats 2000000 in
theorem bytes_held {P : World → Prop} (C : Con P) (c : UInt8) (n x : Nat) (hn : n ≤ 65535) (hG : geV 0 0 0 0 [c] = vgV 0 1 0 0 0 (n : Int)) (hc : 128 ≤ c.toNat) (hx : onR (n : Int) = some x) (hG2 : geV 0 0 0 0 [b8 x] = vgV 0 1 0 0 0 (n : Int)) (hD : drT 0 0 0 (n : Int) = ((n : Int), true)) (w : World) (hw : P w) : Calls Try.prog 8 #[.int .u8 (c.toNat : Int)] w fun e w' => e = .returned (.bool true) ∧ w.grownBy w' none := by
  have a0 := Hid.mk' (fun w hw => works_any C w hw)
  have a1 : Hid (∀ w, P w → Calls Try.prog 15 #[stV 0 0 0 0, .slice (some ⟨w.heap.size, 0, none⟩) 1 1] (w.alloc (.cells #[.int .u8 (c.toNat : Int)] 5)) fun e w' => e = .returned (vgV 0 1 0 0 0 (n : Int)) ∧ w.grownBy w' none) := Hid.mk' (fun w hw => by
    have := C.get 0 0 0 0 (some ⟨w.heap.size, 0, none⟩) 1 [c] 1 rfl _ (bytes_new w c (0, 0)) (by omega) (by omega) (C.keep hw (World.grownBy_alloc w _ none))
    rw [hG] at this
    exact this.mono (fun e w' h => ⟨h.1, gt (World.grownBy_alloc _ _ _) h.2⟩))
  have K := Hid.mk' (fun (a b : World) (h : P a) (g : a.grownBy b none) => C.keep h g)
  have hq := Hid.mk' hw
  have a3 : Hid (∀ w, P w → Calls Try.prog 19 #[.int .i32 (n : Int)] w fun e w' => e = .returned (vpV 0 (str [b8 x])) ∧ w.grownBy w' none) := Hid.mk' (fun w hw => by have := C.set (n : Int) (by unfold I32; omega) w hw; rw [se_byte hx] at this; exact this)
  have a2 : Hid (∀ w, P w → Calls Try.prog 13 #[stV 0 0 0 (n : Int)] w fun e w' => e = .returned (.tuple #[.int .i32 (n : Int), .bool true]) ∧ w.grownBy w' none) := Hid.mk' (fun w hw => C.drain 0 0 0 (n : Int) w (n : Int) true (Hid.mk' hD) hw)
  have a4 : Hid (∀ ao cap w, Bytes w ao [b8 x] → 1 ≤ cap → cap ≤ 9223372036854775807 → P w → Calls Try.prog 15 #[stV 0 0 0 0, .slice ao 1 cap] w fun e w' => e = .returned (vgV 0 1 0 0 0 (n : Int)) ∧ w.grownBy w' none) := Hid.mk' (fun ao cap w hB h1 h2 hw => by
    have := C.get 0 0 0 0 ao cap [b8 x] 1 rfl w hB h1 h2 hw
    rw [hG2] at this
    exact this)
  have hb1 : (str [b8 x]).size = 1 := by rw [str_size]; rfl
  have hb2 : (str [b8 x]).toList = [b8 x] := by rw [ByteArray.toList_eq, str_data]
  have h1 : (128 : Int) ≤ (c.toNat : Int) := by omega
  generalize (c.toNat : Int) = B at *
  have hnn : ((n : Int) == (n : Int)) = true := by simp
  have hd : decide ((128 : Int) ≤ B) = true := by simp; omega
  obtain ⟨s, hs⟩ : ∃ s, str [b8 x] = s := ⟨_, rfl⟩
  rw [hs] at a3 hb1 hb2
  have hb10 := Hid.mk' hb1
  have hb20 := Hid.mk' hb2
  clear hw C hG hc hG2 hx hs hb1 hb2 hD
  go_enter Try.func8, Try.ntmps8
  go_upto_region 4 with (first
    | (go_at_call 21; refine (a0.out _ hq.out).mono ?_; rintro e w1 ⟨rfl, hg1, hp1⟩; have hq1 := Hid.mk' hp1)
    | (go_at_call 15; refine (a1.out w1 hq1.out).mono ?_; rintro e w2 ⟨rfl, hg2⟩)
    | (refine wpList_allocC _ rfl 34 rfl (gC 0 0 0 0 0 0) (zeroG _) ?_; intro w3 g3 hg3)
    | (refine wpList_storeC _ rfl 34 _ _ rfl _ (gC 0 0 0 0 0 0) (gC 0 1 0 0 0 (n : Int)) infoG rfl (gC_one _ _ _ _ _ _) rfl rfl g3 ?_; intro w4 g4 hg4))
  have hG4 : Hid (w1.grownBy w4 none) := Hid.mk' (grownBy_new (gt hg2 hg3) hg4 (fun k hk => by have h5 := Option.some.inj hk; have h6 := hg2.size; omega))
  have hGw : Hid (w.grownBy w4 none) := Hid.mk' (gt hg1 hG4.out)
  have hq4 := Hid.mk' (K.out _ _ hq1.out hG4.out)
  clear hg1 hg2 hg3 hg4 g3 hG4 hp1
  generalize w2.heap.size = GB at *
  have c0 := g4.cell 0 (v := .int .i64 0) rfl
  have c1 := g4.cell 1 (v := .int .i64 1) rfl
  have c2 := g4.cell 2 (v := .int .i64 0) rfl
  have c3 := g4.cell 3 (v := .int .i32 0) rfl
  have c4 := g4.cell 4 (v := .int .i32 0) rfl
  have c5 := g4.cell 5 (v := .int .i64 0) rfl
  have c6 := g4.cell 6 (v := .int .i64 0) rfl
  have c7 := g4.cell 7 (v := .int .u32 0) rfl
  have c8 := g4.cell 8 (v := .int .i32 (n : Int)) rfl
  go_upto_region 13 with (first
    | (go_at_call 13; refine (a2.out _ hq4.out).mono ?_; rintro e w5 ⟨rfl, hg5⟩; have g5 := g4.kept0 hg5; have hq5 := Hid.mk' (K.out _ _ hq4.out hg5))
    | (go_at_call 19; refine (a3.out _ hq5.out).mono ?_; rintro e w6 ⟨rfl, hg6⟩; have g6 := g5.kept0 hg6; have hq6 := Hid.mk' (K.out _ _ hq5.out hg6))
    | (refine wpList_allocC _ rfl 39 rfl (pC 0 ⟨#[]⟩) (zeroP _) ?_; intro w7 p7 hg7)
    | (refine wpList_storeC _ rfl 39 _ _ rfl _ (pC 0 ⟨#[]⟩) (pC 0 s) infoP rfl (pC_one _ _) rfl rfl p7 ?_; intro w8 p8 hg8))
  have hG8 : Hid (w6.grownBy w8 none) := Hid.mk' (grownBy_new hg7 hg8 (fun k hk => by have h5 := Option.some.inj hk; omega))
  have hGw8 : Hid (w.grownBy w8 none) := Hid.mk' (gt (gt (gt hGw.out hg5) hg6) hG8.out)
  have g8 := g6.kept0 hG8.out
  have hq8 := Hid.mk' (K.out _ _ hq6.out hG8.out)
  clear c0 c1 c2 c3 c4 c5 c6 c7 c8 g4 g6 p7 hg6 hg7 hg8 g5 hg5 hGw
  generalize w6.heap.size = PB at *
  have hcell : Hid (∀ wx, w8.grownBy wx none → (fun w' => (w'.cell? ⟨PB, 0, none⟩ = some (.int .i64 0) ∧ w'.cell? ⟨PB, 1, none⟩ = some (.string s)) ∧ w'.cell? ⟨GB, 0, none⟩ = some (.int .i64 0) ∧ w'.cell? ⟨GB, 1, none⟩ = some (.int .i64 1) ∧ w'.cell? ⟨GB, 2, none⟩ = some (.int .i64 0) ∧ w'.cell? ⟨GB, 3, none⟩ = some (.int .i32 0) ∧ w'.cell? ⟨GB, 4, none⟩ = some (.int .i32 0) ∧ w'.cell? ⟨GB, 5, none⟩ = some (.int .i64 0) ∧ w'.cell? ⟨GB, 6, none⟩ = some (.int .i64 0) ∧ w'.cell? ⟨GB, 7, none⟩ = some (.int .u32 0) ∧ w'.cell? ⟨GB, 8, none⟩ = some (.int .i32 (n : Int))) wx) := Hid.mk' (fun wx hg => ⟨⟨(p8.kept0 hg).cell 0 rfl, (p8.kept0 hg).cell 1 rfl⟩, (g8.kept0 hg).cell 0 rfl, (g8.kept0 hg).cell 1 rfl, (g8.kept0 hg).cell 2 rfl, (g8.kept0 hg).cell 3 rfl, (g8.kept0 hg).cell 4 rfl, (g8.kept0 hg).cell 5 rfl, (g8.kept0 hg).cell 6 rfl, (g8.kept0 hg).cell 7 rfl, (g8.kept0 hg).cell 8 rfl⟩)
  obtain ⟨cp, w9, hcvt, hB9, hg9, hcp1, hcp2⟩ := conv_new (P := Try.prog) w8.drew 9 30 s Try.underlying9 Try.underlying30 Try.underlying5 (by have := hb10.out; omega)
  rw [hb10.out] at hcvt hcp1
  rw [hb20.out] at hB9
  have hg89 : Hid (w8.grownBy w9 none) := Hid.mk' (gt (gd (grownBy_refl w8 none)) hg9)
  have hS0 : (fun w' => (w'.cell? ⟨PB, 0, none⟩ = some (.int .i64 0) ∧ w'.cell? ⟨PB, 1, none⟩ = some (.string s)) ∧ w'.cell? ⟨GB, 0, none⟩ = some (.int .i64 0) ∧ w'.cell? ⟨GB, 1, none⟩ = some (.int .i64 1) ∧ w'.cell? ⟨GB, 2, none⟩ = some (.int .i64 0) ∧ w'.cell? ⟨GB, 3, none⟩ = some (.int .i32 0) ∧ w'.cell? ⟨GB, 4, none⟩ = some (.int .i32 0) ∧ w'.cell? ⟨GB, 5, none⟩ = some (.int .i64 0) ∧ w'.cell? ⟨GB, 6, none⟩ = some (.int .i64 0) ∧ w'.cell? ⟨GB, 7, none⟩ = some (.int .u32 0) ∧ w'.cell? ⟨GB, 8, none⟩ = some (.int .i32 (n : Int))) w8.drew := hcell.out _ (gd (grownBy_refl w8 none))
  have hS9 : (fun w' => (w'.cell? ⟨PB, 0, none⟩ = some (.int .i64 0) ∧ w'.cell? ⟨PB, 1, none⟩ = some (.string s)) ∧ w'.cell? ⟨GB, 0, none⟩ = some (.int .i64 0) ∧ w'.cell? ⟨GB, 1, none⟩ = some (.int .i64 1) ∧ w'.cell? ⟨GB, 2, none⟩ = some (.int .i64 0) ∧ w'.cell? ⟨GB, 3, none⟩ = some (.int .i32 0) ∧ w'.cell? ⟨GB, 4, none⟩ = some (.int .i32 0) ∧ w'.cell? ⟨GB, 5, none⟩ = some (.int .i64 0) ∧ w'.cell? ⟨GB, 6, none⟩ = some (.int .i64 0) ∧ w'.cell? ⟨GB, 7, none⟩ = some (.int .u32 0) ∧ w'.cell? ⟨GB, 8, none⟩ = some (.int .i32 (n : Int))) w9 := hcell.out _ hg89.out
  have a5 := Hid.mk' (a4.out _ cp w9 hB9 hcp1 hcp2 (K.out _ _ hq8.out hg89.out))
  have hsz : s.size = 1 := hb10.out
  clear hg9 hB9 hcp1 hcp2 a4 hb10 hb20 p8 g8
  refine wp_region_held_drew (S := fun w' => (w'.cell? ⟨PB, 0, none⟩ = some (.int .i64 0) ∧ w'.cell? ⟨PB, 1, none⟩ = some (.string s)) ∧ w'.cell? ⟨GB, 0, none⟩ = some (.int .i64 0) ∧ w'.cell? ⟨GB, 1, none⟩ = some (.int .i64 1) ∧ w'.cell? ⟨GB, 2, none⟩ = some (.int .i64 0) ∧ w'.cell? ⟨GB, 3, none⟩ = some (.int .i32 0) ∧ w'.cell? ⟨GB, 4, none⟩ = some (.int .i32 0) ∧ w'.cell? ⟨GB, 5, none⟩ = some (.int .i64 0) ∧ w'.cell? ⟨GB, 6, none⟩ = some (.int .i64 0) ∧ w'.cell? ⟨GB, 7, none⟩ = some (.int .u32 0) ∧ w'.cell? ⟨GB, 8, none⟩ = some (.int .i32 (n : Int))) (by kernel_rfl) hS0 (fun hHeld => ?_)
  refine wpAnyH_take (i := 0) (v := ?_) rfl (by kernel_rfl) (by kernel_rfl) (by kernel_rfl) (fun _ _ _ h => h) (Or.inl ⟨by rfl, ?_⟩) (by assumption) ?_; rotate_left
  · (intro w hSw; (try dsimp only at hSw); go_simp; try with_reducible rfl)
  try simp only [List.getElem_toArray, List.getElem_cons_zero, Act.put, List.setIfInBounds_toArray, List.set_cons_zero, List.set_cons_succ]
  refine wpAnyH_take (i := 1) (v := ?_) rfl (by kernel_rfl) (by kernel_rfl) (by kernel_rfl) (fun _ _ _ h => h) (Or.inl ⟨by rfl, ?_⟩) (by assumption) ?_; rotate_left
  · (intro w hSw; (try dsimp only at hSw); go_simp; try with_reducible rfl)
  try simp only [List.getElem_toArray, List.getElem_cons_zero, List.getElem_cons_succ, Act.put, List.setIfInBounds_toArray, List.set_cons_zero, List.set_cons_succ]
  refine wpAnyH_take (i := 2) (v := ?_) rfl (by kernel_rfl) (by kernel_rfl) (by kernel_rfl) (fun _ _ _ h => h) (Or.inl ⟨by rfl, ?_⟩) (by assumption) ?_; rotate_left
  · (intro w hSw; (try dsimp only at hSw); go_simp; try with_reducible rfl)
  try simp only [List.getElem_toArray, List.getElem_cons_zero, List.getElem_cons_succ, Act.put, List.setIfInBounds_toArray, List.set_cons_zero, List.set_cons_succ]
  refine wpAnyH_take (i := 3) (v := ?_) rfl (by kernel_rfl) (by kernel_rfl) (by kernel_rfl) (fun _ _ _ h => h) (Or.inl ⟨by rfl, ?_⟩) (by assumption) ?_; rotate_left
  · (intro w hSw; (try dsimp only at hSw); go_simp; try with_reducible rfl)
  try simp only [List.getElem_toArray, List.getElem_cons_zero, List.getElem_cons_succ, Act.put, List.setIfInBounds_toArray, List.set_cons_zero, List.set_cons_succ]
  refine wpAnyH_take (i := 4) (v := ?_) rfl (by kernel_rfl) (by kernel_rfl) (by kernel_rfl) (fun _ _ _ h => h) (Or.inl ⟨by rfl, ?_⟩) (by assumption) ?_; rotate_left
  · (intro w hSw; (try dsimp only at hSw); go_simp; try with_reducible rfl)
  try simp only [List.getElem_toArray, List.getElem_cons_zero, List.getElem_cons_succ, Act.put, List.setIfInBounds_toArray, List.set_cons_zero, List.set_cons_succ]
  refine wpAnyH_take (i := 5) (v := ?_) rfl (by kernel_rfl) (by kernel_rfl) (by kernel_rfl) (fun _ _ _ h => h) (Or.inl ⟨by rfl, ?_⟩) (by assumption) ?_; rotate_left
  · (intro w hSw; (try dsimp only at hSw); go_simp; try with_reducible rfl)
  try simp only [List.getElem_toArray, List.getElem_cons_zero, List.getElem_cons_succ, Act.put, List.setIfInBounds_toArray, List.set_cons_zero, List.set_cons_succ]
  refine wpAnyH_take (i := 6) (v := ?_) rfl (by kernel_rfl) (by kernel_rfl) (by kernel_rfl) (fun _ _ _ h => h) (Or.inl ⟨by rfl, ?_⟩) (by assumption) ?_; rotate_left
  · (intro w hSw; (try dsimp only at hSw); go_simp; try with_reducible rfl)
  try simp only [List.getElem_toArray, List.getElem_cons_zero, List.getElem_cons_succ, Act.put, List.setIfInBounds_toArray, List.set_cons_zero, List.set_cons_succ]
  refine wpAnyH_take (i := 7) (v := ?_) rfl (by kernel_rfl) (by kernel_rfl) (by kernel_rfl) (fun _ _ _ h => h) (Or.inl ⟨by rfl, ?_⟩) (by assumption) ?_; rotate_left
  · (intro w hSw; (try dsimp only at hSw); go_simp; try with_reducible rfl)
  try simp only [List.getElem_toArray, List.getElem_cons_zero, List.getElem_cons_succ, Act.put, List.setIfInBounds_toArray, List.set_cons_zero, List.set_cons_succ]
  refine wpAnyH_take (i := 8) (v := ?_) rfl (by kernel_rfl) (by kernel_rfl) (by kernel_rfl) (fun _ _ _ h => h) (Or.inl ⟨by rfl, ?_⟩) (by assumption) ?_; rotate_left
  · (intro w hSw; (try dsimp only at hSw); go_simp; try with_reducible rfl)
  try simp only [List.getElem_toArray, List.getElem_cons_zero, List.getElem_cons_succ, Act.put, List.setIfInBounds_toArray, List.set_cons_zero, List.set_cons_succ]
  refine wpAnyH_take (i := 9) (v := ?_) rfl (by kernel_rfl) (by kernel_rfl) (by kernel_rfl) (fun _ _ _ h => h) (Or.inl ⟨by rfl, ?_⟩) (by assumption) ?_; rotate_left
  · (intro w hSw; (try dsimp only at hSw); go_simp; try with_reducible rfl)
  try simp only [List.getElem_toArray, List.getElem_cons_zero, List.getElem_cons_succ, Act.put, List.setIfInBounds_toArray, List.set_cons_zero, List.set_cons_succ]
  refine wpAnyH_take (i := 10) (v := ?_) rfl (by kernel_rfl) (by kernel_rfl) (by kernel_rfl) (fun _ _ _ h => h) (Or.inl ⟨by rfl, ?_⟩) (by assumption) ?_; rotate_left
  · (intro w hSw; (try dsimp only at hSw); go_simp; try with_reducible rfl)
  try simp only [List.getElem_toArray, List.getElem_cons_zero, List.getElem_cons_succ, Act.put, List.setIfInBounds_toArray, List.set_cons_zero, List.set_cons_succ]
  refine wpAnyH_take (i := 11) (v := ?_) rfl (by kernel_rfl) (by kernel_rfl) (by kernel_rfl) (fun _ _ _ h => h) (Or.inl ⟨by rfl, ?_⟩) (by assumption) ?_; rotate_left
  · (intro w hSw; (try dsimp only at hSw); go_simp; try with_reducible rfl)
  try simp only [List.getElem_toArray, List.getElem_cons_zero, List.getElem_cons_succ, Act.put, List.setIfInBounds_toArray, List.set_cons_zero, List.set_cons_succ]
  refine wpAnyH_take (i := 12) (v := ?_) rfl (by kernel_rfl) (by kernel_rfl) (by kernel_rfl) (fun _ _ _ h => h) (Or.inl ⟨by rfl, ?_⟩) (by assumption) ?_; rotate_left
  · (intro w hSw; (try dsimp only at hSw); go_simp; try with_reducible rfl)
  try simp only [List.getElem_toArray, List.getElem_cons_zero, List.getElem_cons_succ, Act.put, List.setIfInBounds_toArray, List.set_cons_zero, List.set_cons_succ]
  refine wpAnyH_take (i := 15) (v := ?_) rfl (by kernel_rfl) (by kernel_rfl) (by kernel_rfl) (fun _ _ _ h => h) (Or.inl ⟨by rfl, ?_⟩) (by assumption) ?_; rotate_left
  · (intro w hSw; (try dsimp only at hSw); go_simp; try with_reducible rfl)
  try simp only [List.getElem_toArray, List.getElem_cons_zero, List.getElem_cons_succ, Act.put, List.setIfInBounds_toArray, List.set_cons_zero, List.set_cons_succ]
  refine wpAnyH_ready (rs := [13]) (by kernel_rfl) (by simp) ?_
  refine AllReadyH.cons rfl (fun K hK => ?_) AllReadyH.nil
  refine step_run (by rfl) (exec_convert _ _ _ (by rfl) (by simp [Act.eval]) hcvt) ?_
  refine hK.out _ _ hS9 (fun hHeld => ?_)
  clear hK K
  try simp only [List.getElem_toArray, List.getElem_cons_zero, List.getElem_cons_succ, Act.put, List.setIfInBounds_toArray, List.set_cons_zero, List.set_cons_succ]
  refine wpAnyH_ready (rs := [14]) (by kernel_rfl) (by simp) ?_
  refine AllReadyH.cons rfl (fun K hK => ?_) AllReadyH.nil
  go_simp
  refine a5.out.mono ?_; rintro e w' ⟨rfl, hg10⟩; have hS10 := hcell.out _ (gt hg89.out hg10); try dsimp only
  refine hK.out _ _ hS10 (fun hHeld => ?_)
  clear hK K
  try simp only [List.getElem_toArray, List.getElem_cons_zero, List.getElem_cons_succ, Act.put, List.setIfInBounds_toArray, List.set_cons_zero, List.set_cons_succ]
  refine wpAnyH_take (i := 16) (v := ?_) rfl (by kernel_rfl) (by kernel_rfl) (by kernel_rfl) (fun _ _ _ h => h) (Or.inl ⟨by rfl, ?_⟩) (by assumption) ?_; rotate_left
  · (intro w hSw; (try dsimp only at hSw); go_simp; try with_reducible rfl)
  try simp only [List.getElem_toArray, List.getElem_cons_zero, List.getElem_cons_succ, Act.put, List.setIfInBounds_toArray, List.set_cons_zero, List.set_cons_succ]
  refine wpAnyH_take (i := 17) (v := ?_) rfl (by kernel_rfl) (by kernel_rfl) (by kernel_rfl) (fun _ _ _ h => h) (Or.inl ⟨by rfl, ?_⟩) (by assumption) ?_; rotate_left
  · (intro w hSw; (try dsimp only at hSw); go_simp; try with_reducible rfl)
  try simp only [List.getElem_toArray, List.getElem_cons_zero, List.getElem_cons_succ, Act.put, List.setIfInBounds_toArray, List.set_cons_zero, List.set_cons_succ]
  refine wpAnyH_take (i := 18) (v := ?_) rfl (by kernel_rfl) (by kernel_rfl) (by kernel_rfl) (fun _ _ _ h => h) (Or.inl ⟨by rfl, ?_⟩) (by assumption) ?_; rotate_left
  · (intro w hSw; (try dsimp only at hSw); go_simp; try with_reducible rfl)
  try simp only [List.getElem_toArray, List.getElem_cons_zero, List.getElem_cons_succ, Act.put, List.setIfInBounds_toArray, List.set_cons_zero, List.set_cons_succ]
  refine wpAnyH_take (i := 19) (v := ?_) rfl (by kernel_rfl) (by kernel_rfl) (by kernel_rfl) (fun _ _ _ h => h) (Or.inl ⟨by rfl, ?_⟩) (by assumption) ?_; rotate_left
  · (intro w hSw; (try dsimp only at hSw); go_simp; try with_reducible rfl)
  try simp only [List.getElem_toArray, List.getElem_cons_zero, List.getElem_cons_succ, Act.put, List.setIfInBounds_toArray, List.set_cons_zero, List.set_cons_succ]
  refine wpAnyH_take (i := 20) (v := ?_) rfl (by kernel_rfl) (by kernel_rfl) (by kernel_rfl) (fun _ _ _ h => h) (Or.inl ⟨by rfl, ?_⟩) (by assumption) ?_; rotate_left
  · (intro w hSw; (try dsimp only at hSw); go_simp; try with_reducible rfl)
  try simp only [List.getElem_toArray, List.getElem_cons_zero, List.getElem_cons_succ, Act.put, List.setIfInBounds_toArray, List.set_cons_zero, List.set_cons_succ]
  refine wpAnyH_take (i := 21) (v := ?_) rfl (by kernel_rfl) (by kernel_rfl) (by kernel_rfl) (fun _ _ _ h => h) (Or.inl ⟨by rfl, ?_⟩) (by assumption) ?_; rotate_left
  · (intro w hSw; (try dsimp only at hSw); go_simp; try with_reducible rfl)
  try simp only [List.getElem_toArray, List.getElem_cons_zero, List.getElem_cons_succ, Act.put, List.setIfInBounds_toArray, List.set_cons_zero, List.set_cons_succ]
  refine wpAnyH_take (i := 22) (v := undef) rfl (by kernel_rfl) (by kernel_rfl) (by kernel_rfl) (fun _ _ _ h => h) (Or.inr ⟨by rfl, rfl⟩) (by assumption) ?_
  try simp only [List.getElem_toArray, List.getElem_cons_zero, List.getElem_cons_succ, Act.put, List.setIfInBounds_toArray, List.set_cons_zero, List.set_cons_succ]
  refine wpAnyH_take (i := 23) (v := undef) rfl (by kernel_rfl) (by kernel_rfl) (by kernel_rfl) (fun _ _ _ h => h) (Or.inr ⟨by rfl, rfl⟩) (by assumption) ?_
  try simp only [List.getElem_toArray, List.getElem_cons_zero, List.getElem_cons_succ, Act.put, List.setIfInBounds_toArray, List.set_cons_zero, List.set_cons_succ]
  refine wpAnyH_take (i := 24) (v := undef) rfl (by kernel_rfl) (by kernel_rfl) (by kernel_rfl) (fun _ _ _ h => h) (Or.inr ⟨by rfl, rfl⟩) (by assumption) ?_
  try simp only [List.getElem_toArray, List.getElem_cons_zero, List.getElem_cons_succ, Act.put, List.setIfInBounds_toArray, List.set_cons_zero, List.set_cons_succ]
  refine wpAnyH_take (i := 25) (v := undef) rfl (by kernel_rfl) (by kernel_rfl) (by kernel_rfl) (fun _ _ _ h => h) (Or.inr ⟨by rfl, rfl⟩) (by assumption) ?_
  try simp only [List.getElem_toArray, List.getElem_cons_zero, List.getElem_cons_succ, Act.put, List.setIfInBounds_toArray, List.set_cons_zero, List.set_cons_succ]
  refine wpAnyH_take (i := 26) (v := ?_) rfl (by kernel_rfl) (by kernel_rfl) (by kernel_rfl) (fun _ _ _ h => h) (Or.inl ⟨by rfl, ?_⟩) (by assumption) ?_; rotate_left
  · (intro w hSw; (try dsimp only at hSw); go_simp; try with_reducible rfl)
  try simp only [List.getElem_toArray, List.getElem_cons_zero, List.getElem_cons_succ, Act.put, List.setIfInBounds_toArray, List.set_cons_zero, List.set_cons_succ]
  refine wpAnyH_take (i := 27) (v := ?_) rfl (by kernel_rfl) (by kernel_rfl) (by kernel_rfl) (fun _ _ _ h => h) (Or.inl ⟨by rfl, ?_⟩) (by assumption) ?_; rotate_left
  · (intro w hSw; (try dsimp only at hSw); go_simp; try with_reducible rfl)
  try simp only [List.getElem_toArray, List.getElem_cons_zero, List.getElem_cons_succ, Act.put, List.setIfInBounds_toArray, List.set_cons_zero, List.set_cons_succ]
  refine wpAnyH_take (i := 28) (v := ?_) rfl (by kernel_rfl) (by kernel_rfl) (by kernel_rfl) (fun _ _ _ h => h) (Or.inl ⟨by rfl, ?_⟩) (by assumption) ?_; rotate_left
  · (intro w hSw; (try dsimp only at hSw); go_simp; try with_reducible rfl)
  try simp only [List.getElem_toArray, List.getElem_cons_zero, List.getElem_cons_succ, Act.put, List.setIfInBounds_toArray, List.set_cons_zero, List.set_cons_succ]
  refine wpAnyH_done (by kernel_rfl) ?_ _
  go_wp2
  go_ret
  exact ⟨rfl, gt (gt hGw8.out hg89.out) hg10⟩
set_option maxRecDepth 100000 in
set_option maxHeartbeats 2000000 in
theorem bytes_one_low {P : World → Prop} (C : Con P) (c : UInt8) (n x : Nat) (hn : n ≤ 65535) (hG : geV 0 0 0 0 [c] = vgV 0 1 1 (n : Int) 0 0) (hlow : c.toNat = n) (hc : c.toNat < 128) (hx : onR (n : Int) = some x) (hG2 : geV 0 0 0 0 [b8 x] = vgV 0 1 1 (n : Int) 0 0) (w : World) (hw : P w) : Calls Try.prog 8 #[.int .u8 (c.toNat : Int)] w fun e w' => e = .returned (.bool true) ∧ w.grownBy w' none := by
  have a0 := Hid.mk' (fun w hw => works_any C w hw)
  have a1 : Hid (∀ w, P w → Calls Try.prog 15 #[stV 0 0 0 0, .slice (some ⟨w.heap.size, 0, none⟩) 1 1] (w.alloc (.cells #[.int .u8 (c.toNat : Int)] 5)) fun e w' => e = .returned (vgV 0 1 1 (n : Int) 0 0) ∧ w.grownBy w' none) := Hid.mk' (fun w hw => by
    have := C.get 0 0 0 0 (some ⟨w.heap.size, 0, none⟩) 1 [c] 1 rfl _ (bytes_new w c (0, 0)) (by omega) (by omega) (C.keep hw (World.grownBy_alloc w _ none))
    rw [hG] at this
    exact this.mono (fun e w' h => ⟨h.1, gt (World.grownBy_alloc _ _ _) h.2⟩))
  have K := Hid.mk' (fun (a b : World) (h : P a) (g : a.grownBy b none) => C.keep h g)
  have hq := Hid.mk' hw
  have a3 : Hid (∀ w, P w → Calls Try.prog 19 #[.int .i32 (n : Int)] w fun e w' => e = .returned (vpV 0 (str [b8 x])) ∧ w.grownBy w' none) := Hid.mk' (fun w hw => by have := C.set (n : Int) (by unfold I32; omega) w hw; rw [se_byte hx] at this; exact this)
  have a4 : Hid (∀ ao cap w, Bytes w ao [b8 x] → 1 ≤ cap → cap ≤ 9223372036854775807 → P w → Calls Try.prog 15 #[stV 0 0 0 0, .slice ao 1 cap] w fun e w' => e = .returned (vgV 0 1 1 (n : Int) 0 0) ∧ w.grownBy w' none) := Hid.mk' (fun ao cap w hB h1 h2 hw => by
    have := C.get 0 0 0 0 ao cap [b8 x] 1 rfl w hB h1 h2 hw
    rw [hG2] at this
    exact this)
  have hb1 : (str [b8 x]).size = 1 := by rw [str_size]; rfl
  have hb2 : (str [b8 x]).toList = [b8 x] := by rw [ByteArray.toList_eq, str_data]
  have hnB : (n : Int) = (c.toNat : Int) := by omega
  rw [hnB] at a1 a3 a4
  have h1 : (c.toNat : Int) < 128 := by omega
  have h0 : (0 : Int) ≤ (c.toNat : Int) := by omega
  generalize (c.toNat : Int) = B at *
  have hnn : (B == B) = true := by simp
  have hd : decide ((128 : Int) ≤ B) = false := by simp; omega
  have hwr : IntKind.i32.wrap B = B := by rw [IntKind.wrap_i32]; omega
  obtain ⟨s, hs⟩ : ∃ s, str [b8 x] = s := ⟨_, rfl⟩
  rw [hs] at a3 hb1 hb2
  have hb10 := Hid.mk' hb1
  have hb20 := Hid.mk' hb2
  clear hw C hG hc hG2 hx hs hb1 hb2 hlow hnB hn
  go_enter Try.func8, Try.ntmps8
  go_upto_region 4 with (first
    | (go_at_call 21; refine (a0.out _ hq.out).mono ?_; rintro e w1 ⟨rfl, hg1, hp1⟩; have hq1 := Hid.mk' hp1)
    | (go_at_call 15; refine (a1.out w1 hq1.out).mono ?_; rintro e w2 ⟨rfl, hg2⟩)
    | (refine wpList_allocC _ rfl 34 rfl (gC 0 0 0 0 0 0) (zeroG _) ?_; intro w3 g3 hg3)
    | (refine wpList_storeC _ rfl 34 _ _ rfl _ (gC 0 0 0 0 0 0) (gC 0 1 1 B 0 0) infoG rfl (gC_one _ _ _ _ _ _) rfl rfl g3 ?_; intro w4 g4 hg4))
  have hG4 : Hid (w1.grownBy w4 none) := Hid.mk' (grownBy_new (gt hg2 hg3) hg4 (fun k hk => by have h5 := Option.some.inj hk; have h6 := hg2.size; omega))
  have hGw : Hid (w.grownBy w4 none) := Hid.mk' (gt hg1 hG4.out)
  have hq4 := Hid.mk' (K.out _ _ hq1.out hG4.out)
  clear hg1 hg2 hg3 hg4 g3 hG4 hp1
  generalize w2.heap.size = GB at *
  have c0 := g4.cell 0 (v := .int .i64 0) rfl
  have c1 := g4.cell 1 (v := .int .i64 1) rfl
  have c2 := g4.cell 2 (v := .int .i64 1) rfl
  have c3 := g4.cell 3 (v := .int .i32 B) rfl
  have c4 := g4.cell 4 (v := .int .i32 0) rfl
  have c5 := g4.cell 5 (v := .int .i64 0) rfl
  have c6 := g4.cell 6 (v := .int .i64 0) rfl
  have c7 := g4.cell 7 (v := .int .u32 0) rfl
  have c8 := g4.cell 8 (v := .int .i32 0) rfl
  go_upto_region 13 with (first
    | (go_at_call 19; refine (a3.out _ hq4.out).mono ?_; rintro e w6 ⟨rfl, hg6⟩; have g6 := g4.kept0 hg6; have hq6 := Hid.mk' (K.out _ _ hq4.out hg6))
    | (refine wpList_allocC _ rfl 39 rfl (pC 0 ⟨#[]⟩) (zeroP _) ?_; intro w7 p7 hg7)
    | (refine wpList_storeC _ rfl 39 _ _ rfl _ (pC 0 ⟨#[]⟩) (pC 0 s) infoP rfl (pC_one _ _) rfl rfl p7 ?_; intro w8 p8 hg8))
  have hG8 : Hid (w6.grownBy w8 none) := Hid.mk' (grownBy_new hg7 hg8 (fun k hk => by have h5 := Option.some.inj hk; omega))
  have hGw8 : Hid (w.grownBy w8 none) := Hid.mk' (gt (gt hGw.out hg6) hG8.out)
  have g8 := g6.kept0 hG8.out
  have hq8 := Hid.mk' (K.out _ _ hq6.out hG8.out)
  clear c0 c1 c2 c3 c4 c5 c6 c7 c8 g4 g6 p7 hg6 hg7 hg8 hGw
  generalize w6.heap.size = PB at *
  have hcell : Hid (∀ wx, w8.grownBy wx none → (fun w' => (w'.cell? ⟨PB, 0, none⟩ = some (.int .i64 0) ∧ w'.cell? ⟨PB, 1, none⟩ = some (.string s)) ∧ w'.cell? ⟨GB, 0, none⟩ = some (.int .i64 0) ∧ w'.cell? ⟨GB, 1, none⟩ = some (.int .i64 1) ∧ w'.cell? ⟨GB, 2, none⟩ = some (.int .i64 1) ∧ w'.cell? ⟨GB, 3, none⟩ = some (.int .i32 B) ∧ w'.cell? ⟨GB, 4, none⟩ = some (.int .i32 0) ∧ w'.cell? ⟨GB, 5, none⟩ = some (.int .i64 0) ∧ w'.cell? ⟨GB, 6, none⟩ = some (.int .i64 0) ∧ w'.cell? ⟨GB, 7, none⟩ = some (.int .u32 0) ∧ w'.cell? ⟨GB, 8, none⟩ = some (.int .i32 0)) wx) := Hid.mk' (fun wx hg => ⟨⟨(p8.kept0 hg).cell 0 rfl, (p8.kept0 hg).cell 1 rfl⟩, (g8.kept0 hg).cell 0 rfl, (g8.kept0 hg).cell 1 rfl, (g8.kept0 hg).cell 2 rfl, (g8.kept0 hg).cell 3 rfl, (g8.kept0 hg).cell 4 rfl, (g8.kept0 hg).cell 5 rfl, (g8.kept0 hg).cell 6 rfl, (g8.kept0 hg).cell 7 rfl, (g8.kept0 hg).cell 8 rfl⟩)
  obtain ⟨cp, w9, hcvt, hB9, hg9, hcp1, hcp2⟩ := conv_new (P := Try.prog) w8.drew 9 30 s Try.underlying9 Try.underlying30 Try.underlying5 (by have := hb10.out; omega)
  rw [hb10.out] at hcvt hcp1
  rw [hb20.out] at hB9
  have hg89 : Hid (w8.grownBy w9 none) := Hid.mk' (gt (gd (grownBy_refl w8 none)) hg9)
  have hS0 : (fun w' => (w'.cell? ⟨PB, 0, none⟩ = some (.int .i64 0) ∧ w'.cell? ⟨PB, 1, none⟩ = some (.string s)) ∧ w'.cell? ⟨GB, 0, none⟩ = some (.int .i64 0) ∧ w'.cell? ⟨GB, 1, none⟩ = some (.int .i64 1) ∧ w'.cell? ⟨GB, 2, none⟩ = some (.int .i64 1) ∧ w'.cell? ⟨GB, 3, none⟩ = some (.int .i32 B) ∧ w'.cell? ⟨GB, 4, none⟩ = some (.int .i32 0) ∧ w'.cell? ⟨GB, 5, none⟩ = some (.int .i64 0) ∧ w'.cell? ⟨GB, 6, none⟩ = some (.int .i64 0) ∧ w'.cell? ⟨GB, 7, none⟩ = some (.int .u32 0) ∧ w'.cell? ⟨GB, 8, none⟩ = some (.int .i32 0)) w8.drew := hcell.out _ (gd (grownBy_refl w8 none))
  have hS9 : (fun w' => (w'.cell? ⟨PB, 0, none⟩ = some (.int .i64 0) ∧ w'.cell? ⟨PB, 1, none⟩ = some (.string s)) ∧ w'.cell? ⟨GB, 0, none⟩ = some (.int .i64 0) ∧ w'.cell? ⟨GB, 1, none⟩ = some (.int .i64 1) ∧ w'.cell? ⟨GB, 2, none⟩ = some (.int .i64 1) ∧ w'.cell? ⟨GB, 3, none⟩ = some (.int .i32 B) ∧ w'.cell? ⟨GB, 4, none⟩ = some (.int .i32 0) ∧ w'.cell? ⟨GB, 5, none⟩ = some (.int .i64 0) ∧ w'.cell? ⟨GB, 6, none⟩ = some (.int .i64 0) ∧ w'.cell? ⟨GB, 7, none⟩ = some (.int .u32 0) ∧ w'.cell? ⟨GB, 8, none⟩ = some (.int .i32 0)) w9 := hcell.out _ hg89.out
  have a5 := Hid.mk' (a4.out _ cp w9 hB9 hcp1 hcp2 (K.out _ _ hq8.out hg89.out))
  have hsz : s.size = 1 := hb10.out
  clear hg9 hB9 hcp1 hcp2 a4 hb10 hb20 p8 g8
  refine wp_region_held_drew (S := fun w' => (w'.cell? ⟨PB, 0, none⟩ = some (.int .i64 0) ∧ w'.cell? ⟨PB, 1, none⟩ = some (.string s)) ∧ w'.cell? ⟨GB, 0, none⟩ = some (.int .i64 0) ∧ w'.cell? ⟨GB, 1, none⟩ = some (.int .i64 1) ∧ w'.cell? ⟨GB, 2, none⟩ = some (.int .i64 1) ∧ w'.cell? ⟨GB, 3, none⟩ = some (.int .i32 B) ∧ w'.cell? ⟨GB, 4, none⟩ = some (.int .i32 0) ∧ w'.cell? ⟨GB, 5, none⟩ = some (.int .i64 0) ∧ w'.cell? ⟨GB, 6, none⟩ = some (.int .i64 0) ∧ w'.cell? ⟨GB, 7, none⟩ = some (.int .u32 0) ∧ w'.cell? ⟨GB, 8, none⟩ = some (.int .i32 0)) (by kernel_rfl) hS0 (fun hHeld => ?_)
  refine wpAnyH_take (i := 0) (v := ?_) rfl (by kernel_rfl) (by kernel_rfl) (by kernel_rfl) (fun _ _ _ h => h) (Or.inl ⟨by rfl, ?_⟩) (by assumption) ?_; rotate_left
  · (intro w hSw; (try dsimp only at hSw); go_simp; try with_reducible rfl)
  try simp only [List.getElem_toArray, List.getElem_cons_zero, Act.put, List.setIfInBounds_toArray, List.set_cons_zero, List.set_cons_succ]
  refine wpAnyH_take (i := 1) (v := ?_) rfl (by kernel_rfl) (by kernel_rfl) (by kernel_rfl) (fun _ _ _ h => h) (Or.inl ⟨by rfl, ?_⟩) (by assumption) ?_; rotate_left
  · (intro w hSw; (try dsimp only at hSw); go_simp; try with_reducible rfl)
  try simp only [List.getElem_toArray, List.getElem_cons_zero, List.getElem_cons_succ, Act.put, List.setIfInBounds_toArray, List.set_cons_zero, List.set_cons_succ]
  refine wpAnyH_take (i := 2) (v := ?_) rfl (by kernel_rfl) (by kernel_rfl) (by kernel_rfl) (fun _ _ _ h => h) (Or.inl ⟨by rfl, ?_⟩) (by assumption) ?_; rotate_left
  · (intro w hSw; (try dsimp only at hSw); go_simp; try with_reducible rfl)
  try simp only [List.getElem_toArray, List.getElem_cons_zero, List.getElem_cons_succ, Act.put, List.setIfInBounds_toArray, List.set_cons_zero, List.set_cons_succ]
  refine wpAnyH_take (i := 3) (v := ?_) rfl (by kernel_rfl) (by kernel_rfl) (by kernel_rfl) (fun _ _ _ h => h) (Or.inl ⟨by rfl, ?_⟩) (by assumption) ?_; rotate_left
  · (intro w hSw; (try dsimp only at hSw); go_simp; try with_reducible rfl)
  try simp only [List.getElem_toArray, List.getElem_cons_zero, List.getElem_cons_succ, Act.put, List.setIfInBounds_toArray, List.set_cons_zero, List.set_cons_succ]
  refine wpAnyH_take (i := 4) (v := ?_) rfl (by kernel_rfl) (by kernel_rfl) (by kernel_rfl) (fun _ _ _ h => h) (Or.inl ⟨by rfl, ?_⟩) (by assumption) ?_; rotate_left
  · (intro w hSw; (try dsimp only at hSw); go_simp; try with_reducible rfl)
  try simp only [List.getElem_toArray, List.getElem_cons_zero, List.getElem_cons_succ, Act.put, List.setIfInBounds_toArray, List.set_cons_zero, List.set_cons_succ]
  refine wpAnyH_take (i := 5) (v := ?_) rfl (by kernel_rfl) (by kernel_rfl) (by kernel_rfl) (fun _ _ _ h => h) (Or.inl ⟨by rfl, ?_⟩) (by assumption) ?_; rotate_left
  · (intro w hSw; (try dsimp only at hSw); go_simp; try with_reducible rfl)
  try simp only [List.getElem_toArray, List.getElem_cons_zero, List.getElem_cons_succ, Act.put, List.setIfInBounds_toArray, List.set_cons_zero, List.set_cons_succ]
  refine wpAnyH_take (i := 6) (v := ?_) rfl (by kernel_rfl) (by kernel_rfl) (by kernel_rfl) (fun _ _ _ h => h) (Or.inl ⟨by rfl, ?_⟩) (by assumption) ?_; rotate_left
  · (intro w hSw; (try dsimp only at hSw); go_simp; try with_reducible rfl)
  try simp only [List.getElem_toArray, List.getElem_cons_zero, List.getElem_cons_succ, Act.put, List.setIfInBounds_toArray, List.set_cons_zero, List.set_cons_succ]
  refine wpAnyH_take (i := 7) (v := ?_) rfl (by kernel_rfl) (by kernel_rfl) (by kernel_rfl) (fun _ _ _ h => h) (Or.inl ⟨by rfl, ?_⟩) (by assumption) ?_; rotate_left
  · (intro w hSw; (try dsimp only at hSw); go_simp; try with_reducible rfl)
  try simp only [List.getElem_toArray, List.getElem_cons_zero, List.getElem_cons_succ, Act.put, List.setIfInBounds_toArray, List.set_cons_zero, List.set_cons_succ]
  refine wpAnyH_take (i := 8) (v := ?_) rfl (by kernel_rfl) (by kernel_rfl) (by kernel_rfl) (fun _ _ _ h => h) (Or.inl ⟨by rfl, ?_⟩) (by assumption) ?_; rotate_left
  · (intro w hSw; (try dsimp only at hSw); go_simp; try with_reducible rfl)
  try simp only [List.getElem_toArray, List.getElem_cons_zero, List.getElem_cons_succ, Act.put, List.setIfInBounds_toArray, List.set_cons_zero, List.set_cons_succ]
  refine wpAnyH_take (i := 9) (v := ?_) rfl (by kernel_rfl) (by kernel_rfl) (by kernel_rfl) (fun _ _ _ h => h) (Or.inl ⟨by rfl, ?_⟩) (by assumption) ?_; rotate_left
  · (intro w hSw; (try dsimp only at hSw); go_simp; try with_reducible rfl)
  try simp only [List.getElem_toArray, List.getElem_cons_zero, List.getElem_cons_succ, Act.put, List.setIfInBounds_toArray, List.set_cons_zero, List.set_cons_succ]
  refine wpAnyH_take (i := 10) (v := ?_) rfl (by kernel_rfl) (by kernel_rfl) (by kernel_rfl) (fun _ _ _ h => h) (Or.inl ⟨by rfl, ?_⟩) (by assumption) ?_; rotate_left
  · (intro w hSw; (try dsimp only at hSw); go_simp; try with_reducible rfl)
  try simp only [List.getElem_toArray, List.getElem_cons_zero, List.getElem_cons_succ, Act.put, List.setIfInBounds_toArray, List.set_cons_zero, List.set_cons_succ]
  refine wpAnyH_take (i := 11) (v := ?_) rfl (by kernel_rfl) (by kernel_rfl) (by kernel_rfl) (fun _ _ _ h => h) (Or.inl ⟨by rfl, ?_⟩) (by assumption) ?_; rotate_left
  · (intro w hSw; (try dsimp only at hSw); go_simp; try with_reducible rfl)
  try simp only [List.getElem_toArray, List.getElem_cons_zero, List.getElem_cons_succ, Act.put, List.setIfInBounds_toArray, List.set_cons_zero, List.set_cons_succ]
  refine wpAnyH_take (i := 12) (v := ?_) rfl (by kernel_rfl) (by kernel_rfl) (by kernel_rfl) (fun _ _ _ h => h) (Or.inl ⟨by rfl, ?_⟩) (by assumption) ?_; rotate_left
  · (intro w hSw; (try dsimp only at hSw); go_simp; try with_reducible rfl)
  try simp only [List.getElem_toArray, List.getElem_cons_zero, List.getElem_cons_succ, Act.put, List.setIfInBounds_toArray, List.set_cons_zero, List.set_cons_succ]
  refine wpAnyH_take (i := 15) (v := ?_) rfl (by kernel_rfl) (by kernel_rfl) (by kernel_rfl) (fun _ _ _ h => h) (Or.inl ⟨by rfl, ?_⟩) (by assumption) ?_; rotate_left
  · (intro w hSw; (try dsimp only at hSw); go_simp; try with_reducible rfl)
  try simp only [List.getElem_toArray, List.getElem_cons_zero, List.getElem_cons_succ, Act.put, List.setIfInBounds_toArray, List.set_cons_zero, List.set_cons_succ]
  refine wpAnyH_ready (rs := [13]) (by kernel_rfl) (by simp) ?_
  refine AllReadyH.cons rfl (fun K hK => ?_) AllReadyH.nil
  refine step_run (by rfl) (exec_convert _ _ _ (by rfl) (by simp [Act.eval]) hcvt) ?_
  refine hK.out _ _ hS9 (fun hHeld => ?_)
  clear hK K
  try simp only [List.getElem_toArray, List.getElem_cons_zero, List.getElem_cons_succ, Act.put, List.setIfInBounds_toArray, List.set_cons_zero, List.set_cons_succ]
  refine wpAnyH_ready (rs := [14]) (by kernel_rfl) (by simp) ?_
  refine AllReadyH.cons rfl (fun K hK => ?_) AllReadyH.nil
  go_simp
  refine a5.out.mono ?_; rintro e w' ⟨rfl, hg10⟩; have hS10 := hcell.out _ (gt hg89.out hg10); try dsimp only
  refine hK.out _ _ hS10 (fun hHeld => ?_)
  clear hK K
  try simp only [List.getElem_toArray, List.getElem_cons_zero, List.getElem_cons_succ, Act.put, List.setIfInBounds_toArray, List.set_cons_zero, List.set_cons_succ]
  refine wpAnyH_take (i := 16) (v := ?_) rfl (by kernel_rfl) (by kernel_rfl) (by kernel_rfl) (fun _ _ _ h => h) (Or.inl ⟨by rfl, ?_⟩) (by assumption) ?_; rotate_left
  · (intro w hSw; (try dsimp only at hSw); go_simp; try with_reducible rfl)
  try simp only [List.getElem_toArray, List.getElem_cons_zero, List.getElem_cons_succ, Act.put, List.setIfInBounds_toArray, List.set_cons_zero, List.set_cons_succ]
  refine wpAnyH_take (i := 17) (v := ?_) rfl (by kernel_rfl) (by kernel_rfl) (by kernel_rfl) (fun _ _ _ h => h) (Or.inl ⟨by rfl, ?_⟩) (by assumption) ?_; rotate_left
  · (intro w hSw; (try dsimp only at hSw); go_simp; try with_reducible rfl)
  try simp only [List.getElem_toArray, List.getElem_cons_zero, List.getElem_cons_succ, Act.put, List.setIfInBounds_toArray, List.set_cons_zero, List.set_cons_succ]
  refine wpAnyH_take (i := 18) (v := ?_) rfl (by kernel_rfl) (by kernel_rfl) (by kernel_rfl) (fun _ _ _ h => h) (Or.inl ⟨by rfl, ?_⟩) (by assumption) ?_; rotate_left
  · (intro w hSw; (try dsimp only at hSw); go_simp; try with_reducible rfl)
  try simp only [List.getElem_toArray, List.getElem_cons_zero, List.getElem_cons_succ, Act.put, List.setIfInBounds_toArray, List.set_cons_zero, List.set_cons_succ]
  refine wpAnyH_take (i := 19) (v := ?_) rfl (by kernel_rfl) (by kernel_rfl) (by kernel_rfl) (fun _ _ _ h => h) (Or.inl ⟨by rfl, ?_⟩) (by assumption) ?_; rotate_left
  · (intro w hSw; (try dsimp only at hSw); go_simp; try with_reducible rfl)
  try simp only [List.getElem_toArray, List.getElem_cons_zero, List.getElem_cons_succ, Act.put, List.setIfInBounds_toArray, List.set_cons_zero, List.set_cons_succ]
  refine wpAnyH_take (i := 20) (v := ?_) rfl (by kernel_rfl) (by kernel_rfl) (by kernel_rfl) (fun _ _ _ h => h) (Or.inl ⟨by rfl, ?_⟩) (by assumption) ?_; rotate_left
  · (intro w hSw; (try dsimp only at hSw); go_simp; try with_reducible rfl)
  try simp only [List.getElem_toArray, List.getElem_cons_zero, List.getElem_cons_succ, Act.put, List.setIfInBounds_toArray, List.set_cons_zero, List.set_cons_succ]
  refine wpAnyH_take (i := 21) (v := ?_) rfl (by kernel_rfl) (by kernel_rfl) (by kernel_rfl) (fun _ _ _ h => h) (Or.inl ⟨by rfl, ?_⟩) (by assumption) ?_; rotate_left
  · (intro w hSw; (try dsimp only at hSw); go_simp; try with_reducible rfl)
  try simp only [List.getElem_toArray, List.getElem_cons_zero, List.getElem_cons_succ, Act.put, List.setIfInBounds_toArray, List.set_cons_zero, List.set_cons_succ]
  refine wpAnyH_take (i := 22) (v := ?_) rfl (by kernel_rfl) (by kernel_rfl) (by kernel_rfl) (fun _ _ _ h => h) (Or.inl ⟨by rfl, ?_⟩) (by assumption) ?_; rotate_left
  · (intro w hSw; (try dsimp only at hSw); go_simp; try with_reducible rfl)
  try simp only [List.getElem_toArray, List.getElem_cons_zero, List.getElem_cons_succ, Act.put, List.setIfInBounds_toArray, List.set_cons_zero, List.set_cons_succ]
  refine wpAnyH_take (i := 23) (v := ?_) rfl (by kernel_rfl) (by kernel_rfl) (by kernel_rfl) (fun _ _ _ h => h) (Or.inl ⟨by rfl, ?_⟩) (by assumption) ?_; rotate_left
  · (intro w hSw; (try dsimp only at hSw); go_simp; try with_reducible rfl)
  try simp only [List.getElem_toArray, List.getElem_cons_zero, List.getElem_cons_succ, Act.put, List.setIfInBounds_toArray, List.set_cons_zero, List.set_cons_succ]
  refine wpAnyH_take (i := 24) (v := ?_) rfl (by kernel_rfl) (by kernel_rfl) (by kernel_rfl) (fun _ _ _ h => h) (Or.inl ⟨by rfl, ?_⟩) (by assumption) ?_; rotate_left
  · (intro w hSw; (try dsimp only at hSw); go_simp; try with_reducible rfl)
  try simp only [List.getElem_toArray, List.getElem_cons_zero, List.getElem_cons_succ, Act.put, List.setIfInBounds_toArray, List.set_cons_zero, List.set_cons_succ]
  refine wpAnyH_take (i := 25) (v := ?_) rfl (by kernel_rfl) (by kernel_rfl) (by kernel_rfl) (fun _ _ _ h => h) (Or.inl ⟨by rfl, ?_⟩) (by assumption) ?_; rotate_left
  · (intro w hSw; (try dsimp only at hSw); go_simp; try with_reducible rfl)
  try simp only [List.getElem_toArray, List.getElem_cons_zero, List.getElem_cons_succ, Act.put, List.setIfInBounds_toArray, List.set_cons_zero, List.set_cons_succ]
  refine wpAnyH_take (i := 26) (v := ?_) rfl (by kernel_rfl) (by kernel_rfl) (by kernel_rfl) (fun _ _ _ h => h) (Or.inl ⟨by rfl, ?_⟩) (by assumption) ?_; rotate_left
  · (intro w hSw; (try dsimp only at hSw); go_simp; try with_reducible rfl)
  try simp only [List.getElem_toArray, List.getElem_cons_zero, List.getElem_cons_succ, Act.put, List.setIfInBounds_toArray, List.set_cons_zero, List.set_cons_succ]
  refine wpAnyH_take (i := 27) (v := ?_) rfl (by kernel_rfl) (by kernel_rfl) (by kernel_rfl) (fun _ _ _ h => h) (Or.inl ⟨by rfl, ?_⟩) (by assumption) ?_; rotate_left
  · (intro w hSw; (try dsimp only at hSw); go_simp; try with_reducible rfl)
  try simp only [List.getElem_toArray, List.getElem_cons_zero, List.getElem_cons_succ, Act.put, List.setIfInBounds_toArray, List.set_cons_zero, List.set_cons_succ]
  refine wpAnyH_take (i := 28) (v := ?_) rfl (by kernel_rfl) (by kernel_rfl) (by kernel_rfl) (fun _ _ _ h => h) (Or.inl ⟨by rfl, ?_⟩) (by assumption) ?_; rotate_left
  · (intro w hSw; (try dsimp only at hSw); go_simp; try with_reducible rfl)
  try simp only [List.getElem_toArray, List.getElem_cons_zero, List.getElem_cons_succ, Act.put, List.setIfInBounds_toArray, List.set_cons_zero, List.set_cons_succ]
  refine wpAnyH_done (by kernel_rfl) ?_ _
  go_wp2
  go_ret
  exact ⟨rfl, gt (gt hGw8.out hg89.out) hg10⟩
set_option maxRecDepth 100000 in
set_option maxHeartbeats 2000000 in
theorem bytes_one {P : World → Prop} (C : Con P) (c : UInt8) (n x : Nat) (hn : n ≤ 65535) (hG : geV 0 0 0 0 [c] = vgV 0 1 1 (n : Int) 0 0) (hc : 128 ≤ c.toNat) (hx : onR (n : Int) = some x) (hG2 : geV 0 0 0 0 [b8 x] = vgV 0 1 1 (n : Int) 0 0) (w : World) (hw : P w) : Calls Try.prog 8 #[.int .u8 (c.toNat : Int)] w fun e w' => e = .returned (.bool true) ∧ w.grownBy w' none := by
  have a0 := Hid.mk' (fun w hw => works_any C w hw)
  have a1 : Hid (∀ w, P w → Calls Try.prog 15 #[stV 0 0 0 0, .slice (some ⟨w.heap.size, 0, none⟩) 1 1] (w.alloc (.cells #[.int .u8 (c.toNat : Int)] 5)) fun e w' => e = .returned (vgV 0 1 1 (n : Int) 0 0) ∧ w.grownBy w' none) := Hid.mk' (fun w hw => by
    have := C.get 0 0 0 0 (some ⟨w.heap.size, 0, none⟩) 1 [c] 1 rfl _ (bytes_new w c (0, 0)) (by omega) (by omega) (C.keep hw (World.grownBy_alloc w _ none))
    rw [hG] at this
    exact this.mono (fun e w' h => ⟨h.1, gt (World.grownBy_alloc _ _ _) h.2⟩))
  have K := Hid.mk' (fun (a b : World) (h : P a) (g : a.grownBy b none) => C.keep h g)
  have hq := Hid.mk' hw
  have a3 : Hid (∀ w, P w → Calls Try.prog 19 #[.int .i32 (n : Int)] w fun e w' => e = .returned (vpV 0 (str [b8 x])) ∧ w.grownBy w' none) := Hid.mk' (fun w hw => by have := C.set (n : Int) (by unfold I32; omega) w hw; rw [se_byte hx] at this; exact this)
  have a4 : Hid (∀ ao cap w, Bytes w ao [b8 x] → 1 ≤ cap → cap ≤ 9223372036854775807 → P w → Calls Try.prog 15 #[stV 0 0 0 0, .slice ao 1 cap] w fun e w' => e = .returned (vgV 0 1 1 (n : Int) 0 0) ∧ w.grownBy w' none) := Hid.mk' (fun ao cap w hB h1 h2 hw => by
    have := C.get 0 0 0 0 ao cap [b8 x] 1 rfl w hB h1 h2 hw
    rw [hG2] at this
    exact this)
  have hb1 : (str [b8 x]).size = 1 := by rw [str_size]; rfl
  have hb2 : (str [b8 x]).toList = [b8 x] := by rw [ByteArray.toList_eq, str_data]
  have h1 : (128 : Int) ≤ (c.toNat : Int) := by omega
  generalize (c.toNat : Int) = B at *
  have hnn : ((n : Int) == (n : Int)) = true := by simp
  have hd : decide ((128 : Int) ≤ B) = true := by simp; omega
  obtain ⟨s, hs⟩ : ∃ s, str [b8 x] = s := ⟨_, rfl⟩
  rw [hs] at a3 hb1 hb2
  have hb10 := Hid.mk' hb1
  have hb20 := Hid.mk' hb2
  clear hw C hG hc hG2 hx hs hb1 hb2
  go_enter Try.func8, Try.ntmps8
  go_upto_region 4 with (first
    | (go_at_call 21; refine (a0.out _ hq.out).mono ?_; rintro e w1 ⟨rfl, hg1, hp1⟩; have hq1 := Hid.mk' hp1)
    | (go_at_call 15; refine (a1.out w1 hq1.out).mono ?_; rintro e w2 ⟨rfl, hg2⟩)
    | (refine wpList_allocC _ rfl 34 rfl (gC 0 0 0 0 0 0) (zeroG _) ?_; intro w3 g3 hg3)
    | (refine wpList_storeC _ rfl 34 _ _ rfl _ (gC 0 0 0 0 0 0) (gC 0 1 1 (n : Int) 0 0) infoG rfl (gC_one _ _ _ _ _ _) rfl rfl g3 ?_; intro w4 g4 hg4))
  have hG4 : Hid (w1.grownBy w4 none) := Hid.mk' (grownBy_new (gt hg2 hg3) hg4 (fun k hk => by have h5 := Option.some.inj hk; have h6 := hg2.size; omega))
  have hGw : Hid (w.grownBy w4 none) := Hid.mk' (gt hg1 hG4.out)
  have hq4 := Hid.mk' (K.out _ _ hq1.out hG4.out)
  clear hg1 hg2 hg3 hg4 g3 hG4 hp1
  generalize w2.heap.size = GB at *
  have c0 := g4.cell 0 (v := .int .i64 0) rfl
  have c1 := g4.cell 1 (v := .int .i64 1) rfl
  have c2 := g4.cell 2 (v := .int .i64 1) rfl
  have c3 := g4.cell 3 (v := .int .i32 (n : Int)) rfl
  have c4 := g4.cell 4 (v := .int .i32 0) rfl
  have c5 := g4.cell 5 (v := .int .i64 0) rfl
  have c6 := g4.cell 6 (v := .int .i64 0) rfl
  have c7 := g4.cell 7 (v := .int .u32 0) rfl
  have c8 := g4.cell 8 (v := .int .i32 0) rfl
  go_upto_region 13 with (first
    | (go_at_call 19; refine (a3.out _ hq4.out).mono ?_; rintro e w6 ⟨rfl, hg6⟩; have g6 := g4.kept0 hg6; have hq6 := Hid.mk' (K.out _ _ hq4.out hg6))
    | (refine wpList_allocC _ rfl 39 rfl (pC 0 ⟨#[]⟩) (zeroP _) ?_; intro w7 p7 hg7)
    | (refine wpList_storeC _ rfl 39 _ _ rfl _ (pC 0 ⟨#[]⟩) (pC 0 s) infoP rfl (pC_one _ _) rfl rfl p7 ?_; intro w8 p8 hg8))
  have hG8 : Hid (w6.grownBy w8 none) := Hid.mk' (grownBy_new hg7 hg8 (fun k hk => by have h5 := Option.some.inj hk; omega))
  have hGw8 : Hid (w.grownBy w8 none) := Hid.mk' (gt (gt hGw.out hg6) hG8.out)
  have g8 := g6.kept0 hG8.out
  have hq8 := Hid.mk' (K.out _ _ hq6.out hG8.out)
  clear c0 c1 c2 c3 c4 c5 c6 c7 c8 g4 g6 p7 hg6 hg7 hg8 hGw
  generalize w6.heap.size = PB at *
  have hcell : Hid (∀ wx, w8.grownBy wx none → (fun w' => (w'.cell? ⟨PB, 0, none⟩ = some (.int .i64 0) ∧ w'.cell? ⟨PB, 1, none⟩ = some (.string s)) ∧ w'.cell? ⟨GB, 0, none⟩ = some (.int .i64 0) ∧ w'.cell? ⟨GB, 1, none⟩ = some (.int .i64 1) ∧ w'.cell? ⟨GB, 2, none⟩ = some (.int .i64 1) ∧ w'.cell? ⟨GB, 3, none⟩ = some (.int .i32 (n : Int)) ∧ w'.cell? ⟨GB, 4, none⟩ = some (.int .i32 0) ∧ w'.cell? ⟨GB, 5, none⟩ = some (.int .i64 0) ∧ w'.cell? ⟨GB, 6, none⟩ = some (.int .i64 0) ∧ w'.cell? ⟨GB, 7, none⟩ = some (.int .u32 0) ∧ w'.cell? ⟨GB, 8, none⟩ = some (.int .i32 0)) wx) := Hid.mk' (fun wx hg => ⟨⟨(p8.kept0 hg).cell 0 rfl, (p8.kept0 hg).cell 1 rfl⟩, (g8.kept0 hg).cell 0 rfl, (g8.kept0 hg).cell 1 rfl, (g8.kept0 hg).cell 2 rfl, (g8.kept0 hg).cell 3 rfl, (g8.kept0 hg).cell 4 rfl, (g8.kept0 hg).cell 5 rfl, (g8.kept0 hg).cell 6 rfl, (g8.kept0 hg).cell 7 rfl, (g8.kept0 hg).cell 8 rfl⟩)
  obtain ⟨cp, w9, hcvt, hB9, hg9, hcp1, hcp2⟩ := conv_new (P := Try.prog) w8.drew 9 30 s Try.underlying9 Try.underlying30 Try.underlying5 (by have := hb10.out; omega)
  rw [hb10.out] at hcvt hcp1
  rw [hb20.out] at hB9
  have hg89 : Hid (w8.grownBy w9 none) := Hid.mk' (gt (gd (grownBy_refl w8 none)) hg9)
  have hS0 : (fun w' => (w'.cell? ⟨PB, 0, none⟩ = some (.int .i64 0) ∧ w'.cell? ⟨PB, 1, none⟩ = some (.string s)) ∧ w'.cell? ⟨GB, 0, none⟩ = some (.int .i64 0) ∧ w'.cell? ⟨GB, 1, none⟩ = some (.int .i64 1) ∧ w'.cell? ⟨GB, 2, none⟩ = some (.int .i64 1) ∧ w'.cell? ⟨GB, 3, none⟩ = some (.int .i32 (n : Int)) ∧ w'.cell? ⟨GB, 4, none⟩ = some (.int .i32 0) ∧ w'.cell? ⟨GB, 5, none⟩ = some (.int .i64 0) ∧ w'.cell? ⟨GB, 6, none⟩ = some (.int .i64 0) ∧ w'.cell? ⟨GB, 7, none⟩ = some (.int .u32 0) ∧ w'.cell? ⟨GB, 8, none⟩ = some (.int .i32 0)) w8.drew := hcell.out _ (gd (grownBy_refl w8 none))
  have hS9 : (fun w' => (w'.cell? ⟨PB, 0, none⟩ = some (.int .i64 0) ∧ w'.cell? ⟨PB, 1, none⟩ = some (.string s)) ∧ w'.cell? ⟨GB, 0, none⟩ = some (.int .i64 0) ∧ w'.cell? ⟨GB, 1, none⟩ = some (.int .i64 1) ∧ w'.cell? ⟨GB, 2, none⟩ = some (.int .i64 1) ∧ w'.cell? ⟨GB, 3, none⟩ = some (.int .i32 (n : Int)) ∧ w'.cell? ⟨GB, 4, none⟩ = some (.int .i32 0) ∧ w'.cell? ⟨GB, 5, none⟩ = some (.int .i64 0) ∧ w'.cell? ⟨GB, 6, none⟩ = some (.int .i64 0) ∧ w'.cell? ⟨GB, 7, none⟩ = some (.int .u32 0) ∧ w'.cell? ⟨GB, 8, none⟩ = some (.int .i32 0)) w9 := hcell.out _ hg89.out
  have a5 := Hid.mk' (a4.out _ cp w9 hB9 hcp1 hcp2 (K.out _ _ hq8.out hg89.out))
  have hsz : s.size = 1 := hb10.out
  clear hg9 hB9 hcp1 hcp2 a4 hb10 hb20 p8 g8
  refine wp_region_held_drew (S := fun w' => (w'.cell? ⟨PB, 0, none⟩ = some (.int .i64 0) ∧ w'.cell? ⟨PB, 1, none⟩ = some (.string s)) ∧ w'.cell? ⟨GB, 0, none⟩ = some (.int .i64 0) ∧ w'.cell? ⟨GB, 1, none⟩ = some (.int .i64 1) ∧ w'.cell? ⟨GB, 2, none⟩ = some (.int .i64 1) ∧ w'.cell? ⟨GB, 3, none⟩ = some (.int .i32 (n : Int)) ∧ w'.cell? ⟨GB, 4, none⟩ = some (.int .i32 0) ∧ w'.cell? ⟨GB, 5, none⟩ = some (.int .i64 0) ∧ w'.cell? ⟨GB, 6, none⟩ = some (.int .i64 0) ∧ w'.cell? ⟨GB, 7, none⟩ = some (.int .u32 0) ∧ w'.cell? ⟨GB, 8, none⟩ = some (.int .i32 0)) (by kernel_rfl) hS0 (fun hHeld => ?_)
  refine wpAnyH_take (i := 0) (v := ?_) rfl (by kernel_rfl) (by kernel_rfl) (by kernel_rfl) (fun _ _ _ h => h) (Or.inl ⟨by rfl, ?_⟩) (by assumption) ?_; rotate_left
  · (intro w hSw; (try dsimp only at hSw); go_simp; try with_reducible rfl)
  try simp only [List.getElem_toArray, List.getElem_cons_zero, Act.put, List.setIfInBounds_toArray, List.set_cons_zero, List.set_cons_succ]
  refine wpAnyH_take (i := 1) (v := ?_) rfl (by kernel_rfl) (by kernel_rfl) (by kernel_rfl) (fun _ _ _ h => h) (Or.inl ⟨by rfl, ?_⟩) (by assumption) ?_; rotate_left
  · (intro w hSw; (try dsimp only at hSw); go_simp; try with_reducible rfl)
  try simp only [List.getElem_toArray, List.getElem_cons_zero, List.getElem_cons_succ, Act.put, List.setIfInBounds_toArray, List.set_cons_zero, List.set_cons_succ]
  refine wpAnyH_take (i := 2) (v := ?_) rfl (by kernel_rfl) (by kernel_rfl) (by kernel_rfl) (fun _ _ _ h => h) (Or.inl ⟨by rfl, ?_⟩) (by assumption) ?_; rotate_left
  · (intro w hSw; (try dsimp only at hSw); go_simp; try with_reducible rfl)
  try simp only [List.getElem_toArray, List.getElem_cons_zero, List.getElem_cons_succ, Act.put, List.setIfInBounds_toArray, List.set_cons_zero, List.set_cons_succ]
  refine wpAnyH_take (i := 3) (v := ?_) rfl (by kernel_rfl) (by kernel_rfl) (by kernel_rfl) (fun _ _ _ h => h) (Or.inl ⟨by rfl, ?_⟩) (by assumption) ?_; rotate_left
  · (intro w hSw; (try dsimp only at hSw); go_simp; try with_reducible rfl)
  try simp only [List.getElem_toArray, List.getElem_cons_zero, List.getElem_cons_succ, Act.put, List.setIfInBounds_toArray, List.set_cons_zero, List.set_cons_succ]
  refine wpAnyH_take (i := 4) (v := ?_) rfl (by kernel_rfl) (by kernel_rfl) (by kernel_rfl) (fun _ _ _ h => h) (Or.inl ⟨by rfl, ?_⟩) (by assumption) ?_; rotate_left
  · (intro w hSw; (try dsimp only at hSw); go_simp; try with_reducible rfl)
  try simp only [List.getElem_toArray, List.getElem_cons_zero, List.getElem_cons_succ, Act.put, List.setIfInBounds_toArray, List.set_cons_zero, List.set_cons_succ]
  refine wpAnyH_take (i := 5) (v := ?_) rfl (by kernel_rfl) (by kernel_rfl) (by kernel_rfl) (fun _ _ _ h => h) (Or.inl ⟨by rfl, ?_⟩) (by assumption) ?_; rotate_left
  · (intro w hSw; (try dsimp only at hSw); go_simp; try with_reducible rfl)
  try simp only [List.getElem_toArray, List.getElem_cons_zero, List.getElem_cons_succ, Act.put, List.setIfInBounds_toArray, List.set_cons_zero, List.set_cons_succ]
  refine wpAnyH_take (i := 6) (v := ?_) rfl (by kernel_rfl) (by kernel_rfl) (by kernel_rfl) (fun _ _ _ h => h) (Or.inl ⟨by rfl, ?_⟩) (by assumption) ?_; rotate_left
  · (intro w hSw; (try dsimp only at hSw); go_simp; try with_reducible rfl)
  try simp only [List.getElem_toArray, List.getElem_cons_zero, List.getElem_cons_succ, Act.put, List.setIfInBounds_toArray, List.set_cons_zero, List.set_cons_succ]
  refine wpAnyH_take (i := 7) (v := ?_) rfl (by kernel_rfl) (by kernel_rfl) (by kernel_rfl) (fun _ _ _ h => h) (Or.inl ⟨by rfl, ?_⟩) (by assumption) ?_; rotate_left
  · (intro w hSw; (try dsimp only at hSw); go_simp; try with_reducible rfl)
  try simp only [List.getElem_toArray, List.getElem_cons_zero, List.getElem_cons_succ, Act.put, List.setIfInBounds_toArray, List.set_cons_zero, List.set_cons_succ]
  refine wpAnyH_take (i := 8) (v := ?_) rfl (by kernel_rfl) (by kernel_rfl) (by kernel_rfl) (fun _ _ _ h => h) (Or.inl ⟨by rfl, ?_⟩) (by assumption) ?_; rotate_left
  · (intro w hSw; (try dsimp only at hSw); go_simp; try with_reducible rfl)
  try simp only [List.getElem_toArray, List.getElem_cons_zero, List.getElem_cons_succ, Act.put, List.setIfInBounds_toArray, List.set_cons_zero, List.set_cons_succ]
  refine wpAnyH_take (i := 9) (v := ?_) rfl (by kernel_rfl) (by kernel_rfl) (by kernel_rfl) (fun _ _ _ h => h) (Or.inl ⟨by rfl, ?_⟩) (by assumption) ?_; rotate_left
  · (intro w hSw; (try dsimp only at hSw); go_simp; try with_reducible rfl)
  try simp only [List.getElem_toArray, List.getElem_cons_zero, List.getElem_cons_succ, Act.put, List.setIfInBounds_toArray, List.set_cons_zero, List.set_cons_succ]
  refine wpAnyH_take (i := 10) (v := ?_) rfl (by kernel_rfl) (by kernel_rfl) (by kernel_rfl) (fun _ _ _ h => h) (Or.inl ⟨by rfl, ?_⟩) (by assumption) ?_; rotate_left
  · (intro w hSw; (try dsimp only at hSw); go_simp; try with_reducible rfl)
  try simp only [List.getElem_toArray, List.getElem_cons_zero, List.getElem_cons_succ, Act.put, List.setIfInBounds_toArray, List.set_cons_zero, List.set_cons_succ]
  refine wpAnyH_take (i := 11) (v := ?_) rfl (by kernel_rfl) (by kernel_rfl) (by kernel_rfl) (fun _ _ _ h => h) (Or.inl ⟨by rfl, ?_⟩) (by assumption) ?_; rotate_left
  · (intro w hSw; (try dsimp only at hSw); go_simp; try with_reducible rfl)
  try simp only [List.getElem_toArray, List.getElem_cons_zero, List.getElem_cons_succ, Act.put, List.setIfInBounds_toArray, List.set_cons_zero, List.set_cons_succ]
  refine wpAnyH_take (i := 12) (v := ?_) rfl (by kernel_rfl) (by kernel_rfl) (by kernel_rfl) (fun _ _ _ h => h) (Or.inl ⟨by rfl, ?_⟩) (by assumption) ?_; rotate_left
  · (intro w hSw; (try dsimp only at hSw); go_simp; try with_reducible rfl)
  try simp only [List.getElem_toArray, List.getElem_cons_zero, List.getElem_cons_succ, Act.put, List.setIfInBounds_toArray, List.set_cons_zero, List.set_cons_succ]
  refine wpAnyH_take (i := 15) (v := ?_) rfl (by kernel_rfl) (by kernel_rfl) (by kernel_rfl) (fun _ _ _ h => h) (Or.inl ⟨by rfl, ?_⟩) (by assumption) ?_; rotate_left
  · (intro w hSw; (try dsimp only at hSw); go_simp; try with_reducible rfl)
  try simp only [List.getElem_toArray, List.getElem_cons_zero, List.getElem_cons_succ, Act.put, List.setIfInBounds_toArray, List.set_cons_zero, List.set_cons_succ]
  refine wpAnyH_ready (rs := [13]) (by kernel_rfl) (by simp) ?_
  refine AllReadyH.cons rfl (fun K hK => ?_) AllReadyH.nil
  refine step_run (by rfl) (exec_convert _ _ _ (by rfl) (by simp [Act.eval]) hcvt) ?_
  refine hK.out _ _ hS9 (fun hHeld => ?_)
  clear hK K
  try simp only [List.getElem_toArray, List.getElem_cons_zero, List.getElem_cons_succ, Act.put, List.setIfInBounds_toArray, List.set_cons_zero, List.set_cons_succ]
  refine wpAnyH_ready (rs := [14]) (by kernel_rfl) (by simp) ?_
  refine AllReadyH.cons rfl (fun K hK => ?_) AllReadyH.nil
  go_simp
  refine a5.out.mono ?_; rintro e w' ⟨rfl, hg10⟩; have hS10 := hcell.out _ (gt hg89.out hg10); try dsimp only
  refine hK.out _ _ hS10 (fun hHeld => ?_)
  clear hK K
  try simp only [List.getElem_toArray, List.getElem_cons_zero, List.getElem_cons_succ, Act.put, List.setIfInBounds_toArray, List.set_cons_zero, List.set_cons_succ]
  refine wpAnyH_take (i := 16) (v := ?_) rfl (by kernel_rfl) (by kernel_rfl) (by kernel_rfl) (fun _ _ _ h => h) (Or.inl ⟨by rfl, ?_⟩) (by assumption) ?_; rotate_left
  · (intro w hSw; (try dsimp only at hSw); go_simp; try with_reducible rfl)
  try simp only [List.getElem_toArray, List.getElem_cons_zero, List.getElem_cons_succ, Act.put, List.setIfInBounds_toArray, List.set_cons_zero, List.set_cons_succ]
  refine wpAnyH_take (i := 17) (v := ?_) rfl (by kernel_rfl) (by kernel_rfl) (by kernel_rfl) (fun _ _ _ h => h) (Or.inl ⟨by rfl, ?_⟩) (by assumption) ?_; rotate_left
  · (intro w hSw; (try dsimp only at hSw); go_simp; try with_reducible rfl)
  try simp only [List.getElem_toArray, List.getElem_cons_zero, List.getElem_cons_succ, Act.put, List.setIfInBounds_toArray, List.set_cons_zero, List.set_cons_succ]
  refine wpAnyH_take (i := 18) (v := ?_) rfl (by kernel_rfl) (by kernel_rfl) (by kernel_rfl) (fun _ _ _ h => h) (Or.inl ⟨by rfl, ?_⟩) (by assumption) ?_; rotate_left
  · (intro w hSw; (try dsimp only at hSw); go_simp; try with_reducible rfl)
  try simp only [List.getElem_toArray, List.getElem_cons_zero, List.getElem_cons_succ, Act.put, List.setIfInBounds_toArray, List.set_cons_zero, List.set_cons_succ]
  refine wpAnyH_take (i := 19) (v := ?_) rfl (by kernel_rfl) (by kernel_rfl) (by kernel_rfl) (fun _ _ _ h => h) (Or.inl ⟨by rfl, ?_⟩) (by assumption) ?_; rotate_left
  · (intro w hSw; (try dsimp only at hSw); go_simp; try with_reducible rfl)
  try simp only [List.getElem_toArray, List.getElem_cons_zero, List.getElem_cons_succ, Act.put, List.setIfInBounds_toArray, List.set_cons_zero, List.set_cons_succ]
  refine wpAnyH_take (i := 20) (v := ?_) rfl (by kernel_rfl) (by kernel_rfl) (by kernel_rfl) (fun _ _ _ h => h) (Or.inl ⟨by rfl, ?_⟩) (by assumption) ?_; rotate_left
  · (intro w hSw; (try dsimp only at hSw); go_simp; try with_reducible rfl)
  try simp only [List.getElem_toArray, List.getElem_cons_zero, List.getElem_cons_succ, Act.put, List.setIfInBounds_toArray, List.set_cons_zero, List.set_cons_succ]
  refine wpAnyH_take (i := 21) (v := ?_) rfl (by kernel_rfl) (by kernel_rfl) (by kernel_rfl) (fun _ _ _ h => h) (Or.inl ⟨by rfl, ?_⟩) (by assumption) ?_; rotate_left
  · (intro w hSw; (try dsimp only at hSw); go_simp; try with_reducible rfl)
  try simp only [List.getElem_toArray, List.getElem_cons_zero, List.getElem_cons_succ, Act.put, List.setIfInBounds_toArray, List.set_cons_zero, List.set_cons_succ]
  refine wpAnyH_take (i := 22) (v := undef) rfl (by kernel_rfl) (by kernel_rfl) (by kernel_rfl) (fun _ _ _ h => h) (Or.inr ⟨by rfl, rfl⟩) (by assumption) ?_
  try simp only [List.getElem_toArray, List.getElem_cons_zero, List.getElem_cons_succ, Act.put, List.setIfInBounds_toArray, List.set_cons_zero, List.set_cons_succ]
  refine wpAnyH_take (i := 23) (v := undef) rfl (by kernel_rfl) (by kernel_rfl) (by kernel_rfl) (fun _ _ _ h => h) (Or.inr ⟨by rfl, rfl⟩) (by assumption) ?_
  try simp only [List.getElem_toArray, List.getElem_cons_zero, List.getElem_cons_succ, Act.put, List.setIfInBounds_toArray, List.set_cons_zero, List.set_cons_succ]
  refine wpAnyH_take (i := 24) (v := undef) rfl (by kernel_rfl) (by kernel_rfl) (by kernel_rfl) (fun _ _ _ h => h) (Or.inr ⟨by rfl, rfl⟩) (by assumption) ?_
  try simp only [List.getElem_toArray, List.getElem_cons_zero, List.getElem_cons_succ, Act.put, List.setIfInBounds_toArray, List.set_cons_zero, List.set_cons_succ]
  refine wpAnyH_take (i := 25) (v := undef) rfl (by kernel_rfl) (by kernel_rfl) (by kernel_rfl) (fun _ _ _ h => h) (Or.inr ⟨by rfl, rfl⟩) (by assumption) ?_
  try simp only [List.getElem_toArray, List.getElem_cons_zero, List.getElem_cons_succ, Act.put, List.setIfInBounds_toArray, List.set_cons_zero, List.set_cons_succ]
  refine wpAnyH_take (i := 26) (v := ?_) rfl (by kernel_rfl) (by kernel_rfl) (by kernel_rfl) (fun _ _ _ h => h) (Or.inl ⟨by rfl, ?_⟩) (by assumption) ?_; rotate_left
  · (intro w hSw; (try dsimp only at hSw); go_simp; try with_reducible rfl)
  try simp only [List.getElem_toArray, List.getElem_cons_zero, List.getElem_cons_succ, Act.put, List.setIfInBounds_toArray, List.set_cons_zero, List.set_cons_succ]
  refine wpAnyH_take (i := 27) (v := ?_) rfl (by kernel_rfl) (by kernel_rfl) (by kernel_rfl) (fun _ _ _ h => h) (Or.inl ⟨by rfl, ?_⟩) (by assumption) ?_; rotate_left
  · (intro w hSw; (try dsimp only at hSw); go_simp; try with_reducible rfl)
  try simp only [List.getElem_toArray, List.getElem_cons_zero, List.getElem_cons_succ, Act.put, List.setIfInBounds_toArray, List.set_cons_zero, List.set_cons_succ]
  refine wpAnyH_take (i := 28) (v := ?_) rfl (by kernel_rfl) (by kernel_rfl) (by kernel_rfl) (fun _ _ _ h => h) (Or.inl ⟨by rfl, ?_⟩) (by assumption) ?_; rotate_left
  · (intro w hSw; (try dsimp only at hSw); go_simp; try with_reducible rfl)
  try simp only [List.getElem_toArray, List.getElem_cons_zero, List.getElem_cons_succ, Act.put, List.setIfInBounds_toArray, List.set_cons_zero, List.set_cons_succ]
  refine wpAnyH_done (by kernel_rfl) ?_ _
  go_wp2
  go_ret
  exact ⟨rfl, gt (gt hGw8.out hg89.out) hg10⟩
theorem bytes_walk {P : World → Prop} (C : Con P) (c : UInt8) (w : World) (hw : P w) : Calls Try.prog 8 #[.int .u8 (c.toNat : Int)] w fun e w' => e = .returned (.bool true) ∧ w.grownBy w' none := by
  have hc : c.toNat < 256 := c.toNat_lt
  obtain ⟨n, hn⟩ : ∃ n, vsR c.toNat = n := ⟨_, rfl⟩
  have hn5 : n ≤ 65535 := by rw [← hn]; exact vsR_le _ hc
  have hge := ge_byte c
  rw [hn] at hge
  unfold gtV at hge
  by_cases h9 : n = 65533
  · rw [if_pos h9] at hge
    refine bytes_ill C c hge ?_ w hw
    by_cases h : c.toNat < 128
    · rw [vsR, if_pos h] at hn
      omega
    · omega
  · rw [if_neg h9, if_pos rfl] at hge
    obtain ⟨x, hx, hx2, hxn⟩ := onR_vs hc hn h9
    have hge2 := ge_byte (b8 x)
    rw [b8_toNat hx2, hxn] at hge2
    unfold gtV at hge2
    rw [if_neg h9, if_pos rfl] at hge2
    by_cases hh : hoR (n : Int) = true
    · rw [if_pos hh] at hge hge2
      have hD : drT 0 0 0 (n : Int) = ((n : Int), true) := by
        have hf : fitR 0 0 0 (n : Int) = true := by unfold fitR; rw [hh]; simp
        have hz : ¬ (n : Int) = 0 := fun e => by
          have : hoR 0 = false := by decide +kernel
          rw [e, this] at hh
          cases hh
        rw [drT, if_pos ⟨hf, hz⟩]
      by_cases h : c.toNat < 128
      · have hl : c.toNat = n := by rw [← hn, vsR, if_pos h]
        exact bytes_held_low C c n x hn5 hge hl h hx hge2 hD w hw
      · exact bytes_held C c n x hn5 hge (by omega) hx hge2 hD w hw
    · rw [if_neg hh] at hge hge2
      by_cases h : c.toNat < 128
      · have hl : c.toNat = n := by rw [← hn, vsR, if_pos h]
        exact bytes_one_low C c n x hn5 hge hl h hx hge2 w hw
      · exact bytes_one C c n x hn5 hge (by omega) hx hge2 w hw
end Go.Proofs.Ytfehmbicolllkaa.C13

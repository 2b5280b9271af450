/- The document's Set of layer 13: walks. -/
import Derived.Test.YtfehmbicolllkaaVQ13
namespace Go.Proofs.Ytfehmbicolllkaa.C13
open Go.ChangeShapes Go.WideShapes Go.ChangeAt Go.RowKit Go.Proofs.Ytfehmbicolllkaa.Mem
set_option linter.unusedVariables false
set_option linter.unusedSimpArgs false

abbrev vpV (e : Int) (s : ByteArray) : Value := .agg #[.int .i64 e, .string s, .int .i64 0, .int .i64 0, .int .u32 0, .int .i32 0]
def b8 (b : Nat) : UInt8 := UInt8.ofNat b
theorem b8_nat {b : Nat} (h : b < 256) : ((b8 b).toNat : Int) = (b : Int) := by unfold b8; rw [UInt8.toNat_ofNat', Nat.mod_eq_of_lt h]
theorem onR_lt {u : Int} {b : Nat} (h : onR u = some b) : b < 256 := by
  unfold onR at h
  split at h
  · cases h
  · have := List.mem_of_find?_eq_some h
    simpa using this
/-- What Set answers: bytes, or none. -/
def seR (u : Int) : Option (List UInt8) := match onR u with
  | some b => some [b8 b]
  | none => match spR u with
    | some (l, m) => match onR (l : Int), onR (m : Int) with
      | some x, some y => some [b8 x, b8 y]
      | _, _ => none
    | none => none
theorem conv_one {b : Nat} (hb : b < 256) (w : World) : (convert 30 9 (.slice (some ⟨w.heap.size, 0, none⟩) 1 1)).run Try.prog (w.alloc (.cells #[.int .u8 (b : Int)] 5)) = .ok (.string (str [b8 b])) (w.alloc (.cells #[.int .u8 (b : Int)] 5)) := by
  have hB : Bytes (w.alloc (.cells #[.int .u8 (b : Int)] 5)) (some ⟨w.heap.size, 0, none⟩) [b8 b] := .inr ⟨_, rfl, fun j hj => by
    simp at hj
    subst hj
    rw [addr_add]
    refine cell_at (heap_alloc_new w _) 0 ?_
    simp [b8_nat hb]⟩
  exact conv hB 30 9 1 Try.underlying30 Try.underlying5 Try.underlying9
theorem conv_two {x y : Nat} (hx : x < 256) (hy : y < 256) (w : World) : (convert 30 9 (.slice (some ⟨w.heap.size, 0, none⟩) 2 2)).run Try.prog (w.alloc (.cells #[.int .u8 (x : Int), .int .u8 (y : Int)] 5)) = .ok (.string (str [b8 x, b8 y])) (w.alloc (.cells #[.int .u8 (x : Int), .int .u8 (y : Int)] 5)) := by
  have hB : Bytes (w.alloc (.cells #[.int .u8 (x : Int), .int .u8 (y : Int)] 5)) (some ⟨w.heap.size, 0, none⟩) [b8 x, b8 y] := .inr ⟨_, rfl, fun j hj => by
    have hj2 : j < 2 := hj
    rw [addr_add]
    match j, hj2 with
    | 0, _ => refine cell_at (heap_alloc_new w _) 0 ?_; simp [b8_nat hx]
    | 1, _ => refine cell_at (heap_alloc_new w _) 1 ?_; simp [b8_nat hy]⟩
  exact conv hB 30 9 2 Try.underlying30 Try.underlying5 Try.underlying9
theorem one_some (u : Int) (b : Nat) (h : Hid (onR u = some b)) (w : World) : Calls Try.prog 34 #[.int .i32 u] w fun e w' => e = .returned (.int .i64 (b : Int)) ∧ w.grownBy w' none := one_any u w (some b) h
theorem one_none (u : Int) (h : Hid (onR u = none)) (w : World) : Calls Try.prog 34 #[.int .i32 u] w fun e w' => e = .returned (.int .i64 (-1)) ∧ w.grownBy w' none := one_any u w none h
/-- Where the step that writes stands: its result's block. -/
structure SW (w wx : World) : Prop where
  g : w.grownBy wx none
  res : wx.heap[w.heap.size]? = some (.cells #[.int .i64 0, .string ⟨#[]⟩, .int .i64 0, .int .i64 0, .int .u32 0, .int .i32 0] 39 (0, 0))
theorem SW.next {w wx wy : World} (h : SW w wx) (hg : wx.grownBy wy none) : SW w wy := ⟨grownBy_trans h.g hg, blk_kept h.res hg⟩
theorem SW.mk0 (w : World) : SW w (w.alloc (.cells #[.int .i64 0, .string ⟨#[]⟩, .int .i64 0, .int .i64 0, .int .u32 0, .int .i32 0] 39)) := ⟨World.grownBy_alloc _ _ _, heap_alloc_new w _⟩
theorem SW.cells {w wx : World} (h : SW w wx) : (wx.cell? ⟨w.heap.size, 0, none⟩ = some (.int .i64 0) ∧ wx.cell? ⟨w.heap.size, 1, none⟩ = some (.string ⟨#[]⟩) ∧ wx.cell? ⟨w.heap.size, 2, none⟩ = some (.int .i64 0) ∧ wx.cell? ⟨w.heap.size, 3, none⟩ = some (.int .i64 0) ∧ wx.cell? ⟨w.heap.size, 4, none⟩ = some (.int .u32 0) ∧ wx.cell? ⟨w.heap.size, 5, none⟩ = some (.int .i32 0)) ∧ (∀ i, wx.frozen? ⟨w.heap.size, i, none⟩ = false) ∧ w.heap.size < wx.heap.size :=
  ⟨⟨cell_at h.res 0 rfl, cell_at h.res 1 rfl, cell_at h.res 2 rfl, cell_at h.res 3 rfl, cell_at h.res 4 rfl, cell_at h.res 5 rfl⟩, froz_at h.res, lt_of_block h.res⟩
set_option maxRecDepth 100000 in
set_option maxHeartbeats 1000000 in
theorem set_1 (u : Int) (b : Nat) (h1 : Hid (onR u = some b)) (w : World) : Calls Try.prog 20 #[.int .i32 u] w fun e w' => e = .returned (vpV 0 (str [b8 b])) ∧ w.grownBy w' none := by
  have hb := onR_lt h1.out
  have hb' : (b : Int) < 256 := by omega
  go_enter Try.func20, Try.ntmps20
  go_wp2_with (go_at_call 34; refine (one_some u b h1 _).mono ?_; rintro e w1 ⟨rfl, hg1⟩; have sb1 := Hid.mk' ((SW.mk0 w).next hg1); obtain ⟨⟨r0, r1, r2, r3, r4, r5⟩, fr, z1⟩ := sb1.out.cells; have hcv := conv_one hb w1)
  refine bodyPost_ret (v := vpV 0 (str [b8 b])) (by simp [results, Try.results20, go_sem, r0, r1, r2, r3, r4, r5, z1, Nat.ne_of_lt z1, (Nat.ne_of_lt z1).symm]) rfl ⟨rfl, ?_⟩
  (repeat (first | with_reducible exact grownBy_refl _ _ | (with_reducible refine gs ?_ ?_; first | omega | (simp; omega)) | with_reducible refine ga ?_ | with_reducible refine gd ?_ | with_reducible refine gdn ?_ | with_reducible refine gt ?_ (by assumption)))
set_option maxRecDepth 100000 in
set_option maxHeartbeats 1000000 in
theorem set_0 (u : Int) (h1 : Hid (onR u = none)) (h2 : Hid (spR u = none)) (w : World) : Calls Try.prog 20 #[.int .i32 u] w fun e w' => e = .returned (vpV 11 ⟨#[]⟩) ∧ w.grownBy w' none := by
  go_enter Try.func20, Try.ntmps20
  go_wp2_with (first
    | (go_at_call 34; refine (one_none u h1 _).mono ?_; rintro e w1 ⟨rfl, hg1⟩; have sb1 := Hid.mk' ((SW.mk0 w).next hg1); obtain ⟨⟨r0, r1, r2, r3, r4, r5⟩, fr, z1⟩ := sb1.out.cells)
    | (go_at_call 12; refine (split_any u _ none h2).mono ?_; rintro e w2 ⟨rfl, hg2⟩; clear r0 r1 r2 r3 r4 r5 fr z1; have sb2 := Hid.mk' (sb1.out.next hg2); obtain ⟨⟨r0, r1, r2, r3, r4, r5⟩, fr, z1⟩ := sb2.out.cells))
  refine bodyPost_ret (v := vpV 11 ⟨#[]⟩) (by simp [results, Try.results20, go_sem, r0, r1, r2, r3, r4, r5, z1, Nat.ne_of_lt z1, (Nat.ne_of_lt z1).symm]) rfl ⟨rfl, ?_⟩
  (repeat (first | with_reducible exact grownBy_refl _ _ | (with_reducible refine gs ?_ ?_; first | omega | (simp; omega)) | with_reducible refine ga ?_ | with_reducible refine gd ?_ | with_reducible refine gdn ?_ | with_reducible refine gt ?_ (by assumption)))
set_option maxRecDepth 100000 in
set_option maxHeartbeats 1000000 in
theorem set_l (u : Int) (h1 : Hid (onR u = none)) (l m : Nat) (h2 : Hid (spR u = some (l, m))) (h3 : Hid (onR (l : Int) = none)) (w : World) : Calls Try.prog 20 #[.int .i32 u] w fun e w' => e = .returned (vpV 11 ⟨#[]⟩) ∧ w.grownBy w' none := by
  go_enter Try.func20, Try.ntmps20
  go_upto_region 5 with (first
    | (go_at_call 34; refine (one_none u h1 _).mono ?_; rintro e w1 ⟨rfl, hg1⟩; have sb1 := Hid.mk' ((SW.mk0 w).next hg1); obtain ⟨⟨r0, r1, r2, r3, r4, r5⟩, fr, z1⟩ := sb1.out.cells)
    | (go_at_call 12; refine (split_any u _ (some (l, m)) h2).mono ?_; rintro e w2 ⟨rfl, hg2⟩; clear r0 r1 r2 r3 r4 r5 fr z1; have sb2 := Hid.mk' (sb1.out.next hg2); obtain ⟨⟨r0, r1, r2, r3, r4, r5⟩, fr, z1⟩ := sb2.out.cells))
  go_wp2_with (go_at_call 34; refine (one_none (l : Int) h3 _).mono ?_; rintro e w3 ⟨rfl, hg3⟩; clear r0 r1 r2 r3 r4 r5 fr z1; have sb3 := Hid.mk' (sb2.out.next hg3); obtain ⟨⟨r0, r1, r2, r3, r4, r5⟩, fr, z1⟩ := sb3.out.cells)
  refine bodyPost_ret (v := vpV 11 ⟨#[]⟩) (by simp [results, Try.results20, go_sem, r0, r1, r2, r3, r4, r5, z1, Nat.ne_of_lt z1, (Nat.ne_of_lt z1).symm]) rfl ⟨rfl, ?_⟩
  (repeat (first | with_reducible exact grownBy_refl _ _ | (with_reducible refine gs ?_ ?_; first | omega | (simp; omega)) | with_reducible refine ga ?_ | with_reducible refine gd ?_ | with_reducible refine gdn ?_ | with_reducible refine gt ?_ (by assumption)))
set_option maxRecDepth 100000 in
set_option maxHeartbeats 1000000 in
theorem set_m (u : Int) (h1 : Hid (onR u = none)) (l m : Nat) (h2 : Hid (spR u = some (l, m))) (x : Nat) (h3 : Hid (onR (l : Int) = some x)) (h4 : Hid (onR (m : Int) = none)) (w : World) : Calls Try.prog 20 #[.int .i32 u] w fun e w' => e = .returned (vpV 11 ⟨#[]⟩) ∧ w.grownBy w' none := by
  obtain ⟨L, hL⟩ : ∃ L : Int, (l : Int) = L := ⟨_, rfl⟩
  obtain ⟨M, hM⟩ : ∃ M : Int, (m : Int) = M := ⟨_, rfl⟩
  have a2 : Hid (∀ w, Calls Try.prog 12 #[.int .i32 u] w fun e w' => e = .returned (.tuple #[.int .i32 L, .int .i32 M, .bool true]) ∧ w.grownBy w' none) := Hid.mk' (fun w => by
    have := split_any u w (some (l, m)) h2
    simp only [spT, hL, hM] at this
    exact this)
  rw [hL] at h3
  rw [hM] at h4
  clear hL hM h2
  go_enter Try.func20, Try.ntmps20
  go_upto_region 5 with (first
    | (go_at_call 34; refine (one_none u h1 _).mono ?_; rintro e w1 ⟨rfl, hg1⟩; have sb1 := Hid.mk' ((SW.mk0 w).next hg1); obtain ⟨⟨r0, r1, r2, r3, r4, r5⟩, fr, z1⟩ := sb1.out.cells)
    | (go_at_call 12; refine (a2.out _).mono ?_; rintro e w2 ⟨rfl, hg2⟩; clear r0 r1 r2 r3 r4 r5 fr z1; have sb2 := Hid.mk' (sb1.out.next hg2); obtain ⟨⟨r0, r1, r2, r3, r4, r5⟩, fr, z1⟩ := sb2.out.cells))
  go_wp2_with (first
    | (go_at_call_of 34 (Value.int IntKind.i32 L); refine (one_some L x h3 _).mono ?_; rintro e w3 ⟨rfl, hg3⟩; clear r0 r1 r2 r3 r4 r5 fr z1; have sb3 := Hid.mk' (sb2.out.next hg3); obtain ⟨⟨r0, r1, r2, r3, r4, r5⟩, fr, z1⟩ := sb3.out.cells)
    | (go_at_call_of 34 (Value.int IntKind.i32 M); refine (one_none M h4 _).mono ?_; rintro e w4 ⟨rfl, hg4⟩; clear r0 r1 r2 r3 r4 r5 fr z1; have sb4 := Hid.mk' (sb3.out.next hg4); obtain ⟨⟨r0, r1, r2, r3, r4, r5⟩, fr, z1⟩ := sb4.out.cells))
  refine bodyPost_ret (v := vpV 11 ⟨#[]⟩) (by simp [results, Try.results20, go_sem, r0, r1, r2, r3, r4, r5, z1, Nat.ne_of_lt z1, (Nat.ne_of_lt z1).symm]) rfl ⟨rfl, ?_⟩
  (repeat (first | with_reducible exact grownBy_refl _ _ | (with_reducible refine gs ?_ ?_; first | omega | (simp; omega)) | with_reducible refine ga ?_ | with_reducible refine gd ?_ | with_reducible refine gdn ?_ | with_reducible refine gt ?_ (by assumption)))
set_option maxRecDepth 100000 in
set_option maxHeartbeats 1000000 in
theorem set_2 (u : Int) (h1 : Hid (onR u = none)) (l m : Nat) (h2 : Hid (spR u = some (l, m))) (x y : Nat) (h3 : Hid (onR (l : Int) = some x)) (h4 : Hid (onR (m : Int) = some y)) (w : World) : Calls Try.prog 20 #[.int .i32 u] w fun e w' => e = .returned (vpV 0 (str [b8 x, b8 y])) ∧ w.grownBy w' none := by
  have hx := onR_lt h3.out
  have hy := onR_lt h4.out
  have hx' : (x : Int) < 256 := by omega
  have hy' : (y : Int) < 256 := by omega
  obtain ⟨L, hL⟩ : ∃ L : Int, (l : Int) = L := ⟨_, rfl⟩
  obtain ⟨M, hM⟩ : ∃ M : Int, (m : Int) = M := ⟨_, rfl⟩
  have a2 : Hid (∀ w, Calls Try.prog 12 #[.int .i32 u] w fun e w' => e = .returned (.tuple #[.int .i32 L, .int .i32 M, .bool true]) ∧ w.grownBy w' none) := Hid.mk' (fun w => by
    have := split_any u w (some (l, m)) h2
    simp only [spT, hL, hM] at this
    exact this)
  rw [hL] at h3
  rw [hM] at h4
  clear hL hM h2
  go_enter Try.func20, Try.ntmps20
  go_upto_region 5 with (first
    | (go_at_call 34; refine (one_none u h1 _).mono ?_; rintro e w1 ⟨rfl, hg1⟩; have sb1 := Hid.mk' ((SW.mk0 w).next hg1); obtain ⟨⟨r0, r1, r2, r3, r4, r5⟩, fr, z1⟩ := sb1.out.cells)
    | (go_at_call 12; refine (a2.out _).mono ?_; rintro e w2 ⟨rfl, hg2⟩; clear r0 r1 r2 r3 r4 r5 fr z1; have sb2 := Hid.mk' (sb1.out.next hg2); obtain ⟨⟨r0, r1, r2, r3, r4, r5⟩, fr, z1⟩ := sb2.out.cells))
  go_upto_region 6 with (first
    | (go_at_call_of 34 (Value.int IntKind.i32 L); refine (one_some L x h3 _).mono ?_; rintro e w3 ⟨rfl, hg3⟩; clear r0 r1 r2 r3 r4 r5 fr z1; have sb3 := Hid.mk' (sb2.out.next hg3); obtain ⟨⟨r0, r1, r2, r3, r4, r5⟩, fr, z1⟩ := sb3.out.cells)
    | (go_at_call_of 34 (Value.int IntKind.i32 M); refine (one_some M y h4 _).mono ?_; rintro e w4 ⟨rfl, hg4⟩; clear r0 r1 r2 r3 r4 r5 fr z1; have sb4 := Hid.mk' (sb3.out.next hg4); obtain ⟨⟨r0, r1, r2, r3, r4, r5⟩, fr, z1⟩ := sb4.out.cells))
  go_wp2_with (first
    | (go_at_call_of 34 (Value.int IntKind.i32 L); refine (one_some L x h3 _).mono ?_; rintro e w5 ⟨rfl, hg5⟩; clear r0 r1 r2 r3 r4 r5 fr z1; have sb5 := Hid.mk' (sb4.out.next hg5); obtain ⟨⟨r0, r1, r2, r3, r4, r5⟩, fr, z1⟩ := sb5.out.cells)
    | (go_at_call_of 34 (Value.int IntKind.i32 M); refine (one_some M y h4 _).mono ?_; rintro e w6 ⟨rfl, hg6⟩; clear r0 r1 r2 r3 r4 r5 fr z1; have sb6 := Hid.mk' (sb5.out.next hg6); obtain ⟨⟨r0, r1, r2, r3, r4, r5⟩, fr, z1⟩ := sb6.out.cells; have hcv := conv_two hx hy w6))
  refine bodyPost_ret (v := vpV 0 (str [b8 x, b8 y])) (by simp [results, Try.results20, go_sem, r0, r1, r2, r3, r4, r5, z1, Nat.ne_of_lt z1, (Nat.ne_of_lt z1).symm]) rfl ⟨rfl, ?_⟩
  (repeat (first | with_reducible exact grownBy_refl _ _ | (with_reducible refine gs ?_ ?_; first | omega | (simp; omega)) | with_reducible refine ga ?_ | with_reducible refine gd ?_ | with_reducible refine gdn ?_ | with_reducible refine gt ?_ (by assumption)))
end Go.Proofs.Ytfehmbicolllkaa.C13

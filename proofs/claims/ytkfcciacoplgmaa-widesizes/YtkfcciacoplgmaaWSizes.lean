/- How many bytes a scalar has: a walk. -/
import Derived.Test.YtkfcciacoplgmaaWorks
import Derived.Below
import Derived.Deep.RegionHeld3
import Derived.BigQuiet
namespace Go.Proofs.Ytkfcciacoplgmaa.Wd
open Go.ChangeShapes Go.WideShapes Go.ChangeAt Go.RowKit Go.Proofs.Ytkfcciacoplgmaa.Mem Go.Proofs.Ytkfcciacoplgmaa.Ucs
set_option linter.unusedVariables false
set_option linter.unusedSimpArgs false

theorem scalarR_lit (u : Int) (w : World) (t : Bool) (ht : scB u = t) : Calls Try.prog 16 #[.int .i32 u] w fun e w' => e = .returned (.bool t) ∧ w' = w := by
  subst ht; exact scalar_ref u w
theorem below_of {w w' : World} (h : w.grownBy w' none) : Below w.heap.size w w' := (Below.refl _ w).grown h (Nat.le_refl _) (by simp)
theorem bytesR_small (p low : Bool) (n x : Nat) (hs : scB (x : Int) = true) (h : n = 4 ∨ x ≤ 65535) : bytesR p low n (x : Int) = some (unitB low n x) := by
  unfold bytesR
  rw [if_neg (by rw [hs]; simp), if_pos (by omega), Int.toNat_natCast]
theorem bytesR_large (low : Bool) (x : Nat) (hs : scB (x : Int) = true) (h : 65535 < x) : ∃ B, bytesR true low 2 (x : Int) = some B ∧ B.length = 4 := by
  unfold bytesR
  rw [if_neg (by rw [hs]; simp), if_neg (by omega), if_pos rfl]
  exact ⟨_, rfl, by rw [List.length_append, unitB_length, unitB_length]⟩
theorem bytesR_out (low : Bool) (x : Nat) (h : 65535 < x) : bytesR false low 2 (x : Int) = none := by
  unfold bytesR
  by_cases hs : scB (x : Int) = false
  · rw [if_pos hs]
  · rw [if_neg hs, if_neg (by omega)]; simp
theorem setR_some {k : Int} {n : Nat} {p m low : Bool} (hf : fm k = some (n, p, m, low)) {u : Int} {B : List UInt8} (hb : bytesR p low n u = some B) (hm : m = false) : setR k 0 0 0 0 u = ⟨0, B, 0⟩ := by
  subst hm
  have hf0 : fitB false 0 0 0 0 = true := by decide
  simp only [setR, hf, hf0]
  simp [hb]
theorem setR_mark {k : Int} {n : Nat} {p m low : Bool} (hf : fm k = some (n, p, m, low)) {u : Int} {B : List UInt8} (hb : bytesR p low n u = some B) (hm : m = true) : setR k 0 0 0 0 u = ⟨0, unitB low n 65279 ++ B, 1⟩ := by
  subst hm
  have hf0 : fitB true 0 0 0 0 = true := by decide
  simp only [setR, hf, hf0]
  simp [hb]
theorem setR_none {k : Int} {n : Nat} {p m low : Bool} (hf : fm k = some (n, p, m, low)) {u : Int} (hb : bytesR p low n u = none) : setR k 0 0 0 0 u = ⟨11, [], 0⟩ := by
  have hf0 : fitB m 0 0 0 0 = true := by cases m <;> decide
  simp only [setR, hf, hf0]
  simp [hb]
theorem size_of (k u : Int) (B : List UInt8) (d : Int) (h : setR k 0 0 0 0 u = ⟨0, B, d⟩) (n : Nat) (hn : B.length = n) : ∃ (L : List UInt8) (s : ByteArray), Hid (setR k 0 0 0 0 u = ⟨0, L, d⟩) ∧ Hid (str L = s) ∧ s.size = n :=
  ⟨B, str B, h, (rfl : str B = str B), by rw [str_size]; exact hn⟩

set_option maxRecDepth 100000 in
set_option maxHeartbeats 4000000 in
theorem sizes_walk (u : Int) (w : World) : Calls Try.prog 8 #[.int .i32 u] w fun e w' => e = .returned (.bool true) ∧ Below w.heap.size w w' := by
  by_cases hs0 : scB u = true
  · have hb := scB_iff.1 hs0
    obtain ⟨x, rfl⟩ := Int.eq_ofNat_of_zero_le hb.1
    have hs : Hid (scB (x : Int) = true) := hs0
    obtain ⟨B6, s6, r6, h6, z6⟩ := (size_of 6 (x : Int) _ 0 (setR_some (k := 6) rfl (bytesR_small _ _ _ x hs0 (by omega)) rfl) _ (unitB_length _ _ _))
    by_cases c : x ≤ 65535
    · obtain ⟨B10, s10, r10, h10, z10⟩ := (size_of 10 (x : Int) _ 0 (setR_some (k := 10) rfl (bytesR_small _ _ _ x hs0 (by omega)) rfl) _ (unitB_length _ _ _))
      obtain ⟨B3, s3, r3, h3, z3⟩ := (size_of 3 (x : Int) _ 0 (setR_some (k := 3) rfl (bytesR_small _ _ _ x hs0 (by omega)) rfl) _ (unitB_length _ _ _))
      obtain ⟨B4, s4, r4, h4, z4⟩ := (size_of 4 (x : Int) _ 0 (setR_some (k := 4) rfl (bytesR_small _ _ _ x hs0 (by omega)) rfl) _ (unitB_length _ _ _))
      obtain ⟨B5, s5, r5, h5, z5⟩ := (size_of 5 (x : Int) _ 1 (setR_mark (k := 5) rfl (bytesR_small _ _ _ x hs0 (by omega)) rfl) 4 (by rw [List.length_append, unitB_length, unitB_length]))
      have pe := put_err
      have pbs := put_bytes
      clear hb hs0
      go_enter Try.func8, Try.ntmps8
      go_wp2_with (first | (go_at_call 15; refine (works_any _).mono ?_; rintro e w1 ⟨rfl, hg1⟩) | (go_at_call 16; refine (scalarR_lit _ _ true hs.out).mono ?_; rintro e wq ⟨rfl, hw⟩; obtain rfl := hw) | (go_at_call_of 13 (Value.int IntKind.i64 10); refine (set_lit _ _ _ _ _ _ _ 0 B10 0 r10.out s10 h10.out).mono ?_; rintro e w2 ⟨rfl, hg2⟩) | (go_at_call_of 13 (Value.int IntKind.i64 3); refine (set_lit _ _ _ _ _ _ _ 0 B3 0 r3.out s3 h3.out).mono ?_; rintro e w3 ⟨rfl, hg3⟩; have pb3 := Hid.mk' (blk_kept (heap_alloc_new w2 (.cells #[.int .i64 0, .string s10, .int .i64 0, .int .i64 0, .int .u32 0, .int .i32 0] 33)) hg3)) | (go_at_call_of 13 (Value.int IntKind.i64 4); refine (set_lit _ _ _ _ _ _ _ 0 B4 0 r4.out s4 h4.out).mono ?_; rintro e w4 ⟨rfl, hg4⟩; have pb4 := Hid.mk' (blk_kept pb3.out hg4)) | (go_at_call_of 13 (Value.int IntKind.i64 6); refine (set_lit _ _ _ _ _ _ _ 0 B6 0 r6.out s6 h6.out).mono ?_; rintro e w5 ⟨rfl, hg5⟩; have pb5 := Hid.mk' (blk_kept pb4.out hg5)) | (go_at_call_of 13 (Value.int IntKind.i64 5); refine (set_lit _ _ _ _ _ _ _ 0 B5 1 r5.out s5 h5.out).mono ?_; rintro e w6 ⟨rfl, hg6⟩; have pb := blk_kept pb5.out hg6; have r0 := cell_at pb 0 rfl; have r1 := cell_at pb 1 rfl; have r2 := cell_at pb 2 rfl; have r3 := cell_at pb 3 rfl; have r4 := cell_at pb 4 rfl; have r5 := cell_at pb 5 rfl; have fz := froz_at pb; clear pb))
      go_ret
      refine ⟨rfl, below_of ?_⟩
      (repeat (first | with_reducible exact grownBy_refl _ _ | (with_reducible refine gs ?_ ?_; first | omega | (simp; omega)) | with_reducible refine ga ?_ | with_reducible refine gd ?_ | with_reducible refine gdn ?_ | with_reducible refine gt ?_ (by assumption)))
    · obtain ⟨c3, b3, l3⟩ := bytesR_large false x hs0 (by omega)
      obtain ⟨c4, b4, l4⟩ := bytesR_large true x hs0 (by omega)
      have r10 : Hid (setR 10 0 0 0 0 (x : Int) = ⟨11, [], 0⟩) := setR_none (k := 10) rfl (bytesR_out true x (by omega))
      obtain ⟨B3, s3, r3, h3, z3⟩ := size_of 3 (x : Int) _ 0 (setR_some (k := 3) rfl b3 rfl) 4 l3
      obtain ⟨B4, s4, r4, h4, z4⟩ := size_of 4 (x : Int) _ 0 (setR_some (k := 4) rfl b4 rfl) 4 l4
      obtain ⟨B5, s5, r5, h5, z5⟩ := size_of 5 (x : Int) _ 1 (setR_mark (k := 5) rfl b3 rfl) 6 (by rw [List.length_append, unitB_length, l3])
      have pe := put_err
      have pbs := put_bytes
      clear hb hs0 b3 b4 l3 l4
      have c' : 65535 < x := by omega
      clear c
      go_enter Try.func8, Try.ntmps8
      go_wp2_with (first | (go_at_call 15; refine (works_any _).mono ?_; rintro e w1 ⟨rfl, hg1⟩) | (go_at_call 16; refine (scalarR_lit _ _ true hs.out).mono ?_; rintro e wq ⟨rfl, hw⟩; obtain rfl := hw) | (go_at_call_of 13 (Value.int IntKind.i64 10); refine (set_lit _ _ _ _ _ _ _ 11 [] 0 r10.out ⟨#[]⟩ rfl).mono ?_; rintro e w2 ⟨rfl, hg2⟩) | (go_at_call_of 13 (Value.int IntKind.i64 3); refine (set_lit _ _ _ _ _ _ _ 0 B3 0 r3.out s3 h3.out).mono ?_; rintro e w3 ⟨rfl, hg3⟩; have pb3 := Hid.mk' (blk_kept (heap_alloc_new w2 (.cells #[.int .i64 11, .string ⟨#[]⟩, .int .i64 0, .int .i64 0, .int .u32 0, .int .i32 0] 33)) hg3)) | (go_at_call_of 13 (Value.int IntKind.i64 4); refine (set_lit _ _ _ _ _ _ _ 0 B4 0 r4.out s4 h4.out).mono ?_; rintro e w4 ⟨rfl, hg4⟩; have pb4 := Hid.mk' (blk_kept pb3.out hg4)) | (go_at_call_of 13 (Value.int IntKind.i64 6); refine (set_lit _ _ _ _ _ _ _ 0 B6 0 r6.out s6 h6.out).mono ?_; rintro e w5 ⟨rfl, hg5⟩; have pb5 := Hid.mk' (blk_kept pb4.out hg5)) | (go_at_call_of 13 (Value.int IntKind.i64 5); refine (set_lit _ _ _ _ _ _ _ 0 B5 1 r5.out s5 h5.out).mono ?_; rintro e w6 ⟨rfl, hg6⟩; have pb := blk_kept pb5.out hg6; have r0 := cell_at pb 0 rfl; have r1 := cell_at pb 1 rfl; have r2 := cell_at pb 2 rfl; have r3 := cell_at pb 3 rfl; have r4 := cell_at pb 4 rfl; have r5 := cell_at pb 5 rfl; have fz := froz_at pb; clear pb))
      go_ret
      refine ⟨rfl, below_of ?_⟩
      (repeat (first | with_reducible exact grownBy_refl _ _ | (with_reducible refine gs ?_ ?_; first | omega | (simp; omega)) | with_reducible refine ga ?_ | with_reducible refine gd ?_ | with_reducible refine gdn ?_ | with_reducible refine gt ?_ (by assumption)))
  · have hs : Hid (scB u = false) := (by simpa using hs0 : scB u = false)
    clear hs0
    go_enter Try.func8, Try.ntmps8
    go_wp2_with (first | (go_at_call 15; refine (works_any _).mono ?_; rintro e w1 ⟨rfl, hg1⟩) | (go_at_call 16; refine (scalarR_lit _ _ false hs.out).mono ?_; rintro e wq ⟨rfl, hw⟩; obtain rfl := hw))
    go_ret
    refine ⟨rfl, below_of ?_⟩
    (repeat (first | with_reducible exact grownBy_refl _ _ | (with_reducible refine gs ?_ ?_; first | omega | (simp; omega)) | with_reducible refine ga ?_ | with_reducible refine gd ?_ | with_reducible refine gdn ?_ | with_reducible refine gt ?_ (by assumption)))
end Go.Proofs.Ytkfcciacoplgmaa.Wd

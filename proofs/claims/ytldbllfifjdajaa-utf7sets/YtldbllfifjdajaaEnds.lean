/- What stands ahead of a plain byte, and the end: walks. -/
import Derived.Test.YtldbllfifjdajaaWrites
namespace Go.Proofs.Ytldbllfifjdajaa.Sv
open Go.ChangeShapes Go.WideShapes Go.ChangeAt Go.RowKit Go.Proofs.Ytldbllfifjdajaa.Mem Go.Proofs.Ytldbllfifjdajaa.Ucs
set_option linter.unusedVariables false
set_option linter.unusedSimpArgs false

theorem str_append (A B : List UInt8) : str A ++ str B = str (A ++ B) := by
  apply ByteArray.ext
  simp [str]
theorem last_size {b a : Nat} : (str (lastL b a)).size ≤ 1 := by
  rw [str_size]; unfold lastL; split <;> simp
theorem dLit_ascii : ∀ b ∈ dLit.data.toList, b.toNat < 128 := dig_ascii
/-- What stands ahead of a plain byte within a stretch. -/
def leaveL (b a : Nat) (u : Int) : List UInt8 := lastL b a ++ if u = 45 ∨ hasB digL u = true then [45] else []
theorem leave_yes {b a : Nat} {u : Int} (h : u = 45 ∨ hasB digL u = true) : leaveL b a u = lastL b a ++ [45] := by simp [leaveL, h]
theorem leave_no {b a : Nat} {u : Int} (h : u ≠ 45) (k : hasB digL u = false) : leaveL b a u = lastL b a := by simp [leaveL, h, k]
theorem ret_es {a b : ByteArray} {e : Int} (h : a = b) : Ending.returned (.tuple #[.string a, .int .i64 e]) = .returned (.tuple #[.string b, .int .i64 e]) := by rw [h]

set_option maxRecDepth 100000 in
set_option maxHeartbeats 1000000 in
theorem leave_out (u : Int) (w : World) : Calls Try.prog 14 #[stV 0 0 0 0, .int .i32 u] w fun e w' => e = .returned (.string ⟨#[]⟩) ∧ w.grownBy w' none := by
  go_enter Try.func14, Try.ntmps14
  go_wp2
  go_ret
  refine ⟨rfl, ?_⟩
  (repeat (first | with_reducible exact grownBy_refl _ _ | (with_reducible refine gs ?_ ?_; first | omega | (simp; omega)) | with_reducible refine ga ?_ | with_reducible refine gd ?_ | with_reducible refine gdn ?_ | with_reducible refine gt ?_ (by assumption)))
set_option maxRecDepth 100000 in
set_option maxHeartbeats 1000000 in
theorem leave_dash (b a : Nat) (hb : Hid (b ≤ 5)) (ha : Hid (a < 2 ^ b)) (w : World) : Calls Try.prog 14 #[stV 1 (b : Int) (a : Int) 0, .int .i32 45] w fun e w' => e = .returned (.string (str (lastL b a) ++ ⟨#[45]⟩)) ∧ w.grownBy w' none := by
  have hz := last_size (b := b) (a := a)
  obtain ⟨sL, hL⟩ : ∃ s, Hid (str (lastL b a) = s) := ⟨_, (rfl : str (lastL b a) = str (lastL b a))⟩
  rw [hL.out] at hz ⊢
  go_enter Try.func14, Try.ntmps14
  go_wp2_with (go_at_call 9; refine (last_any b a hb.out ha.out _ sL hL.out).mono ?_; rintro e w1 ⟨rfl, hg1⟩)
  go_ret
  refine ⟨rfl, ?_⟩
  (repeat (first | with_reducible exact grownBy_refl _ _ | (with_reducible refine gs ?_ ?_; first | omega | (simp; omega)) | with_reducible refine ga ?_ | with_reducible refine gd ?_ | with_reducible refine gdn ?_ | with_reducible refine gt ?_ (by assumption)))
set_option maxRecDepth 100000 in
set_option maxHeartbeats 1000000 in
theorem leave_digit (b a : Nat) (hb : Hid (b ≤ 5)) (ha : Hid (a < 2 ^ b)) (u : Int) (hu : (u == 45) = false) (hsc : Hid (scB u = true)) (hd : Hid (hasB digL u = true)) (w : World) : Calls Try.prog 14 #[stV 1 (b : Int) (a : Int) 0, .int .i32 u] w fun e w' => e = .returned (.string (str (lastL b a) ++ ⟨#[45]⟩)) ∧ w.grownBy w' none := by
  have hz := last_size (b := b) (a := a)
  obtain ⟨sL, hL⟩ : ∃ s, Hid (str (lastL b a) = s) := ⟨_, (rfl : str (lastL b a) = str (lastL b a))⟩
  rw [hL.out] at hz ⊢
  go_enter Try.func14, Try.ntmps14
  go_wp2_with (first | (go_at_call 13; refine (contains_any dLit dLit_ascii (by decide) (by decide) u hsc.out _ true hd.out).mono ?_; rintro e w1 ⟨rfl, hg1⟩; have sb := blk_kept (heap_alloc_new w (.cells #[.int .i64 1, .int .i64 (b : Int), .int .u32 (a : Int), .int .i32 0] 24)) hg1; have rs0 := cell_at sb 0 rfl; have rs1 := cell_at sb 1 rfl; have rs2 := cell_at sb 2 rfl; have rs3 := cell_at sb 3 rfl; have fz := froz_at sb) | (go_at_call 9; refine (last_any b a hb.out ha.out _ sL hL.out).mono ?_; rintro e w2 ⟨rfl, hg2⟩))
  go_ret
  refine ⟨rfl, ?_⟩
  (repeat (first | with_reducible exact grownBy_refl _ _ | (with_reducible refine gs ?_ ?_; first | omega | (simp; omega)) | with_reducible refine ga ?_ | with_reducible refine gd ?_ | with_reducible refine gdn ?_ | with_reducible refine gt ?_ (by assumption)))
set_option maxRecDepth 100000 in
set_option maxHeartbeats 1000000 in
theorem leave_bare (b a : Nat) (hb : Hid (b ≤ 5)) (ha : Hid (a < 2 ^ b)) (u : Int) (hu : (u == 45) = false) (hsc : Hid (scB u = true)) (hd : Hid (hasB digL u = false)) (w : World) : Calls Try.prog 14 #[stV 1 (b : Int) (a : Int) 0, .int .i32 u] w fun e w' => e = .returned (.string (str (lastL b a))) ∧ w.grownBy w' none := by
  obtain ⟨sL, hL⟩ : ∃ s, Hid (str (lastL b a) = s) := ⟨_, (rfl : str (lastL b a) = str (lastL b a))⟩
  rw [hL.out]
  go_enter Try.func14, Try.ntmps14
  go_wp2_with (first | (go_at_call 13; refine (contains_any dLit dLit_ascii (by decide) (by decide) u hsc.out _ false hd.out).mono ?_; rintro e w1 ⟨rfl, hg1⟩; have sb := blk_kept (heap_alloc_new w (.cells #[.int .i64 1, .int .i64 (b : Int), .int .u32 (a : Int), .int .i32 0] 24)) hg1; have rs0 := cell_at sb 0 rfl; have rs1 := cell_at sb 1 rfl; have rs2 := cell_at sb 2 rfl; have rs3 := cell_at sb 3 rfl; have fz := froz_at sb) | (go_at_call 9; refine (last_any b a hb.out ha.out _ sL hL.out).mono ?_; rintro e w2 ⟨rfl, hg2⟩))
  go_ret
  refine ⟨rfl, ?_⟩
  (repeat (first | with_reducible exact grownBy_refl _ _ | (with_reducible refine gs ?_ ?_; first | omega | (simp; omega)) | with_reducible refine ga ?_ | with_reducible refine gd ?_ | with_reducible refine gdn ?_ | with_reducible refine gt ?_ (by assumption)))
theorem leave_any (b a : Nat) (hb : b ≤ 5) (ha : a < 2 ^ b) (u : Int) (hsc : scB u = true) (w : World) (s : ByteArray) (hs : str (leaveL b a u) = s) : Calls Try.prog 14 #[stV 1 (b : Int) (a : Int) 0, .int .i32 u] w fun e w' => e = .returned (.string s) ∧ w.grownBy w' none := by
  subst hs
  by_cases h : u = 45
  · subst h
    rw [leave_yes (.inl rfl), ← str_append]
    exact leave_dash b a hb ha w
  · have h' : (u == 45) = false := by simpa using h
    cases hd : hasB digL u with
    | true => rw [leave_yes (.inr hd), ← str_append]; exact leave_digit b a hb ha u h' hsc hd w
    | false => rw [leave_no h hd]; exact leave_bare b a hb ha u h' hsc hd w
theorem leave_size (b a : Nat) (u : Int) : (str (leaveL b a u)).size ≤ 2 := by
  rw [str_size]
  unfold leaveL lastL
  rw [List.length_append]
  split <;> split <;> simp

/-- The end: the error, the bytes. -/
def endP (md bi ac he : Int) : Int × List UInt8 := if wrB md bi ac he = false then (7, []) else if md = 0 then (0, []) else (0, lastL bi.toNat ac.toNat ++ [45])
theorem endP_bad {md bi ac he : Int} (h : wrB md bi ac he = false) : endP md bi ac he = (7, []) := by simp [endP, h]
theorem endP_in {b a : Nat} (h : wrB 1 (b : Int) (a : Int) 0 = true) : endP 1 (b : Int) (a : Int) 0 = (0, lastL b a ++ [45]) := by simp [endP, h]

set_option maxRecDepth 100000 in
set_option maxHeartbeats 1000000 in
theorem end_bad (md bi ac he : Int) (hw : Hid (wrB md bi ac he = false)) (w : World) : Calls Try.prog 4 #[stV md bi ac he] w fun e w' => e = .returned (.tuple #[.string ⟨#[]⟩, .int .i64 7]) ∧ w.grownBy w' none := by
  go_enter Try.func4, Try.ntmps4
  go_wp2_with (go_at_call 8; refine (wr_any md bi ac he _ false hw.out).mono ?_; rintro e w1 ⟨rfl, hg1⟩; have sb := blk_kept (heap_alloc_new w (.cells #[.int .i64 md, .int .i64 bi, .int .u32 ac, .int .i32 he] 24)) hg1; have rs0 := cell_at sb 0 rfl; have rs1 := cell_at sb 1 rfl; have rs2 := cell_at sb 2 rfl; have rs3 := cell_at sb 3 rfl; have fz := froz_at sb)
  go_ret2
  refine ⟨rfl, ?_⟩
  (repeat (first | with_reducible exact grownBy_refl _ _ | (with_reducible refine gs ?_ ?_; first | omega | (simp; omega)) | with_reducible refine ga ?_ | with_reducible refine gd ?_ | with_reducible refine gdn ?_ | with_reducible refine gt ?_ (by assumption)))
set_option maxRecDepth 100000 in
set_option maxHeartbeats 1000000 in
theorem end_out (w : World) : Calls Try.prog 4 #[stV 0 0 0 0] w fun e w' => e = .returned (.tuple #[.string ⟨#[]⟩, .int .i64 0]) ∧ w.grownBy w' none := by
  go_enter Try.func4, Try.ntmps4
  go_wp2_with (go_at_call 8; refine (wr_any 0 0 0 0 _ true rfl).mono ?_; rintro e w1 ⟨rfl, hg1⟩; have sb := blk_kept (heap_alloc_new w (.cells #[.int .i64 0, .int .i64 0, .int .u32 0, .int .i32 0] 24)) hg1; have rs0 := cell_at sb 0 rfl; have rs1 := cell_at sb 1 rfl; have rs2 := cell_at sb 2 rfl; have rs3 := cell_at sb 3 rfl; have fz := froz_at sb)
  go_ret2
  refine ⟨rfl, ?_⟩
  (repeat (first | with_reducible exact grownBy_refl _ _ | (with_reducible refine gs ?_ ?_; first | omega | (simp; omega)) | with_reducible refine ga ?_ | with_reducible refine gd ?_ | with_reducible refine gdn ?_ | with_reducible refine gt ?_ (by assumption)))
set_option maxRecDepth 100000 in
set_option maxHeartbeats 1000000 in
theorem end_in (b a : Nat) (hb : Hid (b ≤ 5)) (ha : Hid (a < 2 ^ b)) (hw : Hid (wrB 1 (b : Int) (a : Int) 0 = true)) (w : World) : Calls Try.prog 4 #[stV 1 (b : Int) (a : Int) 0] w fun e w' => e = .returned (.tuple #[.string (str (lastL b a) ++ ⟨#[45]⟩), .int .i64 0]) ∧ w.grownBy w' none := by
  have hz := last_size (b := b) (a := a)
  obtain ⟨sL, hL⟩ : ∃ s, Hid (str (lastL b a) = s) := ⟨_, (rfl : str (lastL b a) = str (lastL b a))⟩
  rw [hL.out] at hz ⊢
  go_enter Try.func4, Try.ntmps4
  go_wp2_with (first | (go_at_call 8; refine (wr_any 1 (b : Int) (a : Int) 0 _ true hw.out).mono ?_; rintro e w1 ⟨rfl, hg1⟩; have sb := blk_kept (heap_alloc_new w (.cells #[.int .i64 1, .int .i64 (b : Int), .int .u32 (a : Int), .int .i32 0] 24)) hg1; have rs0 := cell_at sb 0 rfl; have rs1 := cell_at sb 1 rfl; have rs2 := cell_at sb 2 rfl; have rs3 := cell_at sb 3 rfl; have fz := froz_at sb) | (go_at_call 9; refine (last_any b a hb.out ha.out _ sL hL.out).mono ?_; rintro e w2 ⟨rfl, hg2⟩))
  go_ret2
  refine ⟨rfl, ?_⟩
  (repeat (first | with_reducible exact grownBy_refl _ _ | (with_reducible refine gs ?_ ?_; first | omega | (simp; omega)) | with_reducible refine ga ?_ | with_reducible refine gd ?_ | with_reducible refine gdn ?_ | with_reducible refine gt ?_ (by assumption)))
theorem end_any (md bi ac he : Int) (hac : 0 ≤ ac) (w : World) (p : Int × List UInt8) (hp : endP md bi ac he = p) (s : ByteArray) (hs : str p.2 = s) : Calls Try.prog 4 #[stV md bi ac he] w fun e w' => e = .returned (.tuple #[.string s, .int .i64 p.1]) ∧ w.grownBy w' none := by
  subst hs hp
  cases hw : wrB md bi ac he with
  | false => rw [endP_bad hw]; exact end_bad md bi ac he hw w
  | true =>
    rcases wrB_iff hac hw with ⟨rfl, rfl, rfl, rfl⟩ | ⟨rfl, rfl, b, a, rfl, rfl, hb, ha⟩
    · exact end_out w
    · rw [endP_in hw]; rw [← str_append]; exact end_in b a hb ha hw w

set_option maxRecDepth 100000 in
set_option maxHeartbeats 1000000 in
theorem endR_bad (md bi ac he : Int) (hac : 0 ≤ ac) (hw : Hid (wrB md bi ac he = false)) (w : World) : Calls Try.prog 5 #[stV md bi ac he] w fun e w' => e = .returned (.tuple #[.string ⟨#[]⟩, .int .i64 7]) ∧ w.grownBy w' none := by
  go_enter Try.func5, Try.ntmps5
  go_wp2_with (go_at_call 10; refine (wrR_any md bi ac he hac _ false hw.out).mono ?_; rintro e w1 ⟨rfl, hg1⟩; have sb := blk_kept (heap_alloc_new w (.cells #[.int .i64 md, .int .i64 bi, .int .u32 ac, .int .i32 he] 24)) hg1; have rs0 := cell_at sb 0 rfl; have rs1 := cell_at sb 1 rfl; have rs2 := cell_at sb 2 rfl; have rs3 := cell_at sb 3 rfl; have fz := froz_at sb)
  go_ret2
  refine ⟨rfl, ?_⟩
  (repeat (first | with_reducible exact grownBy_refl _ _ | (with_reducible refine gs ?_ ?_; first | omega | (simp; omega)) | with_reducible refine ga ?_ | with_reducible refine gd ?_ | with_reducible refine gdn ?_ | with_reducible refine gt ?_ (by assumption)))
set_option maxRecDepth 100000 in
set_option maxHeartbeats 1000000 in
theorem endR_out (w : World) : Calls Try.prog 5 #[stV 0 0 0 0] w fun e w' => e = .returned (.tuple #[.string ⟨#[]⟩, .int .i64 0]) ∧ w.grownBy w' none := by
  go_enter Try.func5, Try.ntmps5
  go_wp2_with (go_at_call 10; refine (wrR_any 0 0 0 0 (by omega) _ true rfl).mono ?_; rintro e w1 ⟨rfl, hg1⟩; have sb := blk_kept (heap_alloc_new w (.cells #[.int .i64 0, .int .i64 0, .int .u32 0, .int .i32 0] 24)) hg1; have rs0 := cell_at sb 0 rfl; have rs1 := cell_at sb 1 rfl; have rs2 := cell_at sb 2 rfl; have rs3 := cell_at sb 3 rfl; have fz := froz_at sb)
  go_ret2
  refine ⟨rfl, ?_⟩
  (repeat (first | with_reducible exact grownBy_refl _ _ | (with_reducible refine gs ?_ ?_; first | omega | (simp; omega)) | with_reducible refine ga ?_ | with_reducible refine gd ?_ | with_reducible refine gdn ?_ | with_reducible refine gt ?_ (by assumption)))
set_option maxRecDepth 100000 in
set_option maxHeartbeats 1000000 in
theorem endR_in (b a : Nat) (hb : Hid (b ≤ 5)) (ha : Hid (a < 2 ^ b)) (hw : Hid (wrB 1 (b : Int) (a : Int) 0 = true)) (w : World) : Calls Try.prog 5 #[stV 1 (b : Int) (a : Int) 0] w fun e w' => e = .returned (.tuple #[.string (str (lastL b a) ++ ⟨#[45]⟩), .int .i64 0]) ∧ w.grownBy w' none := by
  have hz := last_size (b := b) (a := a)
  obtain ⟨sL, hL⟩ : ∃ s, Hid (str (lastL b a) = s) := ⟨_, (rfl : str (lastL b a) = str (lastL b a))⟩
  rw [hL.out] at hz ⊢
  go_enter Try.func5, Try.ntmps5
  go_wp2_with (first | (go_at_call 10; refine (wrR_any 1 (b : Int) (a : Int) 0 (by omega) _ true hw.out).mono ?_; rintro e w1 ⟨rfl, hg1⟩; have sb := blk_kept (heap_alloc_new w (.cells #[.int .i64 1, .int .i64 (b : Int), .int .u32 (a : Int), .int .i32 0] 24)) hg1; have rs0 := cell_at sb 0 rfl; have rs1 := cell_at sb 1 rfl; have rs2 := cell_at sb 2 rfl; have rs3 := cell_at sb 3 rfl; have fz := froz_at sb) | (go_at_call 11; refine (rest_any b a hb.out ha.out _ sL hL.out).mono ?_; rintro e w2 ⟨rfl, hg2⟩))
  go_ret2
  refine ⟨rfl, ?_⟩
  (repeat (first | with_reducible exact grownBy_refl _ _ | (with_reducible refine gs ?_ ?_; first | omega | (simp; omega)) | with_reducible refine ga ?_ | with_reducible refine gd ?_ | with_reducible refine gdn ?_ | with_reducible refine gt ?_ (by assumption)))
theorem endR_any (md bi ac he : Int) (hac : 0 ≤ ac) (w : World) (p : Int × List UInt8) (hp : endP md bi ac he = p) (s : ByteArray) (hs : str p.2 = s) : Calls Try.prog 5 #[stV md bi ac he] w fun e w' => e = .returned (.tuple #[.string s, .int .i64 p.1]) ∧ w.grownBy w' none := by
  subst hs hp
  cases hw : wrB md bi ac he with
  | false => rw [endP_bad hw]; exact endR_bad md bi ac he hac hw w
  | true =>
    rcases wrB_iff hac hw with ⟨rfl, rfl, rfl, rfl⟩ | ⟨rfl, rfl, b, a, rfl, rfl, hb, ha⟩
    · exact endR_out w
    · rw [endP_in hw]; rw [← str_append]; exact endR_in b a hb ha hw w
end Go.Proofs.Ytldbllfifjdajaa.Sv

/- The form of a kind in one of its states: walks. -/
import Derived.Test.YtkfcciacoplgmaaFormOf
import Derived.Test.YtkfcciacoplgmaaFits
namespace Go.Proofs.Ytkfcciacoplgmaa.Wd
open Go.ChangeShapes Go.WideShapes Go.ChangeAt Go.RowKit Go.Proofs.Ytkfcciacoplgmaa.Mem Go.Proofs.Ytkfcciacoplgmaa.Ucs
set_option linter.unusedVariables false
set_option linter.unusedSimpArgs false

set_option maxRecDepth 100000 in
set_option maxHeartbeats 4000000 in
theorem formIn_none (k : Int) (h : k < 3 ∨ 10 < k) (md bi ac he : Int) (w : World) : Calls Try.prog 17 #[.int .i64 k, stV md bi ac he] w fun e w' => e = .returned (.tuple #[.agg #[.int .i64 0, .bool false, .bool false, .nilFunc], .int .i64 5]) ∧ w.grownBy w' none := by
  go_enter Try.func17, Try.ntmps17
  go_wp2_with (first | (go_at_call 28; refine (formOf_none k h _).mono ?_; rintro e w1 ⟨rfl, hg1⟩; obtain ⟨hc1, hf1⟩ := gcell hg1; have z1a : w.heap.size < w1.heap.size := (by have hsz := hg1.size; (try simp at hsz); omega); have y1a : w.heap.size ≤ w1.heap.size := (by omega); have z1b : w.heap.size + 1 < w1.heap.size := (by have hsz := hg1.size; (try simp at hsz); omega); have y1b : w.heap.size + 1 ≤ w1.heap.size := (by omega)))
  refine bodyPost_ret (v := .tuple #[.agg #[.int .i64 0, .bool false, .bool false, .nilFunc], .int .i64 5]) (by simp [results, Try.results17, go_sem, hc1, z1b]) rfl ⟨rfl, ?_⟩
  (repeat (first | with_reducible exact grownBy_refl _ _ | (with_reducible refine gs ?_ ?_; first | omega | (simp; omega)) | with_reducible refine ga ?_ | with_reducible refine gd ?_ | with_reducible refine gdn ?_ | with_reducible refine gt ?_ (by assumption)))

set_option maxRecDepth 100000 in
set_option maxHeartbeats 4000000 in
theorem formIn_bad (k : Int) (n : Nat) (p m low : Bool) (h : Hid (fm k = some (n, p, m, low))) (md bi ac he : Int) (hfit : Hid (fitB m md bi ac he = false)) (w : World) : Calls Try.prog 17 #[.int .i64 k, stV md bi ac he] w fun e w' => e = .returned (.tuple #[.agg #[.int .i64 0, .bool false, .bool false, .nilFunc], .int .i64 7]) ∧ w.grownBy w' none := by
  obtain ⟨q0, hq0⟩ : ∃ q0, Hid (fnOf low = q0) := ⟨_, (rfl : fnOf low = fnOf low)⟩
  go_enter Try.func17, Try.ntmps17
  go_wp2_with (first | (go_at_call 28; refine (formOf_fn k n p m low h.out q0 hq0.out _).mono ?_; rintro e w1 ⟨rfl, hg1⟩; obtain ⟨hc1, hf1⟩ := gcell hg1; have z1a : w.heap.size < w1.heap.size := (by have hsz := hg1.size; (try simp at hsz); omega); have y1a : w.heap.size ≤ w1.heap.size := (by omega); have z1b : w.heap.size + 1 < w1.heap.size := (by have hsz := hg1.size; (try simp at hsz); omega); have y1b : w.heap.size + 1 ≤ w1.heap.size := (by omega)) | (go_at_call 33; refine (fits_any _ _ _ _ _ _ _ _ _ false hfit.out).mono ?_; rintro e w2 ⟨rfl, hg2⟩; obtain ⟨hc2, hf2⟩ := gcell hg2; have z2a : w.heap.size < w2.heap.size := (by have hsz := hg2.size; (try simp at hsz); omega); have y2a : w.heap.size ≤ w2.heap.size := (by omega); have z2b : w.heap.size + 1 < w2.heap.size := (by have hsz := hg2.size; (try simp at hsz); omega); have y2b : w.heap.size + 1 ≤ w2.heap.size := (by omega); have z2c : w1.heap.size < w2.heap.size := (by have hsz := hg2.size; (try simp at hsz); omega); have y2c : w1.heap.size ≤ w2.heap.size := (by omega)))
  refine bodyPost_ret (v := .tuple #[.agg #[.int .i64 0, .bool false, .bool false, .nilFunc], .int .i64 7]) (by simp [results, Try.results17, go_sem, hc1, hc2, z1a, z1b, y1a, y1b, z2a, z2b, z2c]) rfl ⟨rfl, ?_⟩
  (repeat (first | with_reducible exact grownBy_refl _ _ | (with_reducible refine gs ?_ ?_; first | omega | (simp; omega)) | with_reducible refine ga ?_ | with_reducible refine gd ?_ | with_reducible refine gdn ?_ | with_reducible refine gt ?_ (by assumption)))

set_option maxRecDepth 100000 in
set_option maxHeartbeats 4000000 in
theorem formIn_two (k : Int) (n : Nat) (p m low : Bool) (h : Hid (fm k = some (n, p, m, low))) (hfit : Hid (fitB m 2 0 0 0 = true)) (w : World) : Calls Try.prog 17 #[.int .i64 k, stV 2 0 0 0] w fun e w' => e = .returned (.tuple #[.agg #[.int .i64 (n : Int), .bool p, .bool m, .func (.func 34) #[] #[]], .int .i64 0]) ∧ w.grownBy w' none := by
  obtain ⟨q0, hq0⟩ : ∃ q0, Hid (fnOf low = q0) := ⟨_, (rfl : fnOf low = fnOf low)⟩
  go_enter Try.func17, Try.ntmps17
  go_wp2_with (first | (go_at_call 28; refine (formOf_fn k n p m low h.out q0 hq0.out _).mono ?_; rintro e w1 ⟨rfl, hg1⟩; obtain ⟨hc1, hf1⟩ := gcell hg1; have z1a : w.heap.size < w1.heap.size := (by have hsz := hg1.size; (try simp at hsz); omega); have y1a : w.heap.size ≤ w1.heap.size := (by omega); have z1b : w.heap.size + 1 < w1.heap.size := (by have hsz := hg1.size; (try simp at hsz); omega); have y1b : w.heap.size + 1 ≤ w1.heap.size := (by omega)) | (go_at_call 33; refine (fits_any _ _ _ _ _ _ _ _ _ true hfit.out).mono ?_; rintro e w2 ⟨rfl, hg2⟩; obtain ⟨hc2, hf2⟩ := gcell hg2; have z2a : w.heap.size < w2.heap.size := (by have hsz := hg2.size; (try simp at hsz); omega); have y2a : w.heap.size ≤ w2.heap.size := (by omega); have z2b : w.heap.size + 1 < w2.heap.size := (by have hsz := hg2.size; (try simp at hsz); omega); have y2b : w.heap.size + 1 ≤ w2.heap.size := (by omega); have z2c : w1.heap.size < w2.heap.size := (by have hsz := hg2.size; (try simp at hsz); omega); have y2c : w1.heap.size ≤ w2.heap.size := (by omega)))
  refine bodyPost_ret (v := .tuple #[.agg #[.int .i64 (n : Int), .bool p, .bool m, .func (.func 34) #[] #[]], .int .i64 0]) (by simp [results, Try.results17, go_sem, hc1, hc2, z1a, z1b, y1a, y1b, z2a, z2b, z2c]) rfl ⟨rfl, ?_⟩
  (repeat (first | with_reducible exact grownBy_refl _ _ | (with_reducible refine gs ?_ ?_; first | omega | (simp; omega)) | with_reducible refine ga ?_ | with_reducible refine gd ?_ | with_reducible refine gdn ?_ | with_reducible refine gt ?_ (by assumption)))

set_option maxRecDepth 100000 in
set_option maxHeartbeats 4000000 in
theorem formIn_one (k : Int) (n : Nat) (p m low : Bool) (h : Hid (fm k = some (n, p, m, low))) (md : Int) (hmd : md ≠ 2) (hfit : Hid (fitB m md 0 0 0 = true)) (q0 : Nat) (hq0 : Hid (fnOf low = q0)) (w : World) : Calls Try.prog 17 #[.int .i64 k, stV md 0 0 0] w fun e w' => e = .returned (.tuple #[.agg #[.int .i64 (n : Int), .bool p, .bool m, .func (.func q0) #[] #[]], .int .i64 0]) ∧ w.grownBy w' none := by
  have hmd' : (md == 2) = false := by simpa using hmd
  go_enter Try.func17, Try.ntmps17
  go_wp2_with (first | (go_at_call 28; refine (formOf_fn k n p m low h.out q0 hq0.out _).mono ?_; rintro e w1 ⟨rfl, hg1⟩; obtain ⟨hc1, hf1⟩ := gcell hg1; have z1a : w.heap.size < w1.heap.size := (by have hsz := hg1.size; (try simp at hsz); omega); have y1a : w.heap.size ≤ w1.heap.size := (by omega); have z1b : w.heap.size + 1 < w1.heap.size := (by have hsz := hg1.size; (try simp at hsz); omega); have y1b : w.heap.size + 1 ≤ w1.heap.size := (by omega)) | (go_at_call 33; refine (fits_any _ _ _ _ _ _ _ _ _ true hfit.out).mono ?_; rintro e w2 ⟨rfl, hg2⟩; obtain ⟨hc2, hf2⟩ := gcell hg2; have z2a : w.heap.size < w2.heap.size := (by have hsz := hg2.size; (try simp at hsz); omega); have y2a : w.heap.size ≤ w2.heap.size := (by omega); have z2b : w.heap.size + 1 < w2.heap.size := (by have hsz := hg2.size; (try simp at hsz); omega); have y2b : w.heap.size + 1 ≤ w2.heap.size := (by omega); have z2c : w1.heap.size < w2.heap.size := (by have hsz := hg2.size; (try simp at hsz); omega); have y2c : w1.heap.size ≤ w2.heap.size := (by omega)))
  refine bodyPost_ret (v := .tuple #[.agg #[.int .i64 (n : Int), .bool p, .bool m, .func (.func q0) #[] #[]], .int .i64 0]) (by simp [results, Try.results17, go_sem, hc1, hc2, z1a, z1b, y1a, y1b, z2a, z2b, z2c]) rfl ⟨rfl, ?_⟩
  (repeat (first | with_reducible exact grownBy_refl _ _ | (with_reducible refine gs ?_ ?_; first | omega | (simp; omega)) | with_reducible refine ga ?_ | with_reducible refine gd ?_ | with_reducible refine gdn ?_ | with_reducible refine gt ?_ (by assumption)))

theorem formIn_ok (k : Int) (n : Nat) (p m low : Bool) (h : fm k = some (n, p, m, low)) (md : Int) (hfit : fitB m md 0 0 0 = true) (q : Nat) (hq : fnOf (low || decide (md = 2)) = q) (w : World) : Calls Try.prog 17 #[.int .i64 k, stV md 0 0 0] w fun e w' => e = .returned (.tuple #[.agg #[.int .i64 (n : Int), .bool p, .bool m, .func (.func q) #[] #[]], .int .i64 0]) ∧ w.grownBy w' none := by
  by_cases c : md = 2
  · subst c
    have e : q = 34 := by rw [← hq]; simp
    subst e
    exact formIn_two k n p m low h hfit w
  · exact formIn_one k n p m low h md c hfit q ((by rw [← hq]; simp [c]) : fnOf low = q) w
end Go.Proofs.Ytkfcciacoplgmaa.Wd

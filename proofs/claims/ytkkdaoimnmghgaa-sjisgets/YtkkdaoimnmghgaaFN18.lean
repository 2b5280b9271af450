/- The program's leads and trails, Pack and Unpack of layer 18: walks. -/
import Derived.Test.YtkkdaoimnmghgaaEW18
import Derived.Test.YtkkdaoimnmghgaaRQ14
import Derived.Test.YtkkdaoimnmghgaaRR14
namespace Go.Proofs.Ytkkdaoimnmghgaa.C18
open Go.ChangeShapes Go.WideShapes Go.ChangeAt Go.RowKit Go.Proofs.Ytkkdaoimnmghgaa.Mem Go.Proofs.Ytkkdaoimnmghgaa.Cb Go.Proofs.Ytkkdaoimnmghgaa.Sp
set_option linter.unusedVariables false
set_option linter.unusedSimpArgs false

set_option maxRecDepth 100000 in
set_option maxHeartbeats 1000000 in
theorem ld_0 (a : Nat) (h1 : 0 ≤ a) (h2 : a ≤ 128) (w : World) : Calls Try.prog 18 #[.int .u8 (a : Int)] w fun e w' => e = .returned (.tuple #[.int .i64 0, .bool false]) ∧ w.grownBy w' none := by
  have f0 : decide (129 ≤ (a : Int)) = false := by simp; omega
  have f1 : decide ((a : Int) ≤ 159) = true := by simp; omega
  have f2 : decide (224 ≤ (a : Int)) = false := by simp; omega
  have f3 : decide ((a : Int) ≤ 239) = true := by simp; omega
  have w1 : IntKind.i64.wrap (a : Int) = (a : Int) := by rw [IntKind.wrap_i64]; omega
  go_enter Try.func18, Try.ntmps18
  go_wp2
  exact bodyPost_ret (v := .tuple #[.int .i64 0, .bool false]) (by simp [results, Try.results18, go_sem]) rfl ⟨rfl, (grownBy_refl _ _)⟩
set_option maxRecDepth 100000 in
set_option maxHeartbeats 1000000 in
theorem ld_1 (a k : Nat) (h1 : 129 ≤ a) (h2 : a ≤ 159) (e1 : (a : Int) - 129 = (k : Int)) (w : World) : Calls Try.prog 18 #[.int .u8 (a : Int)] w fun e w' => e = .returned (.tuple #[.int .i64 (k : Int), .bool true]) ∧ w.grownBy w' none := by
  have f0 : decide (129 ≤ (a : Int)) = true := by simp; omega
  have f1 : decide ((a : Int) ≤ 159) = true := by simp; omega
  have f2 : decide (224 ≤ (a : Int)) = false := by simp; omega
  have f3 : decide ((a : Int) ≤ 239) = true := by simp; omega
  have w1 : IntKind.i64.wrap (a : Int) = (a : Int) := by rw [IntKind.wrap_i64]; omega
  go_enter Try.func18, Try.ntmps18
  go_wp2
  exact bodyPost_ret (v := .tuple #[.int .i64 (k : Int), .bool true]) (by simp [results, Try.results18, go_sem]) rfl ⟨rfl, (grownBy_refl _ _)⟩
set_option maxRecDepth 100000 in
set_option maxHeartbeats 1000000 in
theorem ld_2 (a : Nat) (h1 : 160 ≤ a) (h2 : a ≤ 223) (w : World) : Calls Try.prog 18 #[.int .u8 (a : Int)] w fun e w' => e = .returned (.tuple #[.int .i64 0, .bool false]) ∧ w.grownBy w' none := by
  have f0 : decide (129 ≤ (a : Int)) = true := by simp; omega
  have f1 : decide ((a : Int) ≤ 159) = false := by simp; omega
  have f2 : decide (224 ≤ (a : Int)) = false := by simp; omega
  have f3 : decide ((a : Int) ≤ 239) = true := by simp; omega
  have w1 : IntKind.i64.wrap (a : Int) = (a : Int) := by rw [IntKind.wrap_i64]; omega
  go_enter Try.func18, Try.ntmps18
  go_wp2
  exact bodyPost_ret (v := .tuple #[.int .i64 0, .bool false]) (by simp [results, Try.results18, go_sem]) rfl ⟨rfl, (grownBy_refl _ _)⟩
set_option maxRecDepth 100000 in
set_option maxHeartbeats 1000000 in
theorem ld_3 (a z k : Nat) (h1 : 224 ≤ a) (h2 : a ≤ 239) (e1 : (a : Int) - 224 = (z : Int)) (e2 : (z : Int) + 31 = (k : Int)) (w : World) : Calls Try.prog 18 #[.int .u8 (a : Int)] w fun e w' => e = .returned (.tuple #[.int .i64 (k : Int), .bool true]) ∧ w.grownBy w' none := by
  have f0 : decide (129 ≤ (a : Int)) = true := by simp; omega
  have f1 : decide ((a : Int) ≤ 159) = false := by simp; omega
  have f2 : decide (224 ≤ (a : Int)) = true := by simp; omega
  have f3 : decide ((a : Int) ≤ 239) = true := by simp; omega
  have w1 : IntKind.i64.wrap (a : Int) = (a : Int) := by rw [IntKind.wrap_i64]; omega
  go_enter Try.func18, Try.ntmps18
  go_wp2
  exact bodyPost_ret (v := .tuple #[.int .i64 (k : Int), .bool true]) (by simp [results, Try.results18, go_sem]) rfl ⟨rfl, (grownBy_refl _ _)⟩
set_option maxRecDepth 100000 in
set_option maxHeartbeats 1000000 in
theorem ld_4 (a : Nat) (h1 : 240 ≤ a) (h2 : a ≤ 255) (w : World) : Calls Try.prog 18 #[.int .u8 (a : Int)] w fun e w' => e = .returned (.tuple #[.int .i64 0, .bool false]) ∧ w.grownBy w' none := by
  have f0 : decide (129 ≤ (a : Int)) = true := by simp; omega
  have f1 : decide ((a : Int) ≤ 159) = false := by simp; omega
  have f2 : decide (224 ≤ (a : Int)) = true := by simp; omega
  have f3 : decide ((a : Int) ≤ 239) = false := by simp; omega
  have w1 : IntKind.i64.wrap (a : Int) = (a : Int) := by rw [IntKind.wrap_i64]; omega
  go_enter Try.func18, Try.ntmps18
  go_wp2
  exact bodyPost_ret (v := .tuple #[.int .i64 0, .bool false]) (by simp [results, Try.results18, go_sem]) rfl ⟨rfl, (grownBy_refl _ _)⟩
set_option maxRecDepth 100000 in
set_option maxHeartbeats 1000000 in
theorem tl_0 (a : Nat) (h1 : 0 ≤ a) (h2 : a ≤ 63) (w : World) : Calls Try.prog 31 #[.int .u8 (a : Int)] w fun e w' => e = .returned (.tuple #[.int .i64 0, .bool false]) ∧ w.grownBy w' none := by
  have f0 : decide (64 ≤ (a : Int)) = false := by simp; omega
  have f1 : decide ((a : Int) ≤ 126) = true := by simp; omega
  have f2 : decide (128 ≤ (a : Int)) = false := by simp; omega
  have f3 : decide ((a : Int) ≤ 252) = true := by simp; omega
  have w1 : IntKind.i64.wrap (a : Int) = (a : Int) := by rw [IntKind.wrap_i64]; omega
  go_enter Try.func31, Try.ntmps31
  go_wp2
  exact bodyPost_ret (v := .tuple #[.int .i64 0, .bool false]) (by simp [results, Try.results31, go_sem]) rfl ⟨rfl, (grownBy_refl _ _)⟩
set_option maxRecDepth 100000 in
set_option maxHeartbeats 1000000 in
theorem tl_1 (a k : Nat) (h1 : 64 ≤ a) (h2 : a ≤ 126) (e1 : (a : Int) - 64 = (k : Int)) (w : World) : Calls Try.prog 31 #[.int .u8 (a : Int)] w fun e w' => e = .returned (.tuple #[.int .i64 (k : Int), .bool true]) ∧ w.grownBy w' none := by
  have f0 : decide (64 ≤ (a : Int)) = true := by simp; omega
  have f1 : decide ((a : Int) ≤ 126) = true := by simp; omega
  have f2 : decide (128 ≤ (a : Int)) = false := by simp; omega
  have f3 : decide ((a : Int) ≤ 252) = true := by simp; omega
  have w1 : IntKind.i64.wrap (a : Int) = (a : Int) := by rw [IntKind.wrap_i64]; omega
  go_enter Try.func31, Try.ntmps31
  go_wp2
  exact bodyPost_ret (v := .tuple #[.int .i64 (k : Int), .bool true]) (by simp [results, Try.results31, go_sem]) rfl ⟨rfl, (grownBy_refl _ _)⟩
set_option maxRecDepth 100000 in
set_option maxHeartbeats 1000000 in
theorem tl_2 (a : Nat) (h1 : 127 ≤ a) (h2 : a ≤ 127) (w : World) : Calls Try.prog 31 #[.int .u8 (a : Int)] w fun e w' => e = .returned (.tuple #[.int .i64 0, .bool false]) ∧ w.grownBy w' none := by
  have f0 : decide (64 ≤ (a : Int)) = true := by simp; omega
  have f1 : decide ((a : Int) ≤ 126) = false := by simp; omega
  have f2 : decide (128 ≤ (a : Int)) = false := by simp; omega
  have f3 : decide ((a : Int) ≤ 252) = true := by simp; omega
  have w1 : IntKind.i64.wrap (a : Int) = (a : Int) := by rw [IntKind.wrap_i64]; omega
  go_enter Try.func31, Try.ntmps31
  go_wp2
  exact bodyPost_ret (v := .tuple #[.int .i64 0, .bool false]) (by simp [results, Try.results31, go_sem]) rfl ⟨rfl, (grownBy_refl _ _)⟩
set_option maxRecDepth 100000 in
set_option maxHeartbeats 1000000 in
theorem tl_3 (a z k : Nat) (h1 : 128 ≤ a) (h2 : a ≤ 252) (e1 : (a : Int) - 128 = (z : Int)) (e2 : (z : Int) + 63 = (k : Int)) (w : World) : Calls Try.prog 31 #[.int .u8 (a : Int)] w fun e w' => e = .returned (.tuple #[.int .i64 (k : Int), .bool true]) ∧ w.grownBy w' none := by
  have f0 : decide (64 ≤ (a : Int)) = true := by simp; omega
  have f1 : decide ((a : Int) ≤ 126) = false := by simp; omega
  have f2 : decide (128 ≤ (a : Int)) = true := by simp; omega
  have f3 : decide ((a : Int) ≤ 252) = true := by simp; omega
  have w1 : IntKind.i64.wrap (a : Int) = (a : Int) := by rw [IntKind.wrap_i64]; omega
  go_enter Try.func31, Try.ntmps31
  go_wp2
  exact bodyPost_ret (v := .tuple #[.int .i64 (k : Int), .bool true]) (by simp [results, Try.results31, go_sem]) rfl ⟨rfl, (grownBy_refl _ _)⟩
set_option maxRecDepth 100000 in
set_option maxHeartbeats 1000000 in
theorem tl_4 (a : Nat) (h1 : 253 ≤ a) (h2 : a ≤ 255) (w : World) : Calls Try.prog 31 #[.int .u8 (a : Int)] w fun e w' => e = .returned (.tuple #[.int .i64 0, .bool false]) ∧ w.grownBy w' none := by
  have f0 : decide (64 ≤ (a : Int)) = true := by simp; omega
  have f1 : decide ((a : Int) ≤ 126) = false := by simp; omega
  have f2 : decide (128 ≤ (a : Int)) = true := by simp; omega
  have f3 : decide ((a : Int) ≤ 252) = false := by simp; omega
  have w1 : IntKind.i64.wrap (a : Int) = (a : Int) := by rw [IntKind.wrap_i64]; omega
  go_enter Try.func31, Try.ntmps31
  go_wp2
  exact bodyPost_ret (v := .tuple #[.int .i64 0, .bool false]) (by simp [results, Try.results31, go_sem]) rfl ⟨rfl, (grownBy_refl _ _)⟩
/-- A trail's number, from 0 on. -/
def tnN (b : Nat) : Nat := if b ≤ 126 then b - 64 else b - 65
theorem lead_yes (a k : Nat) (ha : Hid (lead a = true)) (hk : Hid (upK a = k)) (w : World) : Calls Try.prog 18 #[.int .u8 (a : Int)] w fun e w' => e = .returned (.tuple #[.int .i64 (k : Int), .bool true]) ∧ w.grownBy w' none := by
  have h := lead_iff.1 ha.out
  have hk2 := hk.out
  unfold upK at hk2
  rcases h with h | h
  · rw [if_pos h.2] at hk2
    exact ld_1 a k h.1 h.2 (by omega) w
  · rw [if_neg (by omega)] at hk2
    exact ld_3 a (a - 224) k h.1 h.2 (by omega) (by omega) w
theorem lead_no (a : Nat) (ha : a < 256) (hH : Hid (lead a = false)) (w : World) : Calls Try.prog 18 #[.int .u8 (a : Int)] w fun e w' => e = .returned (.tuple #[.int .i64 0, .bool false]) ∧ w.grownBy w' none := by
  have h : ¬ (129 ≤ a ∧ a ≤ 159 ∨ 224 ≤ a ∧ a ≤ 239) := fun e => by have h2 := lead_iff.2 e; rw [hH.out] at h2; cases h2
  by_cases h1 : a ≤ 128
  · exact ld_0 a (by omega) h1 w
  · by_cases h2 : a ≤ 223
    · exact ld_2 a (by omega) h2 w
    · exact ld_4 a (by omega) (by omega) w
theorem trail_yes (a k : Nat) (ha : Hid (trail a = true)) (hk : Hid (tnN a = k)) (w : World) : Calls Try.prog 31 #[.int .u8 (a : Int)] w fun e w' => e = .returned (.tuple #[.int .i64 (k : Int), .bool true]) ∧ w.grownBy w' none := by
  have h := trail_iff.1 ha.out
  have hk2 := hk.out
  unfold tnN at hk2
  by_cases h1 : a ≤ 126
  · rw [if_pos h1] at hk2
    exact tl_1 a k h.1 h1 (by omega) w
  · rw [if_neg h1] at hk2
    exact tl_3 a (a - 128) k (by omega) (by omega) (by omega) (by omega) w
theorem trail_no (a : Nat) (ha : a < 256) (hH : Hid (trail a = false)) (w : World) : Calls Try.prog 31 #[.int .u8 (a : Int)] w fun e w' => e = .returned (.tuple #[.int .i64 0, .bool false]) ∧ w.grownBy w' none := by
  have h : ¬ (64 ≤ a ∧ a ≤ 252 ∧ a ≠ 127) := fun e => by have h2 := trail_iff.2 e; rw [hH.out] at h2; cases h2
  by_cases h1 : a ≤ 63
  · exact tl_0 a (by omega) h1 w
  · by_cases h2 : a ≤ 127
    · exact tl_2 a (by omega) h2 w
    · exact tl_4 a (by omega) (by omega) w
set_option maxRecDepth 100000 in
set_option maxHeartbeats 1000000 in
theorem co_a (r : Int) (h : r < 1) (w : World) : Calls Try.prog 28 #[.int .i64 r] w fun e w' => e = .returned (.bool false) ∧ w.grownBy w' none := by
  have f0 : decide (1 ≤ r) = false := by simp; omega
  go_enter Try.func28, Try.ntmps28
  go_wp2
  go_ret
  exact ⟨rfl, (grownBy_refl _ _)⟩
set_option maxRecDepth 100000 in
set_option maxHeartbeats 1000000 in
theorem co_b (r : Int) (h : 94 < r) (w : World) : Calls Try.prog 28 #[.int .i64 r] w fun e w' => e = .returned (.bool false) ∧ w.grownBy w' none := by
  have f0 : decide (1 ≤ r) = true := by simp; omega
  have f1 : decide (r ≤ 94) = false := by simp; omega
  go_enter Try.func28, Try.ntmps28
  go_wp2
  go_ret
  exact ⟨rfl, (grownBy_refl _ _)⟩
set_option maxRecDepth 100000 in
set_option maxHeartbeats 1000000 in
theorem co_y (r : Int) (h1 : 1 ≤ r) (h2 : r ≤ 94) (w : World) : Calls Try.prog 28 #[.int .i64 r] w fun e w' => e = .returned (.bool true) ∧ w.grownBy w' none := by
  have f0 : decide (1 ≤ r) = true := by simp; omega
  have f1 : decide (r ≤ 94) = true := by simp; omega
  go_enter Try.func28, Try.ntmps28
  go_wp2
  go_ret
  exact ⟨rfl, (grownBy_refl _ _)⟩
theorem counted_no (r : Int) (h : r < 1 ∨ 94 < r) (w : World) : Calls Try.prog 28 #[.int .i64 r] w fun e w' => e = .returned (.bool false) ∧ w.grownBy w' none := by
  by_cases h1 : r < 1
  · exact co_a r h1 w
  · exact co_b r (by omega) w
set_option maxRecDepth 100000 in
set_option maxHeartbeats 1000000 in
theorem le_0 (k l : Nat) (h1 : k < 31) (e1 : 129 + (k : Int) = (l : Int)) (b1 : (l : Int) < 256) (w : World) : Calls Try.prog 29 #[.int .i64 (k : Int)] w fun e w' => e = .returned (.int .u8 (l : Int)) ∧ w.grownBy w' none := by
  have f0 : decide ((k : Int) < 31) = true := by simp; omega
  go_enter Try.func29, Try.ntmps29
  go_wp2
  go_ret
  exact ⟨rfl, (grownBy_refl _ _)⟩
set_option maxRecDepth 100000 in
set_option maxHeartbeats 1000000 in
theorem le_1 (k z l : Nat) (h1 : 31 ≤ k) (h2 : k ≤ 1000) (e1 : 224 + (k : Int) = (z : Int)) (e2 : (z : Int) - 31 = (l : Int)) (b1 : (l : Int) < 256) (w : World) : Calls Try.prog 29 #[.int .i64 (k : Int)] w fun e w' => e = .returned (.int .u8 (l : Int)) ∧ w.grownBy w' none := by
  have f0 : decide ((k : Int) < 31) = false := by simp; omega
  go_enter Try.func29, Try.ntmps29
  go_wp2
  go_ret
  exact ⟨rfl, (grownBy_refl _ _)⟩
set_option maxRecDepth 100000 in
set_option maxHeartbeats 1000000 in
theorem tr_0 (k l : Nat) (h1 : k < 63) (e1 : 64 + (k : Int) = (l : Int)) (b1 : (l : Int) < 256) (w : World) : Calls Try.prog 30 #[.int .i64 (k : Int)] w fun e w' => e = .returned (.int .u8 (l : Int)) ∧ w.grownBy w' none := by
  have f0 : decide ((k : Int) < 63) = true := by simp; omega
  go_enter Try.func30, Try.ntmps30
  go_wp2
  go_ret
  exact ⟨rfl, (grownBy_refl _ _)⟩
set_option maxRecDepth 100000 in
set_option maxHeartbeats 1000000 in
theorem tr_1 (k z l : Nat) (h1 : 63 ≤ k) (h2 : k ≤ 1000) (e1 : 128 + (k : Int) = (z : Int)) (e2 : (z : Int) - 63 = (l : Int)) (b1 : (l : Int) < 256) (w : World) : Calls Try.prog 30 #[.int .i64 (k : Int)] w fun e w' => e = .returned (.int .u8 (l : Int)) ∧ w.grownBy w' none := by
  have f0 : decide ((k : Int) < 63) = false := by simp; omega
  go_enter Try.func30, Try.ntmps30
  go_wp2
  go_ret
  exact ⟨rfl, (grownBy_refl _ _)⟩
theorem lead_of (k l : Nat) (hk : k ≤ 46) (hl : Hid ((if k < 31 then 129 + k else 193 + k) = l)) (w : World) : Calls Try.prog 29 #[.int .i64 (k : Int)] w fun e w' => e = .returned (.int .u8 (l : Int)) ∧ w.grownBy w' none := by
  have h := hl.out
  by_cases h1 : k < 31
  · rw [if_pos h1] at h
    exact le_0 k l h1 (by omega) (by omega) w
  · rw [if_neg h1] at h
    exact le_1 k (224 + k) l (by omega) (by omega) (by omega) (by omega) (by omega) w
theorem trail_of (k l : Nat) (hk : k ≤ 187) (hl : Hid ((if k < 63 then 64 + k else 65 + k) = l)) (w : World) : Calls Try.prog 30 #[.int .i64 (k : Int)] w fun e w' => e = .returned (.int .u8 (l : Int)) ∧ w.grownBy w' none := by
  have h := hl.out
  by_cases h1 : k < 63
  · rw [if_pos h1] at h
    exact tr_0 k l h1 (by omega) (by omega) w
  · rw [if_neg h1] at h
    exact tr_1 k (128 + k) l (by omega) (by omega) (by omega) (by omega) (by omega) w
set_option maxRecDepth 100000 in
set_option maxHeartbeats 1000000 in
theorem pp_yes (r c p m s t q n x y : Nat) (h1 : 1 ≤ r) (h2 : r ≤ 94) (h3 : 1 ≤ c) (h4 : c ≤ 94) (e1 : (r : Int) - 1 = (p : Int)) (e2 : (p : Int) * 94 = (m : Int)) (e3 : (m : Int) + (c : Int) = (s : Int)) (e4 : (s : Int) - 1 = (t : Int)) (e5 : (t : Int).tdiv 188 = (q : Int)) (e6 : (t : Int).tmod 188 = (n : Int)) (hq : q ≤ 46) (hn : n ≤ 187) (hx : Hid ((if q < 31 then 129 + q else 193 + q) = x)) (hy : Hid ((if n < 63 then 64 + n else 65 + n) = y)) (w : World) : Calls Try.prog 13 #[.int .i64 (r : Int), .int .i64 (c : Int)] w fun e w' => e = .returned (.tuple #[.int .u8 (x : Int), .int .u8 (y : Int), .bool true]) ∧ w.grownBy w' none := by
  go_enter Try.func13, Try.ntmps13
  go_wp2_with (first
    | (go_at_call 28; refine (co_y (r : Int) (by omega) (by omega) _).mono ?_; rintro e w1 ⟨rfl, hg1⟩)
    | (go_at_call 28; refine (co_y (c : Int) (by omega) (by omega) _).mono ?_; rintro e w2 ⟨rfl, hg2⟩)
    | (go_at_call 29; refine (lead_of q x hq hx _).mono ?_; rintro e w3 ⟨rfl, hg3⟩)
    | (go_at_call 30; refine (trail_of n y hn hy _).mono ?_; rintro e w4 ⟨rfl, hg4⟩))
  exact bodyPost_ret (v := .tuple #[.int .u8 (x : Int), .int .u8 (y : Int), .bool true]) (by simp [results, Try.results13, go_sem]) rfl ⟨rfl, (gt (gt (gt hg1 hg2) hg3) hg4)⟩
set_option maxRecDepth 100000 in
set_option maxHeartbeats 1000000 in
theorem pp_na (r c : Int) (h : r < 1 ∨ 94 < r) (w : World) : Calls Try.prog 13 #[.int .i64 r, .int .i64 c] w fun e w' => e = .returned (.tuple #[.int .u8 0, .int .u8 0, .bool false]) ∧ w.grownBy w' none := by
  go_enter Try.func13, Try.ntmps13
  go_wp2_with (first
    | (go_at_call 28; refine (counted_no r h _).mono ?_; rintro e w1 ⟨rfl, hg1⟩))
  exact bodyPost_ret (v := .tuple #[.int .u8 0, .int .u8 0, .bool false]) (by simp [results, Try.results13, go_sem]) rfl ⟨rfl, hg1⟩
set_option maxRecDepth 100000 in
set_option maxHeartbeats 1000000 in
theorem pp_nb (r c : Int) (h1 : 1 ≤ r) (h2 : r ≤ 94) (h : c < 1 ∨ 94 < c) (w : World) : Calls Try.prog 13 #[.int .i64 r, .int .i64 c] w fun e w' => e = .returned (.tuple #[.int .u8 0, .int .u8 0, .bool false]) ∧ w.grownBy w' none := by
  go_enter Try.func13, Try.ntmps13
  go_wp2_with (first
    | (go_at_call 28; refine (co_y r h1 h2 _).mono ?_; rintro e w1 ⟨rfl, hg1⟩)
    | (go_at_call 28; refine (counted_no c h _).mono ?_; rintro e w2 ⟨rfl, hg2⟩))
  exact bodyPost_ret (v := .tuple #[.int .u8 0, .int .u8 0, .bool false]) (by simp [results, Try.results13, go_sem]) rfl ⟨rfl, (gt hg1 hg2)⟩
theorem pPack (r c : Int) (A D : Nat) (ok : Bool) (hP : Hid (pkT r c = (A, D, ok))) (w : World) : Calls Try.prog 13 #[.int .i64 r, .int .i64 c] w fun e w' => e = .returned (.tuple #[.int .u8 (A : Int), .int .u8 (D : Int), .bool ok]) ∧ w.grownBy w' none := by
  have h := hP.out
  unfold pkT at h
  by_cases hi : In2 r c
  · rw [if_pos hi] at h
    simp only [Prod.mk.injEq] at h
    obtain ⟨hA, hD, rfl⟩ := h
    obtain ⟨h1, h2, h3, h4⟩ := hi
    obtain ⟨a, rfl⟩ : ∃ a : Nat, r = (a : Int) := ⟨r.toNat, by omega⟩
    obtain ⟨b, rfl⟩ : ∃ b : Nat, c = (b : Int) := ⟨c.toNat, by omega⟩
    rw [Int.toNat_natCast] at hA
    rw [Int.toNat_natCast, Int.toNat_natCast] at hD
    unfold ldN at hA
    unfold trN at hD
    refine pp_yes a b (a - 1) ((a - 1) * 94) ((a - 1) * 94 + b) ((a - 1) * 94 + b - 1) (((a - 1) * 94 + b - 1) / 188) (((a - 1) * 94 + b - 1) % 188) A D (by omega) (by omega) (by omega) (by omega) (by omega) (by omega) (by omega) (by omega) ?_ ?_ (by omega) (by omega) (Hid.mk' ?_) (Hid.mk' ?_) w
    · rw [Int.tdiv_eq_ediv_of_nonneg (by omega)]; omega
    · rw [Int.tmod_eq_emod_of_nonneg (by omega)]; omega
    · have e : ((a - 1) * 94 + b - 1) / 188 = (a - 1) / 2 := by omega
      rw [e, ← hA]
      by_cases h5 : (a - 1) / 2 < 31
      · rw [if_pos h5, if_neg (by omega)]
      · rw [if_neg h5, if_pos (by omega)]
    · by_cases h5 : a % 2 = 1
      · have e : ((a - 1) * 94 + b - 1) % 188 = b - 1 := by omega
        rw [if_pos h5] at hD
        rw [e, ← hD]
        by_cases h6 : b - 1 < 63
        · rw [if_pos h6, if_neg (by omega)]; omega
        · rw [if_neg h6, if_pos (by omega)]; omega
      · have e : ((a - 1) * 94 + b - 1) % 188 = b + 93 := by omega
        rw [if_neg h5] at hD
        rw [e, ← hD, if_neg (by omega)]
        omega
  · rw [if_neg hi] at h
    simp only [Prod.mk.injEq] at h
    obtain ⟨rfl, rfl, rfl⟩ := h
    unfold In2 at hi
    by_cases h1 : r < 1 ∨ 94 < r
    · exact pp_na r c h1 w
    · exact pp_nb r c (by omega) (by omega) (by omega) w
set_option maxRecDepth 100000 in
set_option maxHeartbeats 1000000 in
theorem pu_yes (a b k n m p q s x y : Nat) (ha : Hid (lead a = true)) (hb : Hid (trail b = true)) (hk : Hid (upK a = k)) (hn : Hid (tnN b = n)) (hk1 : k ≤ 46) (hn1 : n ≤ 187) (e1 : (k : Int) * 188 = (m : Int)) (e2 : (m : Int) + (n : Int) = (p : Int)) (e3 : (p : Int).tdiv 94 = (q : Int)) (e4 : (q : Int) + 1 = (x : Int)) (e5 : (p : Int).tmod 94 = (s : Int)) (e6 : (s : Int) + 1 = (y : Int)) (b1 : x ≤ 94) (b2 : y ≤ 94) (b3 : p ≤ 8835) (w : World) : Calls Try.prog 15 #[.int .u8 (a : Int), .int .u8 (b : Int)] w fun e w' => e = .returned (.tuple #[.int .i64 (x : Int), .int .i64 (y : Int), .bool true]) ∧ w.grownBy w' none := by
  go_enter Try.func15, Try.ntmps15
  go_wp2_with (first
    | (go_at_call 18; refine (lead_yes a k ha hk _).mono ?_; rintro e w1 ⟨rfl, hg1⟩)
    | (go_at_call 31; refine (trail_yes b n hb hn _).mono ?_; rintro e w2 ⟨rfl, hg2⟩))
  exact bodyPost_ret (v := .tuple #[.int .i64 (x : Int), .int .i64 (y : Int), .bool true]) (by simp [results, Try.results15, go_sem]) rfl ⟨rfl, (gt hg1 hg2)⟩
set_option maxRecDepth 100000 in
set_option maxHeartbeats 1000000 in
theorem pu_na (a b : Nat) (h8 : a < 256) (h9 : b < 256) (ha : Hid (lead a = false)) (hb : Hid (trail b = false)) (w : World) : Calls Try.prog 15 #[.int .u8 (a : Int), .int .u8 (b : Int)] w fun e w' => e = .returned (.tuple #[.int .i64 0, .int .i64 0, .bool false]) ∧ w.grownBy w' none := by
  go_enter Try.func15, Try.ntmps15
  go_wp2_with (first
    | (go_at_call 18; refine (lead_no a h8 ha _).mono ?_; rintro e w1 ⟨rfl, hg1⟩)
    | (go_at_call 31; refine (trail_no b h9 hb _).mono ?_; rintro e w2 ⟨rfl, hg2⟩))
  exact bodyPost_ret (v := .tuple #[.int .i64 0, .int .i64 0, .bool false]) (by simp [results, Try.results15, go_sem]) rfl ⟨rfl, (gt hg1 hg2)⟩
set_option maxRecDepth 100000 in
set_option maxHeartbeats 1000000 in
theorem pu_nb (a b n : Nat) (h8 : a < 256) (ha : Hid (lead a = false)) (hb : Hid (trail b = true)) (hn : Hid (tnN b = n)) (w : World) : Calls Try.prog 15 #[.int .u8 (a : Int), .int .u8 (b : Int)] w fun e w' => e = .returned (.tuple #[.int .i64 0, .int .i64 0, .bool false]) ∧ w.grownBy w' none := by
  go_enter Try.func15, Try.ntmps15
  go_wp2_with (first
    | (go_at_call 18; refine (lead_no a h8 ha _).mono ?_; rintro e w1 ⟨rfl, hg1⟩)
    | (go_at_call 31; refine (trail_yes b n hb hn _).mono ?_; rintro e w2 ⟨rfl, hg2⟩))
  exact bodyPost_ret (v := .tuple #[.int .i64 0, .int .i64 0, .bool false]) (by simp [results, Try.results15, go_sem]) rfl ⟨rfl, (gt hg1 hg2)⟩
set_option maxRecDepth 100000 in
set_option maxHeartbeats 1000000 in
theorem pu_nc (a b k : Nat) (h9 : b < 256) (ha : Hid (lead a = true)) (hk : Hid (upK a = k)) (hb : Hid (trail b = false)) (w : World) : Calls Try.prog 15 #[.int .u8 (a : Int), .int .u8 (b : Int)] w fun e w' => e = .returned (.tuple #[.int .i64 0, .int .i64 0, .bool false]) ∧ w.grownBy w' none := by
  go_enter Try.func15, Try.ntmps15
  go_wp2_with (first
    | (go_at_call 18; refine (lead_yes a k ha hk _).mono ?_; rintro e w1 ⟨rfl, hg1⟩)
    | (go_at_call 31; refine (trail_no b h9 hb _).mono ?_; rintro e w2 ⟨rfl, hg2⟩))
  exact bodyPost_ret (v := .tuple #[.int .i64 0, .int .i64 0, .bool false]) (by simp [results, Try.results15, go_sem]) rfl ⟨rfl, (gt hg1 hg2)⟩
theorem pUnpack (a b : Nat) (ha : a < 256) (hb : b < 256) (A D : Nat) (ok : Bool) (hU : Hid (upT a b = (A, D, ok))) (w : World) : Calls Try.prog 15 #[.int .u8 (a : Int), .int .u8 (b : Int)] w fun e w' => e = .returned (.tuple #[.int .i64 (A : Int), .int .i64 (D : Int), .bool ok]) ∧ w.grownBy w' none := by
  have h := hU.out
  unfold upT at h
  cases la : lead a with
  | false =>
    rw [if_neg (by simp [la])] at h
    simp only [Prod.mk.injEq] at h
    obtain ⟨rfl, rfl, rfl⟩ := h
    cases tb : trail b with
    | false => exact pu_na a b ha hb (Hid.mk' la) (Hid.mk' tb) w
    | true => exact pu_nb a b _ ha (Hid.mk' la) (Hid.mk' tb) (Hid.mk' rfl) w
  | true =>
    cases tb : trail b with
    | false =>
      rw [if_neg (by simp [tb])] at h
      simp only [Prod.mk.injEq] at h
      obtain ⟨rfl, rfl, rfl⟩ := h
      exact pu_nc a b _ hb (Hid.mk' la) (Hid.mk' rfl) (Hid.mk' tb) w
    | true =>
      rw [if_pos ⟨la, tb⟩] at h
      simp only [Prod.mk.injEq] at h
      obtain ⟨hA, hD, rfl⟩ := h
      have l1 := lead_iff.1 la
      have t1 := trail_iff.1 tb
      obtain ⟨k, hk⟩ : ∃ k, upK a = k := ⟨_, rfl⟩
      obtain ⟨n, hn⟩ : ∃ n, tnN b = n := ⟨_, rfl⟩
      have k1 : k ≤ 46 := by
        unfold upK at hk
        split at hk <;> omega
      have n1 : n ≤ 187 ∧ (b ≤ 126 ∧ n = b - 64 ∨ 126 < b ∧ n = b - 65) := by
        unfold tnN at hn
        split at hn <;> omega
      have eA : (k * 188 + n) / 94 + 1 = A := by
        rw [← hA]
        unfold upR
        rw [hk]
        by_cases h2 : b ≤ 158
        · rw [if_pos h2]; omega
        · rw [if_neg h2]; omega
      have eD : (k * 188 + n) % 94 + 1 = D := by
        rw [← hD]
        unfold upC
        by_cases h2 : b ≤ 158
        · rw [if_pos h2]
          by_cases h3 : 128 ≤ b
          · rw [if_pos h3]; omega
          · rw [if_neg h3]; omega
        · rw [if_neg h2]; omega
      refine pu_yes a b k n (k * 188) (k * 188 + n) ((k * 188 + n) / 94) ((k * 188 + n) % 94) A D (Hid.mk' la) (Hid.mk' tb) (Hid.mk' hk) (Hid.mk' hn) k1 n1.1 (by omega) (by omega) ?_ (by omega) ?_ (by omega) (by omega) (by omega) (by omega) w
      · rw [Int.tdiv_eq_ediv_of_nonneg (by omega)]; omega
      · rw [Int.tmod_eq_emod_of_nonneg (by omega)]; omega
end Go.Proofs.Ytkkdaoimnmghgaa.C18

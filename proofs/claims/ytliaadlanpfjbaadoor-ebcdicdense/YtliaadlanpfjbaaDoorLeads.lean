/- Whether a beginning leads on to a unit: a walk. -/
import Derived.Test.YtliaadlanpfjbaaDoorFormS
namespace Go.Proofs.YtliaadlanpfjbaaDoor.U8
open Go.ChangeShapes Go.WideShapes Go.ChangeAt Go.RowKit Go.Proofs.YtliaadlanpfjbaaDoor.Mem Go.Proofs.YtliaadlanpfjbaaDoor.Ucs
set_option linter.unusedVariables false

/-- Does some unit of the form k begin with n bytes whose bits are u? -/
def leads (k n : Nat) (u : Nat) : Bool :=
  decide (fleast k ≤ u * 2 ^ (6 * (fsize k - n)) + (2 ^ (6 * (fsize k - n)) - 1)) && scB ((u * 2 ^ (6 * (fsize k - n)) : Nat) : Int)

theorem i32_or (k a b x : Nat) (hk : k ≤ 30) (hb : b < 2 ^ k) (hx : x = a * 2 ^ k) (h : x + b < 2147483648) : bits .or .i32 (x : Int) (b : Int) = ((x + b : Nat) : Int) := by
  have e1 : (BitVec.ofInt 32 (x : Int)).toNat = x := by rw [BitVec.ofInt_natCast, BitVec.toNat_ofNat]; exact Nat.mod_eq_of_lt (by omega)
  have e2 : (BitVec.ofInt 32 (b : Int)).toNat = b := by rw [BitVec.ofInt_natCast, BitVec.toNat_ofNat]; exact Nat.mod_eq_of_lt (by omega)
  show IntKind.i32.wrap ((BitVec.ofInt 32 (x : Int) ||| BitVec.ofInt 32 (b : Int)).toNat : Int) = _
  have e3 := Nat.two_pow_add_eq_or_of_lt hb a
  rw [BitVec.toNat_or, e1, e2, hx, Nat.mul_comm a, ← e3, IntKind.wrap_i32]
  have e4 : 2 ^ k * a = x := by rw [hx, Nat.mul_comm]
  rw [e4]
  omega
theorem wrap_nat (x : Nat) (h : x < 2147483648) : wrap32 (x : Int) = (x : Int) := by unfold wrap32; omega
theorem or_zero (u : Nat) (h : u < 2147483648) : bits .or .i32 (u : Int) 0 = (u : Int) := i32_or 0 u 0 u (by omega) (by decide) (by simp) (by omega)
theorem leads_of (k n u x y : Nat) (hx : x = u * 2 ^ (6 * (fsize k - n))) (hy : y = x + (2 ^ (6 * (fsize k - n)) - 1)) : leads k n u = (decide (fleast k ≤ y) && scB (x : Int)) := by
  subst hy; subst hx; rfl

set_option maxRecDepth 100000 in
set_option maxHeartbeats 1000000 in
theorem leads_0_1 (u : Nat) (hu : u * 1 < 2097152) (w : World) :
    Calls Tryd.prog 25 #[formV 0, .int .i32 (u : Int), .int .i64 1] w fun e w' => e = .returned (.bool (leads 0 1 u)) ∧ w.grownBy w' none := by
  have hl : Hid (leads 0 1 u = (decide (0 ≤ (u : Int)) && scB ((u : Int)))) := by
    refine (?_ : leads 0 1 u = _)
    rw [leads_of 0 1 u (u * 1) (u * 1 + 0) rfl rfl]
    have h1 : decide (fleast 0 ≤ u * 1 + 0) = decide (0 ≤ (u : Int)) := decide_eq_decide.2 (by show 0 ≤ u * 1 + 0 ↔ _; omega)
    have h2 : ((u * 1 : Nat) : Int) = (u : Int) := by omega
    rw [h1, h2]
  have hu' : u ≤ 2097151 := by omega
  have hor := or_zero u (by omega)
  clear hu
  simp only [formV, fsize, fmask, fmark, fleast]
  have c : 0 ≤ (u : Int) := by omega
  go_enter Tryd.func25, Tryd.ntmps25
  go_wp2_with (go_at_call 27; refine (scalar_any _ _).mono ?_; rintro e w' ⟨rfl, hw⟩; obtain rfl := hw)
  go_ret
  exact ⟨ret_bool (by rw [hl.out]; rw [decide_eq_true (by omega), Bool.true_and]), World.grownBy_alloc _ _ _⟩

set_option maxRecDepth 100000 in
set_option maxHeartbeats 1000000 in
theorem leads_1_1 (u : Nat) (hu : u * 64 < 2097152) (w : World) :
    Calls Tryd.prog 25 #[formV 1, .int .i32 (u : Int), .int .i64 1] w fun e w' => e = .returned (.bool (leads 1 1 u)) ∧ w.grownBy w' none := by
  have hl : Hid (leads 1 1 u = (decide (128 ≤ (u : Int) * 64 + 63) && scB ((u : Int) * 64))) := by
    refine (?_ : leads 1 1 u = _)
    rw [leads_of 1 1 u (u * 64) (u * 64 + 63) rfl rfl]
    have h1 : decide (fleast 1 ≤ u * 64 + 63) = decide (128 ≤ (u : Int) * 64 + 63) := decide_eq_decide.2 (by show 128 ≤ u * 64 + 63 ↔ _; omega)
    have h2 : ((u * 64 : Nat) : Int) = (u : Int) * 64 := by omega
    rw [h1, h2]
  have hu' : u ≤ 32767 := by omega
  clear hu
  simp only [formV, fsize, fmask, fmark, fleast]
  go_enter Tryd.func25, Tryd.ntmps25
  go_wp2_with (go_at_call 27; refine (scalar_any _ _).mono ?_; rintro e w' ⟨rfl, hw⟩; obtain rfl := hw)
  all_goals go_ret
  · exact ⟨ret_bool (by rw [hl.out, decide_eq_true (by omega), Bool.true_and]), World.grownBy_alloc _ _ _⟩
  · exact ⟨ret_bool (by rw [hl.out, decide_eq_false (by omega), Bool.false_and]), World.grownBy_alloc _ _ _⟩

set_option maxRecDepth 100000 in
set_option maxHeartbeats 1000000 in
theorem leads_1_2 (u : Nat) (hu : u * 1 < 2097152) (w : World) :
    Calls Tryd.prog 25 #[formV 1, .int .i32 (u : Int), .int .i64 2] w fun e w' => e = .returned (.bool (leads 1 2 u)) ∧ w.grownBy w' none := by
  have hl : Hid (leads 1 2 u = (decide (128 ≤ (u : Int)) && scB ((u : Int)))) := by
    refine (?_ : leads 1 2 u = _)
    rw [leads_of 1 2 u (u * 1) (u * 1 + 0) rfl rfl]
    have h1 : decide (fleast 1 ≤ u * 1 + 0) = decide (128 ≤ (u : Int)) := decide_eq_decide.2 (by show 128 ≤ u * 1 + 0 ↔ _; omega)
    have h2 : ((u * 1 : Nat) : Int) = (u : Int) := by omega
    rw [h1, h2]
  have hu' : u ≤ 2097151 := by omega
  have hor := or_zero u (by omega)
  clear hu
  simp only [formV, fsize, fmask, fmark, fleast]
  go_enter Tryd.func25, Tryd.ntmps25
  go_wp2_with (go_at_call 27; refine (scalar_any _ _).mono ?_; rintro e w' ⟨rfl, hw⟩; obtain rfl := hw)
  all_goals go_ret
  · exact ⟨ret_bool (by rw [hl.out, decide_eq_true (by omega), Bool.true_and]), World.grownBy_alloc _ _ _⟩
  · exact ⟨ret_bool (by rw [hl.out, decide_eq_false (by omega), Bool.false_and]), World.grownBy_alloc _ _ _⟩

set_option maxRecDepth 100000 in
set_option maxHeartbeats 1000000 in
theorem leads_2_1 (u : Nat) (hu : u * 4096 < 2097152) (w : World) :
    Calls Tryd.prog 25 #[formV 2, .int .i32 (u : Int), .int .i64 1] w fun e w' => e = .returned (.bool (leads 2 1 u)) ∧ w.grownBy w' none := by
  have hl : Hid (leads 2 1 u = (decide (2048 ≤ (u : Int) * 4096 + 4095) && scB ((u : Int) * 4096))) := by
    refine (?_ : leads 2 1 u = _)
    rw [leads_of 2 1 u (u * 4096) (u * 4096 + 4095) rfl rfl]
    have h1 : decide (fleast 2 ≤ u * 4096 + 4095) = decide (2048 ≤ (u : Int) * 4096 + 4095) := decide_eq_decide.2 (by show 2048 ≤ u * 4096 + 4095 ↔ _; omega)
    have h2 : ((u * 4096 : Nat) : Int) = (u : Int) * 4096 := by omega
    rw [h1, h2]
  have hu' : u ≤ 511 := by omega
  clear hu
  simp only [formV, fsize, fmask, fmark, fleast]
  have c : 2048 ≤ (u : Int) * 4096 + 4095 := by omega
  go_enter Tryd.func25, Tryd.ntmps25
  go_wp2_with (go_at_call 27; refine (scalar_any _ _).mono ?_; rintro e w' ⟨rfl, hw⟩; obtain rfl := hw)
  go_ret
  exact ⟨ret_bool (by rw [hl.out]; rw [decide_eq_true (by omega), Bool.true_and]), World.grownBy_alloc _ _ _⟩

set_option maxRecDepth 100000 in
set_option maxHeartbeats 1000000 in
theorem leads_2_2 (u : Nat) (hu : u * 64 < 2097152) (w : World) :
    Calls Tryd.prog 25 #[formV 2, .int .i32 (u : Int), .int .i64 2] w fun e w' => e = .returned (.bool (leads 2 2 u)) ∧ w.grownBy w' none := by
  have hl : Hid (leads 2 2 u = (decide (2048 ≤ (u : Int) * 64 + 63) && scB ((u : Int) * 64))) := by
    refine (?_ : leads 2 2 u = _)
    rw [leads_of 2 2 u (u * 64) (u * 64 + 63) rfl rfl]
    have h1 : decide (fleast 2 ≤ u * 64 + 63) = decide (2048 ≤ (u : Int) * 64 + 63) := decide_eq_decide.2 (by show 2048 ≤ u * 64 + 63 ↔ _; omega)
    have h2 : ((u * 64 : Nat) : Int) = (u : Int) * 64 := by omega
    rw [h1, h2]
  have hu' : u ≤ 32767 := by omega
  clear hu
  simp only [formV, fsize, fmask, fmark, fleast]
  go_enter Tryd.func25, Tryd.ntmps25
  go_wp2_with (go_at_call 27; refine (scalar_any _ _).mono ?_; rintro e w' ⟨rfl, hw⟩; obtain rfl := hw)
  all_goals go_ret
  · exact ⟨ret_bool (by rw [hl.out, decide_eq_true (by omega), Bool.true_and]), World.grownBy_alloc _ _ _⟩
  · exact ⟨ret_bool (by rw [hl.out, decide_eq_false (by omega), Bool.false_and]), World.grownBy_alloc _ _ _⟩

set_option maxRecDepth 100000 in
set_option maxHeartbeats 1000000 in
theorem leads_2_3 (u : Nat) (hu : u * 1 < 2097152) (w : World) :
    Calls Tryd.prog 25 #[formV 2, .int .i32 (u : Int), .int .i64 3] w fun e w' => e = .returned (.bool (leads 2 3 u)) ∧ w.grownBy w' none := by
  have hl : Hid (leads 2 3 u = (decide (2048 ≤ (u : Int)) && scB ((u : Int)))) := by
    refine (?_ : leads 2 3 u = _)
    rw [leads_of 2 3 u (u * 1) (u * 1 + 0) rfl rfl]
    have h1 : decide (fleast 2 ≤ u * 1 + 0) = decide (2048 ≤ (u : Int)) := decide_eq_decide.2 (by show 2048 ≤ u * 1 + 0 ↔ _; omega)
    have h2 : ((u * 1 : Nat) : Int) = (u : Int) := by omega
    rw [h1, h2]
  have hu' : u ≤ 2097151 := by omega
  have hor := or_zero u (by omega)
  clear hu
  simp only [formV, fsize, fmask, fmark, fleast]
  go_enter Tryd.func25, Tryd.ntmps25
  go_wp2_with (go_at_call 27; refine (scalar_any _ _).mono ?_; rintro e w' ⟨rfl, hw⟩; obtain rfl := hw)
  all_goals go_ret
  · exact ⟨ret_bool (by rw [hl.out, decide_eq_true (by omega), Bool.true_and]), World.grownBy_alloc _ _ _⟩
  · exact ⟨ret_bool (by rw [hl.out, decide_eq_false (by omega), Bool.false_and]), World.grownBy_alloc _ _ _⟩

set_option maxRecDepth 100000 in
set_option maxHeartbeats 1000000 in
theorem leads_3_1 (u : Nat) (hu : u * 262144 < 2097152) (w : World) :
    Calls Tryd.prog 25 #[formV 3, .int .i32 (u : Int), .int .i64 1] w fun e w' => e = .returned (.bool (leads 3 1 u)) ∧ w.grownBy w' none := by
  have hl : Hid (leads 3 1 u = (decide (65536 ≤ (u : Int) * 262144 + 262143) && scB ((u : Int) * 262144))) := by
    refine (?_ : leads 3 1 u = _)
    rw [leads_of 3 1 u (u * 262144) (u * 262144 + 262143) rfl rfl]
    have h1 : decide (fleast 3 ≤ u * 262144 + 262143) = decide (65536 ≤ (u : Int) * 262144 + 262143) := decide_eq_decide.2 (by show 65536 ≤ u * 262144 + 262143 ↔ _; omega)
    have h2 : ((u * 262144 : Nat) : Int) = (u : Int) * 262144 := by omega
    rw [h1, h2]
  have hu' : u ≤ 7 := by omega
  clear hu
  simp only [formV, fsize, fmask, fmark, fleast]
  have c : 65536 ≤ (u : Int) * 262144 + 262143 := by omega
  go_enter Tryd.func25, Tryd.ntmps25
  go_wp2_with (go_at_call 27; refine (scalar_any _ _).mono ?_; rintro e w' ⟨rfl, hw⟩; obtain rfl := hw)
  go_ret
  exact ⟨ret_bool (by rw [hl.out]; rw [decide_eq_true (by omega), Bool.true_and]), World.grownBy_alloc _ _ _⟩

set_option maxRecDepth 100000 in
set_option maxHeartbeats 1000000 in
theorem leads_3_2 (u : Nat) (hu : u * 4096 < 2097152) (w : World) :
    Calls Tryd.prog 25 #[formV 3, .int .i32 (u : Int), .int .i64 2] w fun e w' => e = .returned (.bool (leads 3 2 u)) ∧ w.grownBy w' none := by
  have hl : Hid (leads 3 2 u = (decide (65536 ≤ (u : Int) * 4096 + 4095) && scB ((u : Int) * 4096))) := by
    refine (?_ : leads 3 2 u = _)
    rw [leads_of 3 2 u (u * 4096) (u * 4096 + 4095) rfl rfl]
    have h1 : decide (fleast 3 ≤ u * 4096 + 4095) = decide (65536 ≤ (u : Int) * 4096 + 4095) := decide_eq_decide.2 (by show 65536 ≤ u * 4096 + 4095 ↔ _; omega)
    have h2 : ((u * 4096 : Nat) : Int) = (u : Int) * 4096 := by omega
    rw [h1, h2]
  have hu' : u ≤ 511 := by omega
  clear hu
  simp only [formV, fsize, fmask, fmark, fleast]
  go_enter Tryd.func25, Tryd.ntmps25
  go_wp2_with (go_at_call 27; refine (scalar_any _ _).mono ?_; rintro e w' ⟨rfl, hw⟩; obtain rfl := hw)
  all_goals go_ret
  · exact ⟨ret_bool (by rw [hl.out, decide_eq_true (by omega), Bool.true_and]), World.grownBy_alloc _ _ _⟩
  · exact ⟨ret_bool (by rw [hl.out, decide_eq_false (by omega), Bool.false_and]), World.grownBy_alloc _ _ _⟩

set_option maxRecDepth 100000 in
set_option maxHeartbeats 1000000 in
theorem leads_3_3 (u : Nat) (hu : u * 64 < 2097152) (w : World) :
    Calls Tryd.prog 25 #[formV 3, .int .i32 (u : Int), .int .i64 3] w fun e w' => e = .returned (.bool (leads 3 3 u)) ∧ w.grownBy w' none := by
  have hl : Hid (leads 3 3 u = (decide (65536 ≤ (u : Int) * 64 + 63) && scB ((u : Int) * 64))) := by
    refine (?_ : leads 3 3 u = _)
    rw [leads_of 3 3 u (u * 64) (u * 64 + 63) rfl rfl]
    have h1 : decide (fleast 3 ≤ u * 64 + 63) = decide (65536 ≤ (u : Int) * 64 + 63) := decide_eq_decide.2 (by show 65536 ≤ u * 64 + 63 ↔ _; omega)
    have h2 : ((u * 64 : Nat) : Int) = (u : Int) * 64 := by omega
    rw [h1, h2]
  have hu' : u ≤ 32767 := by omega
  clear hu
  simp only [formV, fsize, fmask, fmark, fleast]
  go_enter Tryd.func25, Tryd.ntmps25
  go_wp2_with (go_at_call 27; refine (scalar_any _ _).mono ?_; rintro e w' ⟨rfl, hw⟩; obtain rfl := hw)
  all_goals go_ret
  · exact ⟨ret_bool (by rw [hl.out, decide_eq_true (by omega), Bool.true_and]), World.grownBy_alloc _ _ _⟩
  · exact ⟨ret_bool (by rw [hl.out, decide_eq_false (by omega), Bool.false_and]), World.grownBy_alloc _ _ _⟩

set_option maxRecDepth 100000 in
set_option maxHeartbeats 1000000 in
theorem leads_3_4 (u : Nat) (hu : u * 1 < 2097152) (w : World) :
    Calls Tryd.prog 25 #[formV 3, .int .i32 (u : Int), .int .i64 4] w fun e w' => e = .returned (.bool (leads 3 4 u)) ∧ w.grownBy w' none := by
  have hl : Hid (leads 3 4 u = (decide (65536 ≤ (u : Int)) && scB ((u : Int)))) := by
    refine (?_ : leads 3 4 u = _)
    rw [leads_of 3 4 u (u * 1) (u * 1 + 0) rfl rfl]
    have h1 : decide (fleast 3 ≤ u * 1 + 0) = decide (65536 ≤ (u : Int)) := decide_eq_decide.2 (by show 65536 ≤ u * 1 + 0 ↔ _; omega)
    have h2 : ((u * 1 : Nat) : Int) = (u : Int) := by omega
    rw [h1, h2]
  have hu' : u ≤ 2097151 := by omega
  have hor := or_zero u (by omega)
  clear hu
  simp only [formV, fsize, fmask, fmark, fleast]
  go_enter Tryd.func25, Tryd.ntmps25
  go_wp2_with (go_at_call 27; refine (scalar_any _ _).mono ?_; rintro e w' ⟨rfl, hw⟩; obtain rfl := hw)
  all_goals go_ret
  · exact ⟨ret_bool (by rw [hl.out, decide_eq_true (by omega), Bool.true_and]), World.grownBy_alloc _ _ _⟩
  · exact ⟨ret_bool (by rw [hl.out, decide_eq_false (by omega), Bool.false_and]), World.grownBy_alloc _ _ _⟩

theorem leads_any (k n u : Nat) (hk : k < 4) (hn : 1 ≤ n) (hs : n ≤ fsize k) (hu : u * 2 ^ (6 * (fsize k - n)) < 2097152) (w : World) :
    Calls Tryd.prog 25 #[formV k, .int .i32 (u : Int), .int .i64 (n : Int)] w fun e w' => e = .returned (.bool (leads k n u)) ∧ w.grownBy w' none := by
  have h : k = 0 ∨ k = 1 ∨ k = 2 ∨ k = 3 := by omega
  rcases h with rfl | rfl | rfl | rfl
  · have h : n = 1 := by simp only [fsize] at hs; omega
    rcases h with rfl
    · exact leads_0_1 u hu w
  · have h : n = 1 ∨ n = 2 := by simp only [fsize] at hs; omega
    rcases h with rfl | rfl
    · exact leads_1_1 u hu w
    · exact leads_1_2 u hu w
  · have h : n = 1 ∨ n = 2 ∨ n = 3 := by simp only [fsize] at hs; omega
    rcases h with rfl | rfl | rfl
    · exact leads_2_1 u hu w
    · exact leads_2_2 u hu w
    · exact leads_2_3 u hu w
  · have h : n = 1 ∨ n = 2 ∨ n = 3 ∨ n = 4 := by simp only [fsize] at hs; omega
    rcases h with rfl | rfl | rfl | rfl
    · exact leads_3_1 u hu w
    · exact leads_3_2 u hu w
    · exact leads_3_3 u hu w
    · exact leads_3_4 u hu w
end Go.Proofs.YtliaadlanpfjbaaDoor.U8

/- The document's Pack and Unpack of layer 18: walks. -/
import Derived.Test.YtkkdaoimnmghgaaFP18
namespace Go.Proofs.Ytkkdaoimnmghgaa.C18
open Go.ChangeShapes Go.WideShapes Go.ChangeAt Go.RowKit Go.Proofs.Ytkkdaoimnmghgaa.Mem Go.Proofs.Ytkkdaoimnmghgaa.Sp
set_option linter.unusedVariables false
set_option linter.unusedSimpArgs false

set_option maxRecDepth 100000 in
set_option maxHeartbeats 1000000 in
theorem pk_0e (r c p q l0 t0 : Nat) (e1 : (r : Int) - 1 = (p : Int)) (e2 : (p : Int).tdiv 2 = (q : Int)) (e3 : (r : Int).tmod 2 = 0) (e4 : 129 + (q : Int) = (l0 : Int)) (e6 : 158 + (c : Int) = (t0 : Int)) (g1 : ¬ 159 < (l0 : Int)) (b1 : (r : Int) ≤ 94) (b2 : 1 ≤ (r : Int)) (b3 : (c : Int) ≤ 94) (b4 : 1 ≤ (c : Int)) (b5 : (l0 : Int) < 256) (b6 : (t0 : Int) < 256) (w : World) : Calls Try.prog 14 #[.int .i64 (r : Int), .int .i64 (c : Int)] w fun e w' => e = .returned (.tuple #[.int .u8 (l0 : Int), .int .u8 (t0 : Int), .bool true]) ∧ w' = w := by
  have d1 : decide ((r : Int) < 1) = false := by simp; omega
  have d2 : decide (94 < (r : Int)) = false := by simp; omega
  have d3 : decide ((c : Int) < 1) = false := by simp; omega
  have d4 : decide (94 < (c : Int)) = false := by simp; omega
  go_enter Try.func14, Try.ntmps14
  go_wp2
  exact bodyPost_ret (v := .tuple #[.int .u8 (l0 : Int), .int .u8 (t0 : Int), .bool true]) (by simp [results, Try.results14, go_sem]) rfl ⟨rfl, rfl⟩
set_option maxRecDepth 100000 in
set_option maxHeartbeats 1000000 in
theorem pk_0o (r c p q l0 t0 : Nat) (e1 : (r : Int) - 1 = (p : Int)) (e2 : (p : Int).tdiv 2 = (q : Int)) (e3 : (r : Int).tmod 2 = 1) (e4 : 129 + (q : Int) = (l0 : Int)) (e6 : 158 + (c : Int) = (t0 : Int)) (g1 : ¬ 159 < (l0 : Int)) (t1 : Nat) (e7 : 63 + (c : Int) = (t1 : Int)) (g2 : ¬ 63 < (c : Int)) (b1 : (r : Int) ≤ 94) (b2 : 1 ≤ (r : Int)) (b3 : (c : Int) ≤ 94) (b4 : 1 ≤ (c : Int)) (b5 : (l0 : Int) < 256) (b6 : (t1 : Int) < 256) (w : World) : Calls Try.prog 14 #[.int .i64 (r : Int), .int .i64 (c : Int)] w fun e w' => e = .returned (.tuple #[.int .u8 (l0 : Int), .int .u8 (t1 : Int), .bool true]) ∧ w' = w := by
  have d1 : decide ((r : Int) < 1) = false := by simp; omega
  have d2 : decide (94 < (r : Int)) = false := by simp; omega
  have d3 : decide ((c : Int) < 1) = false := by simp; omega
  have d4 : decide (94 < (c : Int)) = false := by simp; omega
  go_enter Try.func14, Try.ntmps14
  go_wp2
  exact bodyPost_ret (v := .tuple #[.int .u8 (l0 : Int), .int .u8 (t1 : Int), .bool true]) (by simp [results, Try.results14, go_sem]) rfl ⟨rfl, rfl⟩
set_option maxRecDepth 100000 in
set_option maxHeartbeats 1000000 in
theorem pk_0O (r c p q l0 t0 : Nat) (e1 : (r : Int) - 1 = (p : Int)) (e2 : (p : Int).tdiv 2 = (q : Int)) (e3 : (r : Int).tmod 2 = 1) (e4 : 129 + (q : Int) = (l0 : Int)) (e6 : 158 + (c : Int) = (t0 : Int)) (g1 : ¬ 159 < (l0 : Int)) (t1 : Nat) (e7 : 63 + (c : Int) = (t1 : Int)) (t2 : Nat) (e8 : 64 + (c : Int) = (t2 : Int)) (g2 : 63 < (c : Int)) (b1 : (r : Int) ≤ 94) (b2 : 1 ≤ (r : Int)) (b3 : (c : Int) ≤ 94) (b4 : 1 ≤ (c : Int)) (b5 : (l0 : Int) < 256) (b6 : (t2 : Int) < 256) (w : World) : Calls Try.prog 14 #[.int .i64 (r : Int), .int .i64 (c : Int)] w fun e w' => e = .returned (.tuple #[.int .u8 (l0 : Int), .int .u8 (t2 : Int), .bool true]) ∧ w' = w := by
  have d1 : decide ((r : Int) < 1) = false := by simp; omega
  have d2 : decide (94 < (r : Int)) = false := by simp; omega
  have d3 : decide ((c : Int) < 1) = false := by simp; omega
  have d4 : decide (94 < (c : Int)) = false := by simp; omega
  go_enter Try.func14, Try.ntmps14
  go_wp2
  exact bodyPost_ret (v := .tuple #[.int .u8 (l0 : Int), .int .u8 (t2 : Int), .bool true]) (by simp [results, Try.results14, go_sem]) rfl ⟨rfl, rfl⟩
set_option maxRecDepth 100000 in
set_option maxHeartbeats 1000000 in
theorem pk_1e (r c p q l0 t0 : Nat) (e1 : (r : Int) - 1 = (p : Int)) (e2 : (p : Int).tdiv 2 = (q : Int)) (e3 : (r : Int).tmod 2 = 0) (e4 : 129 + (q : Int) = (l0 : Int)) (e6 : 158 + (c : Int) = (t0 : Int)) (l : Nat) (e5 : 193 + (q : Int) = (l : Int)) (g1 : 159 < (l0 : Int)) (b1 : (r : Int) ≤ 94) (b2 : 1 ≤ (r : Int)) (b3 : (c : Int) ≤ 94) (b4 : 1 ≤ (c : Int)) (b5 : (l : Int) < 256) (b6 : (t0 : Int) < 256) (w : World) : Calls Try.prog 14 #[.int .i64 (r : Int), .int .i64 (c : Int)] w fun e w' => e = .returned (.tuple #[.int .u8 (l : Int), .int .u8 (t0 : Int), .bool true]) ∧ w' = w := by
  have d1 : decide ((r : Int) < 1) = false := by simp; omega
  have d2 : decide (94 < (r : Int)) = false := by simp; omega
  have d3 : decide ((c : Int) < 1) = false := by simp; omega
  have d4 : decide (94 < (c : Int)) = false := by simp; omega
  go_enter Try.func14, Try.ntmps14
  go_wp2
  exact bodyPost_ret (v := .tuple #[.int .u8 (l : Int), .int .u8 (t0 : Int), .bool true]) (by simp [results, Try.results14, go_sem]) rfl ⟨rfl, rfl⟩
set_option maxRecDepth 100000 in
set_option maxHeartbeats 1000000 in
theorem pk_1o (r c p q l0 t0 : Nat) (e1 : (r : Int) - 1 = (p : Int)) (e2 : (p : Int).tdiv 2 = (q : Int)) (e3 : (r : Int).tmod 2 = 1) (e4 : 129 + (q : Int) = (l0 : Int)) (e6 : 158 + (c : Int) = (t0 : Int)) (l : Nat) (e5 : 193 + (q : Int) = (l : Int)) (g1 : 159 < (l0 : Int)) (t1 : Nat) (e7 : 63 + (c : Int) = (t1 : Int)) (g2 : ¬ 63 < (c : Int)) (b1 : (r : Int) ≤ 94) (b2 : 1 ≤ (r : Int)) (b3 : (c : Int) ≤ 94) (b4 : 1 ≤ (c : Int)) (b5 : (l : Int) < 256) (b6 : (t1 : Int) < 256) (w : World) : Calls Try.prog 14 #[.int .i64 (r : Int), .int .i64 (c : Int)] w fun e w' => e = .returned (.tuple #[.int .u8 (l : Int), .int .u8 (t1 : Int), .bool true]) ∧ w' = w := by
  have d1 : decide ((r : Int) < 1) = false := by simp; omega
  have d2 : decide (94 < (r : Int)) = false := by simp; omega
  have d3 : decide ((c : Int) < 1) = false := by simp; omega
  have d4 : decide (94 < (c : Int)) = false := by simp; omega
  go_enter Try.func14, Try.ntmps14
  go_wp2
  exact bodyPost_ret (v := .tuple #[.int .u8 (l : Int), .int .u8 (t1 : Int), .bool true]) (by simp [results, Try.results14, go_sem]) rfl ⟨rfl, rfl⟩
set_option maxRecDepth 100000 in
set_option maxHeartbeats 1000000 in
theorem pk_1O (r c p q l0 t0 : Nat) (e1 : (r : Int) - 1 = (p : Int)) (e2 : (p : Int).tdiv 2 = (q : Int)) (e3 : (r : Int).tmod 2 = 1) (e4 : 129 + (q : Int) = (l0 : Int)) (e6 : 158 + (c : Int) = (t0 : Int)) (l : Nat) (e5 : 193 + (q : Int) = (l : Int)) (g1 : 159 < (l0 : Int)) (t1 : Nat) (e7 : 63 + (c : Int) = (t1 : Int)) (t2 : Nat) (e8 : 64 + (c : Int) = (t2 : Int)) (g2 : 63 < (c : Int)) (b1 : (r : Int) ≤ 94) (b2 : 1 ≤ (r : Int)) (b3 : (c : Int) ≤ 94) (b4 : 1 ≤ (c : Int)) (b5 : (l : Int) < 256) (b6 : (t2 : Int) < 256) (w : World) : Calls Try.prog 14 #[.int .i64 (r : Int), .int .i64 (c : Int)] w fun e w' => e = .returned (.tuple #[.int .u8 (l : Int), .int .u8 (t2 : Int), .bool true]) ∧ w' = w := by
  have d1 : decide ((r : Int) < 1) = false := by simp; omega
  have d2 : decide (94 < (r : Int)) = false := by simp; omega
  have d3 : decide ((c : Int) < 1) = false := by simp; omega
  have d4 : decide (94 < (c : Int)) = false := by simp; omega
  go_enter Try.func14, Try.ntmps14
  go_wp2
  exact bodyPost_ret (v := .tuple #[.int .u8 (l : Int), .int .u8 (t2 : Int), .bool true]) (by simp [results, Try.results14, go_sem]) rfl ⟨rfl, rfl⟩
theorem pack_yes (r c : Nat) (h1 : 1 ≤ r) (h2 : r ≤ 94) (h3 : 1 ≤ c) (h4 : c ≤ 94) (w : World) : Calls Try.prog 14 #[.int .i64 (r : Int), .int .i64 (c : Int)] w fun e w' => e = .returned (.tuple #[.int .u8 (ldN r : Int), .int .u8 (trN r c : Int), .bool true]) ∧ w' = w := by
  have e1 : (r : Int) - 1 = ((r - 1 : Nat) : Int) := by omega
  have e2 : ((r - 1 : Nat) : Int).tdiv 2 = (((r - 1) / 2 : Nat) : Int) := by rw [Int.tdiv_eq_ediv_of_nonneg (by omega)]; omega
  have e30 : (r : Int).tmod 2 = ((r % 2 : Nat) : Int) := by rw [Int.tmod_eq_emod_of_nonneg (by omega)]; omega
  by_cases h5 : 159 < 129 + (r - 1) / 2
  · have eL : ldN r = 193 + (r - 1) / 2 := by unfold ldN; rw [if_pos h5]
    rw [eL]
    by_cases h6 : r % 2 = 1
    · have e3 : (r : Int).tmod 2 = 1 := by rw [e30, h6]; rfl
      by_cases h7 : 63 < c
      · have eT : trN r c = 64 + c := by unfold trN; rw [if_pos h6, if_pos h7]
        rw [eT]
        exact pk_1O r c _ _ (129 + (r - 1) / 2) (158 + c) e1 e2 e3 (by omega) (by omega) _ (by omega) (by omega) (63 + c) (by omega) _ (by omega) (by omega) (by omega) (by omega) (by omega) (by omega) (by omega) (by omega) w
      · have eT : trN r c = 63 + c := by unfold trN; rw [if_pos h6, if_neg h7]
        rw [eT]
        exact pk_1o r c _ _ (129 + (r - 1) / 2) (158 + c) e1 e2 e3 (by omega) (by omega) _ (by omega) (by omega) _ (by omega) (by omega) (by omega) (by omega) (by omega) (by omega) (by omega) (by omega) w
    · have e3 : (r : Int).tmod 2 = 0 := by rw [e30, show r % 2 = 0 by omega]; rfl
      have eT : trN r c = 158 + c := by unfold trN; rw [if_neg h6]
      rw [eT]
      exact pk_1e r c _ _ (129 + (r - 1) / 2) _ e1 e2 e3 (by omega) (by omega) _ (by omega) (by omega) (by omega) (by omega) (by omega) (by omega) (by omega) (by omega) w
  · have eL : ldN r = 129 + (r - 1) / 2 := by unfold ldN; rw [if_neg h5]
    rw [eL]
    by_cases h6 : r % 2 = 1
    · have e3 : (r : Int).tmod 2 = 1 := by rw [e30, h6]; rfl
      by_cases h7 : 63 < c
      · have eT : trN r c = 64 + c := by unfold trN; rw [if_pos h6, if_pos h7]
        rw [eT]
        exact pk_0O r c _ _ _ (158 + c) e1 e2 e3 (by omega) (by omega) (by omega) (63 + c) (by omega) _ (by omega) (by omega) (by omega) (by omega) (by omega) (by omega) (by omega) (by omega) w
      · have eT : trN r c = 63 + c := by unfold trN; rw [if_pos h6, if_neg h7]
        rw [eT]
        exact pk_0o r c _ _ _ (158 + c) e1 e2 e3 (by omega) (by omega) (by omega) _ (by omega) (by omega) (by omega) (by omega) (by omega) (by omega) (by omega) (by omega) w
    · have e3 : (r : Int).tmod 2 = 0 := by rw [e30, show r % 2 = 0 by omega]; rfl
      have eT : trN r c = 158 + c := by unfold trN; rw [if_neg h6]
      rw [eT]
      exact pk_0e r c _ _ _ _ e1 e2 e3 (by omega) (by omega) (by omega) (by omega) (by omega) (by omega) (by omega) (by omega) (by omega) w
set_option maxRecDepth 100000 in
set_option maxHeartbeats 1000000 in
theorem pack_no (r c : Int) (h : ¬ In2 r c) (w : World) : Calls Try.prog 14 #[.int .i64 r, .int .i64 c] w fun e w' => e = .returned (.tuple #[.int .u8 0, .int .u8 0, .bool false]) ∧ w' = w := by
  unfold In2 at h
  by_cases h1 : r < 1
  · have d1 : decide (r < 1) = true := by simpa using h1
    clear h h1
    go_enter Try.func14, Try.ntmps14
    go_wp2
    exact bodyPost_ret (v := .tuple #[.int .u8 0, .int .u8 0, .bool false]) (by simp [results, Try.results14, go_sem]) rfl ⟨rfl, rfl⟩
  by_cases h2 : 94 < r
  · have d1 : decide (r < 1) = false := by simpa using h1
    have d2 : decide (94 < r) = true := by simpa using h2
    clear h h1 h2
    go_enter Try.func14, Try.ntmps14
    go_wp2
    exact bodyPost_ret (v := .tuple #[.int .u8 0, .int .u8 0, .bool false]) (by simp [results, Try.results14, go_sem]) rfl ⟨rfl, rfl⟩
  by_cases h3 : c < 1
  · have d1 : decide (r < 1) = false := by simpa using h1
    have d2 : decide (94 < r) = false := by simpa using h2
    have d3 : decide (c < 1) = true := by simpa using h3
    clear h h1 h2 h3
    go_enter Try.func14, Try.ntmps14
    go_wp2
    exact bodyPost_ret (v := .tuple #[.int .u8 0, .int .u8 0, .bool false]) (by simp [results, Try.results14, go_sem]) rfl ⟨rfl, rfl⟩
  · have d1 : decide (r < 1) = false := by simpa using h1
    have d2 : decide (94 < r) = false := by simpa using h2
    have d3 : decide (c < 1) = false := by simpa using h3
    have d4 : decide (94 < c) = true := by simp; omega
    clear h h1 h2 h3
    go_enter Try.func14, Try.ntmps14
    go_wp2
    exact bodyPost_ret (v := .tuple #[.int .u8 0, .int .u8 0, .bool false]) (by simp [results, Try.results14, go_sem]) rfl ⟨rfl, rfl⟩
theorem packRef (r c : Int) (A D : Nat) (ok : Bool) (hP : Hid (pkT r c = (A, D, ok))) (w : World) : Calls Try.prog 14 #[.int .i64 r, .int .i64 c] w fun e w' => e = .returned (.tuple #[.int .u8 (A : Int), .int .u8 (D : Int), .bool ok]) ∧ w.grownBy w' none := by
  have h := hP.out
  unfold pkT at h
  by_cases hi : In2 r c
  · rw [if_pos hi] at h
    simp only [Prod.mk.injEq] at h
    obtain ⟨rfl, rfl, rfl⟩ := h
    obtain ⟨h1, h2, h3, h4⟩ := hi
    have := pack_yes r.toNat c.toNat (by omega) (by omega) (by omega) (by omega) w
    rw [Int.toNat_of_nonneg (by omega), Int.toNat_of_nonneg (by omega)] at this
    exact this.mono (fun e w' h => ⟨h.1, by rw [h.2]; exact grownBy_refl _ _⟩)
  · rw [if_neg hi] at h
    simp only [Prod.mk.injEq] at h
    obtain ⟨rfl, rfl, rfl⟩ := h
    exact (pack_no r c hi w).mono (fun e w' h => ⟨h.1, by rw [h.2]; exact grownBy_refl _ _⟩)
set_option maxRecDepth 100000 in
set_option maxHeartbeats 1000000 in
theorem unpackRef (a b : Nat) (ha : a < 256) (hb : b < 256) (A D : Nat) (ok : Bool) (hU : Hid (upT a b = (A, D, ok))) (w : World) : Calls Try.prog 16 #[.int .u8 (a : Int), .int .u8 (b : Int)] w fun e w' => e = .returned (.tuple #[.int .i64 (A : Int), .int .i64 (D : Int), .bool ok]) ∧ w.grownBy w' none := by
  go_enter Try.func16, Try.ntmps16
  go_wp2
  go_loopw [7] (fun t7 wx => ∃ (r : Nat), r ≤ 94 ∧ t7 = .int .i64 ((r : Int) + 1) ∧ Hid (∀ x y, 1 ≤ x → x ≤ r → 1 ≤ y → y ≤ 94 → ldN x = a → trN x y = b → False) ∧ Hid (w.grownBy wx none)) (fun t7 _ => 95 - (intOf t7).toNat)
  case atStart => exact ⟨0, by omega, rfl, Hid.mk' (by omega), Hid.mk' (grownBy_refl _ _)⟩
  case round =>
    obtain ⟨r, hr, rfl, hn, hG⟩ := hrel
    by_cases hlt : r < 94
    · have hlt' : (r : Int) + 1 ≤ 94 := by omega
      have a1 : Hid (∀ w, Calls Try.prog 14 #[.int .i64 ((r : Int) + 1), .int .i64 1] w fun e w' => e = .returned (.tuple #[.int .u8 (ldN (r + 1) : Int), .int .u8 (trN (r + 1) 1 : Int), .bool true]) ∧ w.grownBy w' none) := Hid.mk' (fun w => (pack_yes (r + 1) 1 (by omega) (by omega) (by omega) (by omega) w).mono (fun e w' h => ⟨h.1, by rw [h.2]; exact grownBy_refl _ _⟩))
      obtain ⟨l, hl⟩ : ∃ l, Hid (ldN (r + 1) = l) := ⟨_, Hid.mk' rfl⟩
      rw [hl.out] at a1
      generalize trN (r + 1) 1 = t1 at a1
      by_cases hla : l = a
      · subst hla
        have hll : ((l : Int) != (l : Int)) = false := by simp
        go_upto_region 6 with (go_at_call 14; refine (a1.out _).mono ?_; rintro e w1 ⟨rfl, hg1⟩)
        go_wp2
        go_loopw [11] (fun t11 wx => ∃ (c : Nat), c ≤ 94 ∧ t11 = .int .i64 ((c : Int) + 1) ∧ Hid (∀ y, 1 ≤ y → y ≤ c → trN (r + 1) y = b → False) ∧ Hid (w.grownBy wx none)) (fun t11 _ => 95 - (intOf t11).toNat)
        case atStart => exact ⟨0, by omega, rfl, Hid.mk' (by omega), Hid.mk' (gt hG.out hg1)⟩
        case round =>
          obtain ⟨c, hc, rfl, hm, hG2⟩ := hrel
          by_cases hlc : c < 94
          · have hlc' : (c : Int) + 1 ≤ 94 := by omega
            have a2 : Hid (∀ w, Calls Try.prog 14 #[.int .i64 ((r : Int) + 1), .int .i64 ((c : Int) + 1)] w fun e w' => e = .returned (.tuple #[.int .u8 (l : Int), .int .u8 (trN (r + 1) (c + 1) : Int), .bool true]) ∧ w.grownBy w' none) := Hid.mk' (fun w => by
              have := pack_yes (r + 1) (c + 1) (by omega) (by omega) (by omega) (by omega) w
              rw [hl.out] at this
              exact this.mono (fun e w' h => ⟨h.1, by rw [h.2]; exact grownBy_refl _ _⟩))
            obtain ⟨t, ht⟩ : ∃ t, Hid (trN (r + 1) (c + 1) = t) := ⟨_, Hid.mk' rfl⟩
            rw [ht.out] at a2
            by_cases htb : t = b
            · subst htb
              have hx := up_of (r := r + 1) (c := c + 1) (by omega) (by omega) (by omega) (by omega)
              rw [hl.out, ht.out] at hx
              have e := hU.out
              rw [hx] at e
              simp only [Prod.mk.injEq] at e
              obtain ⟨rfl, rfl, rfl⟩ := e
              have htt : ((t : Int) == (t : Int)) = true := by simp
              clear hU hx hl ht hn hm
              go_wp2_with (go_at_call 14; refine (a2.out _).mono ?_; rintro e w1 ⟨rfl, hg1⟩)
              go_ret3
              refine ⟨?_, gt hG2.out hg1⟩
              simp
            · have htb' : ((t : Int) == (b : Int)) = false := by simp; omega
              go_wp2_with (go_at_call 14; refine (a2.out _).mono ?_; rintro e w1 ⟨rfl, hg1⟩)
              go_roundw
              case rel => exact ⟨c + 1, by omega, by go_num, Hid.mk' (fun y h1 h2 h3 => by
                by_cases e : y = c + 1
                · subst e; rw [ht.out] at h3; exact htb h3
                · exact hm.out y h1 (by omega) h3), Hid.mk' (gt hG2.out hg1)⟩
              all_goals (simp [intOf]; omega)
          · obtain rfl : c = 94 := by omega
            go_wp2
            go_roundw
            case rel => exact ⟨r + 1, by omega, by go_num, Hid.mk' (fun x y h1 h2 h3 h4 h5 h6 => by
              by_cases e : x = r + 1
              · subst e; exact hm.out y h3 h4 h6
              · exact hn.out x y h1 (by omega) h3 h4 h5 h6), hG2⟩
            all_goals (simp [intOf]; omega)
      · have hla' : ((l : Int) != (a : Int)) = true := by simp; omega
        go_wp2_with (go_at_call 14; refine (a1.out _).mono ?_; rintro e w1 ⟨rfl, hg1⟩)
        go_roundw
        case rel => exact ⟨r + 1, by omega, by go_num, Hid.mk' (fun x y h1 h2 h3 h4 h5 h6 => by
          by_cases e : x = r + 1
          · subst e; rw [hl.out] at h5; exact hla h5
          · exact hn.out x y h1 (by omega) h3 h4 h5 h6), Hid.mk' (gt hG.out hg1)⟩
        all_goals (simp [intOf]; omega)
    · obtain rfl : r = 94 := by omega
      have e := hU.out
      rw [up_none (fun x y h1 h2 h3 h4 h5 h6 => hn.out x y h1 h2 h3 h4 h5 h6)] at e
      simp only [Prod.mk.injEq] at e
      obtain ⟨rfl, rfl, rfl⟩ := e
      clear hU hn
      go_wp2_with fail
      go_ret3
      exact ⟨rfl, hG.out⟩
end Go.Proofs.Ytkkdaoimnmghgaa.C18

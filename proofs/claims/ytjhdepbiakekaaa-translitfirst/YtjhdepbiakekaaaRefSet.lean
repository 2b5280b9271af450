/- The document's step that puts out a scalar: walks. -/
import Derived.Test.YtjhdepbiakekaaaSet
import Derived.Test.YtjhdepbiakekaaaMath
namespace Go.Proofs.Ytjhdepbiakekaaa.U8
open Go.ChangeShapes Go.WideShapes Go.ChangeAt Go.RowKit Go.Proofs.Ytjhdepbiakekaaa.Mem Go.Proofs.Ytjhdepbiakekaaa.Ucs
set_option linter.unusedVariables false

theorem info5 : (Try.prog.info? 5).map (fun i => (i.zero, i.size, i.bytes)) = some (some (.int .u8 0), 1, 1) := by kernel_rfl
theorem own_one (w : World) (c : UInt8) : Own (w.alloc (.cells #[.int .u8 (c.toNat : Int)] 5)) (some ⟨w.heap.size, 0, none⟩) 1 [c] :=
  .inr ⟨w.heap.size, _, rfl, heap_alloc_new w _, by simp, by simp [maxLen], rfl, rfl⟩

set_option maxRecDepth 100000 in
set_option maxHeartbeats 1000000 in
theorem bytes_one (u : Nat) (hu : u < 128) (w : World) : Calls Try.prog 26 #[.int .i32 (u : Int), .int .i64 1] w fun e w' => ∃ ao c, e = .returned (.slice ao (unit u).length c) ∧ Bytes w' ao (unit u) ∧ w.grownBy w' none := by
  have e : unit u = [UInt8.ofNat u] := by unfold unit; rw [if_pos hu]
  rw [e]
  have h8 : ((UInt8.ofNat u).toNat : Int) = (u : Int) := by rw [u8_of u (by omega)]
  go_enter Try.func26, Try.ntmps26
  go_wp2
  go_ret
  refine ⟨_, _, rfl, ?_, World.grownBy_alloc _ _ _⟩
  have := (own_one w (UInt8.ofNat u)).bytes
  rwa [h8] at this

theorem tl_div (u j : Nat) : u / 64 ^ j / 64 = u / 64 ^ (j + 1) := div_64' u j
set_option maxRecDepth 100000 in
set_option maxHeartbeats 4000000 in
theorem bytes_1 (u : Nat) (hu : u ≤ 1114111) (hku : uk u = 1) (hub : u < 2048) (w : World) : Calls Try.prog 26 #[.int .i32 (u : Int), .int .i64 2] w fun e w' => ∃ ao c, e = .returned (.slice ao (unit u).length c) ∧ Bytes w' ao (unit u) ∧ w.grownBy w' none := by
  obtain ⟨i0, hi, hz0, hz1, hz2⟩ := info_parts info5
  have hue : Hid (unit u = lead u :: tls 1 u) := by rw [← hku]; exact unit_eq u
  have hln := lead_nat hu
  rw [hku] at hln
  clear hku
  go_enter Try.func26, Try.ntmps26
  go_wp2
  go_loopw [0, 5, 6] (fun t0 t5 t6 wx => ∃ j v : Nat, j ≤ 1 ∧ Hid (v = u / 64 ^ j) ∧ v ≤ u ∧ t0 = .int .i32 (v : Int) ∧ t6 = .int .i64 ((j : Int) + 1) ∧ (∃ ao c, t5 = .slice ao (tls j u).length c ∧ Bytes wx ao (tls j u)) ∧ w.grownBy wx none) (fun _ _ t6 _ => 4 - (intOf t6).toNat)
  case atStart => exact ⟨0, u, by omega, (by simp : u = u / 64 ^ 0), by omega, rfl, rfl, ⟨none, 0, rfl, .inl ⟨rfl, rfl⟩⟩, grownBy_refl _ _⟩
  case round =>
    obtain ⟨j, v, hj, hv, hvu, rfl, rfl, ⟨ao, c, rfl, hB⟩, hg⟩ := hrel
    have A : Hid (Bytes wr ao (tls j u)) := hB
    have hlj : (tls j u).length ≤ 4 := by rw [tls_length]; omega
    clear hB
    by_cases hjk : j < 1
    · have hX : 128 + (v : Int) % 64 = ((tl v).toNat : Int) := by rw [tl_nat]; omega
      have h8 := u8_lt (tl v)
      have hlt : (j : Int) + 1 < 2 := by omega
      go_wp2_with (at_builtin; refine wpList_append_any _ rfl _ _ 35 35 rfl i0 Try.underlying35 hi hz0 hz1 hz2 _ _ [tl v] rfl (own_one _ _) _ rfl (tls j u) (src_of (A.out.alloc _) 35 c Try.underlying35) (by simp; omega) (tl v :: tls j u) rfl ?_; intro ao' c' w1 hown hg1 hat)
      go_roundw
      case rel => exact ⟨j + 1, v / 64, by omega, (by rw [hv.out]; exact tl_div u j : v / 64 = u / 64 ^ (j + 1)), by omega, i32_div v, by go_num, ⟨ao', c', by simp [tls_length], by rw [tls, ← hv.out]; exact hown.bytes⟩, grownBy_trans hg (grownBy_new (World.grownBy_alloc _ _ _) hg1 (by intro g e; simp [blk] at e; omega))⟩
      case measure => simp [intOf]; omega
    · obtain rfl : j = 1 := by omega
      have hvb : v < 32 := by have := hv.out; omega
      have hX : 192 + (v : Int) = ((lead u).toNat : Int) := by rw [hln, hv.out]; simp only [fmark]; omega
      have h8 := u8_lt (lead u)
      clear hln
      go_wp2_with (at_builtin; refine wpList_append_any _ rfl _ _ 35 35 rfl i0 Try.underlying35 hi hz0 hz1 hz2 _ _ [lead u] rfl (own_one _ _) _ rfl (tls 1 u) (src_of (A.out.alloc _) 35 c Try.underlying35) (by simp; omega) (lead u :: tls 1 u) rfl ?_; intro ao' c' w1 hown hg1 hat)
      go_ret
      rw [hue.out]
      exact ⟨ao', c', rfl, hown.bytes, grownBy_trans hg (grownBy_new (World.grownBy_alloc _ _ _) hg1 (by intro g e; simp [blk] at e; omega))⟩

set_option maxRecDepth 100000 in
set_option maxHeartbeats 4000000 in
theorem bytes_2 (u : Nat) (hu : u ≤ 1114111) (hku : uk u = 2) (hub : u < 65536) (w : World) : Calls Try.prog 26 #[.int .i32 (u : Int), .int .i64 3] w fun e w' => ∃ ao c, e = .returned (.slice ao (unit u).length c) ∧ Bytes w' ao (unit u) ∧ w.grownBy w' none := by
  obtain ⟨i0, hi, hz0, hz1, hz2⟩ := info_parts info5
  have hue : Hid (unit u = lead u :: tls 2 u) := by rw [← hku]; exact unit_eq u
  have hln := lead_nat hu
  rw [hku] at hln
  clear hku
  go_enter Try.func26, Try.ntmps26
  go_wp2
  go_loopw [0, 5, 6] (fun t0 t5 t6 wx => ∃ j v : Nat, j ≤ 2 ∧ Hid (v = u / 64 ^ j) ∧ v ≤ u ∧ t0 = .int .i32 (v : Int) ∧ t6 = .int .i64 ((j : Int) + 1) ∧ (∃ ao c, t5 = .slice ao (tls j u).length c ∧ Bytes wx ao (tls j u)) ∧ w.grownBy wx none) (fun _ _ t6 _ => 4 - (intOf t6).toNat)
  case atStart => exact ⟨0, u, by omega, (by simp : u = u / 64 ^ 0), by omega, rfl, rfl, ⟨none, 0, rfl, .inl ⟨rfl, rfl⟩⟩, grownBy_refl _ _⟩
  case round =>
    obtain ⟨j, v, hj, hv, hvu, rfl, rfl, ⟨ao, c, rfl, hB⟩, hg⟩ := hrel
    have A : Hid (Bytes wr ao (tls j u)) := hB
    have hlj : (tls j u).length ≤ 4 := by rw [tls_length]; omega
    clear hB
    by_cases hjk : j < 2
    · have hX : 128 + (v : Int) % 64 = ((tl v).toNat : Int) := by rw [tl_nat]; omega
      have h8 := u8_lt (tl v)
      have hlt : (j : Int) + 1 < 3 := by omega
      go_wp2_with (at_builtin; refine wpList_append_any _ rfl _ _ 35 35 rfl i0 Try.underlying35 hi hz0 hz1 hz2 _ _ [tl v] rfl (own_one _ _) _ rfl (tls j u) (src_of (A.out.alloc _) 35 c Try.underlying35) (by simp; omega) (tl v :: tls j u) rfl ?_; intro ao' c' w1 hown hg1 hat)
      go_roundw
      case rel => exact ⟨j + 1, v / 64, by omega, (by rw [hv.out]; exact tl_div u j : v / 64 = u / 64 ^ (j + 1)), by omega, i32_div v, by go_num, ⟨ao', c', by simp [tls_length], by rw [tls, ← hv.out]; exact hown.bytes⟩, grownBy_trans hg (grownBy_new (World.grownBy_alloc _ _ _) hg1 (by intro g e; simp [blk] at e; omega))⟩
      case measure => simp [intOf]; omega
    · obtain rfl : j = 2 := by omega
      have hvb : v < 16 := by have := hv.out; omega
      have hX : 224 + (v : Int) = ((lead u).toNat : Int) := by rw [hln, hv.out]; simp only [fmark]; omega
      have h8 := u8_lt (lead u)
      clear hln
      go_wp2_with (at_builtin; refine wpList_append_any _ rfl _ _ 35 35 rfl i0 Try.underlying35 hi hz0 hz1 hz2 _ _ [lead u] rfl (own_one _ _) _ rfl (tls 2 u) (src_of (A.out.alloc _) 35 c Try.underlying35) (by simp; omega) (lead u :: tls 2 u) rfl ?_; intro ao' c' w1 hown hg1 hat)
      go_ret
      rw [hue.out]
      exact ⟨ao', c', rfl, hown.bytes, grownBy_trans hg (grownBy_new (World.grownBy_alloc _ _ _) hg1 (by intro g e; simp [blk] at e; omega))⟩

set_option maxRecDepth 100000 in
set_option maxHeartbeats 4000000 in
theorem bytes_3 (u : Nat) (hu : u ≤ 1114111) (hku : uk u = 3) (hub : u < 1114112) (w : World) : Calls Try.prog 26 #[.int .i32 (u : Int), .int .i64 4] w fun e w' => ∃ ao c, e = .returned (.slice ao (unit u).length c) ∧ Bytes w' ao (unit u) ∧ w.grownBy w' none := by
  obtain ⟨i0, hi, hz0, hz1, hz2⟩ := info_parts info5
  have hue : Hid (unit u = lead u :: tls 3 u) := by rw [← hku]; exact unit_eq u
  have hln := lead_nat hu
  rw [hku] at hln
  clear hku
  go_enter Try.func26, Try.ntmps26
  go_wp2
  go_loopw [0, 5, 6] (fun t0 t5 t6 wx => ∃ j v : Nat, j ≤ 3 ∧ Hid (v = u / 64 ^ j) ∧ v ≤ u ∧ t0 = .int .i32 (v : Int) ∧ t6 = .int .i64 ((j : Int) + 1) ∧ (∃ ao c, t5 = .slice ao (tls j u).length c ∧ Bytes wx ao (tls j u)) ∧ w.grownBy wx none) (fun _ _ t6 _ => 4 - (intOf t6).toNat)
  case atStart => exact ⟨0, u, by omega, (by simp : u = u / 64 ^ 0), by omega, rfl, rfl, ⟨none, 0, rfl, .inl ⟨rfl, rfl⟩⟩, grownBy_refl _ _⟩
  case round =>
    obtain ⟨j, v, hj, hv, hvu, rfl, rfl, ⟨ao, c, rfl, hB⟩, hg⟩ := hrel
    have A : Hid (Bytes wr ao (tls j u)) := hB
    have hlj : (tls j u).length ≤ 4 := by rw [tls_length]; omega
    clear hB
    by_cases hjk : j < 3
    · have hX : 128 + (v : Int) % 64 = ((tl v).toNat : Int) := by rw [tl_nat]; omega
      have h8 := u8_lt (tl v)
      have hlt : (j : Int) + 1 < 4 := by omega
      go_wp2_with (at_builtin; refine wpList_append_any _ rfl _ _ 35 35 rfl i0 Try.underlying35 hi hz0 hz1 hz2 _ _ [tl v] rfl (own_one _ _) _ rfl (tls j u) (src_of (A.out.alloc _) 35 c Try.underlying35) (by simp; omega) (tl v :: tls j u) rfl ?_; intro ao' c' w1 hown hg1 hat)
      go_roundw
      case rel => exact ⟨j + 1, v / 64, by omega, (by rw [hv.out]; exact tl_div u j : v / 64 = u / 64 ^ (j + 1)), by omega, i32_div v, by go_num, ⟨ao', c', by simp [tls_length], by rw [tls, ← hv.out]; exact hown.bytes⟩, grownBy_trans hg (grownBy_new (World.grownBy_alloc _ _ _) hg1 (by intro g e; simp [blk] at e; omega))⟩
      case measure => simp [intOf]; omega
    · obtain rfl : j = 3 := by omega
      have hvb : v < 8 := by have := hv.out; omega
      have hX : 240 + (v : Int) = ((lead u).toNat : Int) := by rw [hln, hv.out]; simp only [fmark]; omega
      have h8 := u8_lt (lead u)
      clear hln
      go_wp2_with (at_builtin; refine wpList_append_any _ rfl _ _ 35 35 rfl i0 Try.underlying35 hi hz0 hz1 hz2 _ _ [lead u] rfl (own_one _ _) _ rfl (tls 3 u) (src_of (A.out.alloc _) 35 c Try.underlying35) (by simp; omega) (lead u :: tls 3 u) rfl ?_; intro ao' c' w1 hown hg1 hat)
      go_ret
      rw [hue.out]
      exact ⟨ao', c', rfl, hown.bytes, grownBy_trans hg (grownBy_new (World.grownBy_alloc _ _ _) hg1 (by intro g e; simp [blk] at e; omega))⟩

/-- The document's Set. -/
theorem refset_none (u : Int) (w : World) (h : scB u = false) : Calls Try.prog 19 #[.int .i32 u] w fun e w' => e = .returned (putV 11 ⟨#[]⟩) ∧ w.grownBy w' none := by
  go_enter Try.func19, Try.ntmps19
  go_wp2_with (go_at_call 25; refine (scalar_ref _ _).mono ?_; rintro e w' ⟨rfl, hw⟩; obtain rfl := hw)
  refine bodyPost_ret (v := putV 11 ⟨#[]⟩) (by simp [results, Try.results19, go_sem]) rfl ⟨rfl, ?_⟩
  exact World.grownBy_alloc _ _ _
theorem uk_cases (u : Nat) : (u < 128 ∧ uk u = 0) ∨ (128 ≤ u ∧ u < 2048 ∧ uk u = 1) ∨ (2048 ≤ u ∧ u < 65536 ∧ uk u = 2) ∨ (65536 ≤ u ∧ uk u = 3) := by
  unfold uk
  repeat' split
  all_goals omega
theorem bytes_at (u : Nat) (hu : u ≤ 1114111) (n : Int) (hn : n = (uk u : Int) + 1) (w : World) : Calls Try.prog 26 #[.int .i32 (u : Int), .int .i64 n] w fun e w' => ∃ ao c, e = .returned (.slice ao (unit u).length c) ∧ Bytes w' ao (unit u) ∧ w.grownBy w' none := by
  rcases uk_cases u with ⟨h1, h2⟩ | ⟨h1, h3, h2⟩ | ⟨h1, h3, h2⟩ | ⟨h1, h2⟩
  · obtain rfl : n = 1 := by rw [hn, h2]; rfl
    exact bytes_one u h1 w
  · obtain rfl : n = 2 := by rw [hn, h2]; rfl
    exact bytes_1 u hu h2 h3 w
  · obtain rfl : n = 3 := by rw [hn, h2]; rfl
    exact bytes_2 u hu h2 h3 w
  · obtain rfl : n = 4 := by rw [hn, h2]; rfl
    exact bytes_3 u hu h2 (by omega) w

set_option maxRecDepth 100000 in
set_option maxHeartbeats 4000000 in
theorem refset_some (u : Nat) (w : World) (h : scB (u : Int) = true) : Calls Try.prog 19 #[.int .i32 (u : Int)] w fun e w' => e = .returned (putV 0 (str (unit u))) ∧ w.grownBy w' none := by
  have hu := sc_le h
  obtain ⟨k, hk⟩ : ∃ k, uk u = k := ⟨_, rfl⟩
  have key : ∀ n : Int, n = (k : Int) + 1 → ∀ w : World, Calls Try.prog 26 #[.int .i32 (u : Int), .int .i64 n] w fun e w' => ∃ ao c, e = .returned (.slice ao (unit u).length c) ∧ Bytes w' ao (unit u) ∧ w.grownBy w' none := fun n hn w => bytes_at u hu n (by rw [hn, hk]) w
  have hcase : (u < 128 ∧ k = 0) ∨ (128 ≤ u ∧ u < 2048 ∧ k = 1) ∨ (2048 ≤ u ∧ u < 65536 ∧ k = 2) ∨ (65536 ≤ u ∧ k = 3) := by
    rw [← hk]
    unfold uk
    repeat' split
    all_goals omega
  clear hk
  rcases hcase with ⟨h1, rfl⟩ | ⟨h1, h2, rfl⟩ | ⟨h1, h2, rfl⟩ | ⟨h1, rfl⟩
  all_goals
    go_enter Try.func19, Try.ntmps19
    go_wp2_with (first | (go_at_call 25; refine (scalar_ref _ _).mono ?_; rintro e w' ⟨rfl, hw⟩; obtain rfl := hw) | (go_at_call 26; refine (key _ (by omega) _).mono ?_; rintro e w1 ⟨ao, c, rfl, hB, hg1⟩; have hcv := conv (P := Try.prog) hB 35 9 c Try.underlying35 Try.underlying5 Try.underlying9; have hr := res_cells hg1; have r0 := cell_at hr 0 rfl; have r1 := cell_at hr 1 rfl; have r2 := cell_at hr 2 rfl; have r3 := cell_at hr 3 rfl; have r4 := cell_at hr 4 rfl; have r5 := cell_at hr 5 rfl; have fz := froz_at hr; clear hr hB))
    refine bodyPost_ret (v := putV 0 (str (unit u))) (by simp [results, Try.results19, go_sem, r0, r1, r2, r3, r4, r5]) rfl ⟨rfl, ?_⟩
    exact sets_new (grownBy_trans (World.grownBy_alloc _ _ _) hg1) (Nat.le_refl _) (grownBy_sets6 _ _ _ _ _ _ _ _)
theorem refset_any (u : Int) (w : World) : Calls Try.prog 19 #[.int .i32 u] w fun e w' => e = .returned (setV u) ∧ w.grownBy w' none := by
  unfold setV
  by_cases h : scB u = true
  · rw [if_pos h]
    obtain ⟨h0, h1, _⟩ := scB_iff.1 h
    obtain ⟨n, rfl⟩ := Int.eq_ofNat_of_zero_le h0
    rw [Int.toNat_natCast]
    exact refset_some n w h
  · rw [if_neg h]
    exact refset_none u w (by simpa using h)
end Go.Proofs.Ytjhdepbiakekaaa.U8

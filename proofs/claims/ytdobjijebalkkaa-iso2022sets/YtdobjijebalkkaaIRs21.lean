/- The program's Set and End of layer 21: walks. -/
import Derived.Test.YtdobjijebalkkaaIRa21
import Derived.Test.YtdobjijebalkkaaIR21
import Derived.Test.YtdobjijebalkkaaIE21
namespace Go.Proofs.Ytdobjijebalkkaa.C21
open Go.ChangeShapes Go.WideShapes Go.ChangeAt Go.RowKit Go.Proofs.Ytdobjijebalkkaa.Mem Go.Proofs.Ytdobjijebalkkaa.Cb Go.Proofs.Ytdobjijebalkkaa.Sp
set_option linter.unusedVariables false
set_option linter.unusedSimpArgs false

theorem pcheck_ok (k : Int) (hk : k = 83 ∨ k = 88) (m : Nat) (hm : m < 3) (w : World) : Calls Try.prog 17 #[.int .i64 k, stV (m : Int) 0 0 0] w fun e w' => e = .returned (.int .i64 0) ∧ w.grownBy w' none := by
  rcases hk with rfl | rfl
  · match m, hm with
    | 0, _ => exact pc_83_0 w
    | 1, _ => exact pc_83_1 w
    | 2, _ => exact pc_83_2 w
  · match m, hm with
    | 0, _ => exact pc_88_0 w
    | 1, _ => exact pc_88_1 w
    | 2, _ => exact pc_88_2 w
theorem pcheck_no (k : Int) (hk : k = 83 ∨ k = 88) (md bi ac he : Int) (hm : Hid (mo md bi ac he = 3)) (w : World) : Calls Try.prog 17 #[.int .i64 k, stV md bi ac he] w fun e w' => e = .returned (.int .i64 7) ∧ w.grownBy w' none := by
  rcases hk with rfl | rfl
  · exact pc_83_no md bi ac he hm w
  · exact pc_88_no md bi ac he hm w
/-- What leads from a Mode of a kind to another. -/
def wB (k : Int) (m t : Nat) : List UInt8 := if k = 83 then ld m t (if t = 0 then [27, 40, 66] else if t = 1 then [27, 40, 74] else [27, 36, 66]) else hB m ++ ld (hM m) t (if t = 1 then [15] else [14])
theorem wB_len (k : Int) (m t : Nat) : (wB k m t).length ≤ 7 := by
  unfold wB
  split
  · refine Nat.le_trans (ld_len _ _ _) ?_
    repeat' split
    all_goals simp
  · rw [List.length_append]
    have h1 : (hB m).length ≤ 4 := by unfold hB hd; split <;> simp
    have h2 := ld_len (hM m) t (if t = 1 then [15] else [14])
    have h3 : (if t = 1 then [15] else [14] : List UInt8).length = 1 := by split <;> rfl
    omega
theorem way_any (k : Int) (hk : k = 83 ∨ k = 88) (m t : Nat) (hm : m < 3) (ht : t < 3) (h : k = 83 ∨ 1 ≤ t) (w : World) : Calls Try.prog 27 #[.int .i64 k, .int .i64 (m : Int), .int .i64 (t : Int)] w fun e w' => e = .returned (.string (str (wB k m t))) ∧ w.grownBy w' none := by
  rcases hk with rfl | rfl
  · match m, hm, t, ht with
    | 0, _, 0, _ => exact wy_83_0_0 w
    | 0, _, 1, _ => exact wy_83_0_1 w
    | 0, _, 2, _ => exact wy_83_0_2 w
    | 1, _, 0, _ => exact wy_83_1_0 w
    | 1, _, 1, _ => exact wy_83_1_1 w
    | 1, _, 2, _ => exact wy_83_1_2 w
    | 2, _, 0, _ => exact wy_83_2_0 w
    | 2, _, 1, _ => exact wy_83_2_1 w
    | 2, _, 2, _ => exact wy_83_2_2 w
  · match m, hm, t, ht, h with
    | 0, _, 0, _, h => omega
    | 1, _, 0, _, h => omega
    | 2, _, 0, _, h => omega
    | 0, _, 1, _, _ => exact wy_88_0_1 w
    | 0, _, 2, _, _ => exact wy_88_0_2 w
    | 1, _, 1, _, _ => exact wy_88_1_1 w
    | 1, _, 2, _, _ => exact wy_88_1_2 w
    | 2, _, 1, _, _ => exact wy_88_2_1 w
    | 2, _, 2, _, _ => exact wy_88_2_2 w
set_option maxRecDepth 100000 in
set_option maxHeartbeats 1000000 in
theorem ps_e5 (k md bi ac he u : Int) (a1 : Hid (∀ w, Calls Try.prog 17 #[.int .i64 k, stV md bi ac he] w fun e w' => e = .returned (.int .i64 5) ∧ w.grownBy w' none)) (w : World) : Calls Try.prog 14 #[.int .i64 k, stV md bi ac he, .int .i32 u] w fun e w' => e = .returned (.agg (pM 5 ⟨#[]⟩ 0)) ∧ w.grownBy w' none := by
  go_enter Try.func14, Try.ntmps14
  go_upto_region 1 with (first
    | (refine wpList_boxC _ rfl 24 _ rfl (sC md bi ac he) rfl ?_; intro w1 ss1 hg1)
    | (refine wpList_allocC _ rfl 35 rfl (pZ 0 ⟨#[]⟩) (zeroP _) ?_; intro w2 rs2 hg2))
  have hG2 : Hid (w.grownBy w2 none) := Hid.mk' (gt hg1 hg2)
  have ss2 := ss1.kept0 hg2
  have hB2 : Hid (w.heap.size ≤ w1.heap.size) := Hid.mk' hg1.size
  clear hg1 hg2 ss1
  generalize w1.heap.size = B at *
  obtain ⟨SB, hSB⟩ : ∃ SB, Hid (w.heap.size = SB) := ⟨_, Hid.mk' rfl⟩
  rw [hSB.out] at ss2
  rw [hSB.out]
  have s0 := ss2.cell 0 rfl
  go_wp2_with (first
    | (go_at_call 17; refine (a1.out _).mono ?_; rintro e w3 ⟨rfl, hg⟩; have rs3 := rs2.kept0 hg; have ss3 := ss2.kept0 hg; have hG3 : Hid (w.grownBy w3 none) := Hid.mk' (gt hG2.out hg); clear s0; have s0 := ss3.cell 0 rfl; clear rs2 hg ss2)
    | (refine wpList_loadC _ rfl 24 _ rfl _ Try.underlying24 rfl SB (sC md bi ac he) infoS rfl (by first | exact ss3 | exact ss2) ?_)
    | (refine wpList_storeC _ rfl 35 _ _ rfl B (pZ 0 ⟨#[]⟩) (pM 5 ⟨#[]⟩ 0) infoP rfl (pC_one _ _ _ _ _ _) rfl rfl rs3 ?_; intro wz rsz hgz))
  refine bodyPost_ret (v := .agg (pM 5 ⟨#[]⟩ 0)) (results_cell_row Try.results14 _ wz B 35 _ (0, 0) _ rfl rsz Try.underlying35 rfl infoP) rfl ⟨rfl, ?_⟩
  exact grownBy_new hG3.out hgz (fun k hk => by have h5 := Option.some.inj hk; have h6 := hB2.out; omega)
set_option maxRecDepth 100000 in
set_option maxHeartbeats 1000000 in
theorem ps_e7 (k md bi ac he u : Int) (a1 : Hid (∀ w, Calls Try.prog 17 #[.int .i64 k, stV md bi ac he] w fun e w' => e = .returned (.int .i64 7) ∧ w.grownBy w' none)) (w : World) : Calls Try.prog 14 #[.int .i64 k, stV md bi ac he, .int .i32 u] w fun e w' => e = .returned (.agg (pM 7 ⟨#[]⟩ 0)) ∧ w.grownBy w' none := by
  go_enter Try.func14, Try.ntmps14
  go_upto_region 1 with (first
    | (refine wpList_boxC _ rfl 24 _ rfl (sC md bi ac he) rfl ?_; intro w1 ss1 hg1)
    | (refine wpList_allocC _ rfl 35 rfl (pZ 0 ⟨#[]⟩) (zeroP _) ?_; intro w2 rs2 hg2))
  have hG2 : Hid (w.grownBy w2 none) := Hid.mk' (gt hg1 hg2)
  have ss2 := ss1.kept0 hg2
  have hB2 : Hid (w.heap.size ≤ w1.heap.size) := Hid.mk' hg1.size
  clear hg1 hg2 ss1
  generalize w1.heap.size = B at *
  obtain ⟨SB, hSB⟩ : ∃ SB, Hid (w.heap.size = SB) := ⟨_, Hid.mk' rfl⟩
  rw [hSB.out] at ss2
  rw [hSB.out]
  have s0 := ss2.cell 0 rfl
  go_wp2_with (first
    | (go_at_call 17; refine (a1.out _).mono ?_; rintro e w3 ⟨rfl, hg⟩; have rs3 := rs2.kept0 hg; have ss3 := ss2.kept0 hg; have hG3 : Hid (w.grownBy w3 none) := Hid.mk' (gt hG2.out hg); clear s0; have s0 := ss3.cell 0 rfl; clear rs2 hg ss2)
    | (refine wpList_loadC _ rfl 24 _ rfl _ Try.underlying24 rfl SB (sC md bi ac he) infoS rfl (by first | exact ss3 | exact ss2) ?_)
    | (refine wpList_storeC _ rfl 35 _ _ rfl B (pZ 0 ⟨#[]⟩) (pM 7 ⟨#[]⟩ 0) infoP rfl (pC_one _ _ _ _ _ _) rfl rfl rs3 ?_; intro wz rsz hgz))
  refine bodyPost_ret (v := .agg (pM 7 ⟨#[]⟩ 0)) (results_cell_row Try.results14 _ wz B 35 _ (0, 0) _ rfl rsz Try.underlying35 rfl infoP) rfl ⟨rfl, ?_⟩
  exact grownBy_new hG3.out hgz (fun k hk => by have h5 := Option.some.inj hk; have h6 := hB2.out; omega)
set_option maxRecDepth 100000 in
set_option maxHeartbeats 1000000 in
theorem ps_none (k f u t : Int) (a1 : Hid (∀ w, Calls Try.prog 17 #[.int .i64 k, stV f 0 0 0] w fun e w' => e = .returned (.int .i64 0) ∧ w.grownBy w' none)) (a2 : Hid (∀ w, Calls Try.prog 28 #[.int .i64 k, .int .i32 u] w fun e w' => e = .returned (.tuple #[.string ⟨#[]⟩, .int .i64 t]) ∧ w.grownBy w' none)) (w : World) : Calls Try.prog 14 #[.int .i64 k, stV f 0 0 0, .int .i32 u] w fun e w' => e = .returned (.agg (pM 11 ⟨#[]⟩ 0)) ∧ w.grownBy w' none := by
  go_enter Try.func14, Try.ntmps14
  go_upto_region 1 with (first
    | (refine wpList_boxC _ rfl 24 _ rfl (sC f 0 0 0) rfl ?_; intro w1 ss1 hg1)
    | (refine wpList_allocC _ rfl 35 rfl (pZ 0 ⟨#[]⟩) (zeroP _) ?_; intro w2 rs2 hg2))
  have hG2 : Hid (w.grownBy w2 none) := Hid.mk' (gt hg1 hg2)
  have ss2 := ss1.kept0 hg2
  have hB2 : Hid (w.heap.size ≤ w1.heap.size) := Hid.mk' hg1.size
  clear hg1 hg2 ss1
  generalize w1.heap.size = B at *
  obtain ⟨SB, hSB⟩ : ∃ SB, Hid (w.heap.size = SB) := ⟨_, Hid.mk' rfl⟩
  rw [hSB.out] at ss2
  rw [hSB.out]
  have s0 := ss2.cell 0 rfl
  go_wp2_with (first
    | (go_at_call 17; refine (a1.out _).mono ?_; rintro e w3 ⟨rfl, hg⟩; have rs3 := rs2.kept0 hg; have ss3 := ss2.kept0 hg; have hG3 : Hid (w.grownBy w3 none) := Hid.mk' (gt hG2.out hg); clear s0; have s0 := ss3.cell 0 rfl; clear rs2 hg ss2)
    | (go_at_call 28; refine (a2.out _).mono ?_; rintro e w4 ⟨rfl, hg⟩; have rs4 := rs3.kept0 hg; have ss4 := ss3.kept0 hg; have hG4 : Hid (w.grownBy w4 none) := Hid.mk' (gt hG3.out hg); clear s0; have s0 := ss4.cell 0 rfl; clear rs3 hg ss3)
    | (refine wpList_loadC _ rfl 24 _ rfl _ Try.underlying24 rfl SB (sC f 0 0 0) infoS rfl (by first | exact ss4 | exact ss3 | exact ss2) ?_)
    | (refine wpList_storeC _ rfl 35 _ _ rfl B (pZ 0 ⟨#[]⟩) (pM 11 ⟨#[]⟩ 0) infoP rfl (pC_one _ _ _ _ _ _) rfl rfl rs4 ?_; intro wz rsz hgz))
  refine bodyPost_ret (v := .agg (pM 11 ⟨#[]⟩ 0)) (results_cell_row Try.results14 _ wz B 35 _ (0, 0) _ rfl rsz Try.underlying35 rfl infoP) rfl ⟨rfl, ?_⟩
  exact grownBy_new hG4.out hgz (fun k hk => by have h5 := Option.some.inj hk; have h6 := hB2.out; omega)
set_option maxRecDepth 100000 in
set_option maxHeartbeats 1000000 in
theorem ps_some (k f u t : Int) (s ws : ByteArray) (hs : s.toList.isEmpty = false) (hz : ¬ 9223372036854775807 < ws.size + s.size) (a1 : Hid (∀ w, Calls Try.prog 17 #[.int .i64 k, stV f 0 0 0] w fun e w' => e = .returned (.int .i64 0) ∧ w.grownBy w' none)) (a2 : Hid (∀ w, Calls Try.prog 28 #[.int .i64 k, .int .i32 u] w fun e w' => e = .returned (.tuple #[.string s, .int .i64 t]) ∧ w.grownBy w' none)) (a3 : Hid (∀ w, Calls Try.prog 27 #[.int .i64 k, .int .i64 f, .int .i64 t] w fun e w' => e = .returned (.string ws) ∧ w.grownBy w' none)) (w : World) : Calls Try.prog 14 #[.int .i64 k, stV f 0 0 0, .int .i32 u] w fun e w' => e = .returned (.agg (pM 0 (ws ++ s) t)) ∧ w.grownBy w' none := by
  go_enter Try.func14, Try.ntmps14
  go_upto_region 1 with (first
    | (refine wpList_boxC _ rfl 24 _ rfl (sC f 0 0 0) rfl ?_; intro w1 ss1 hg1)
    | (refine wpList_allocC _ rfl 35 rfl (pZ 0 ⟨#[]⟩) (zeroP _) ?_; intro w2 rs2 hg2))
  have hG2 : Hid (w.grownBy w2 none) := Hid.mk' (gt hg1 hg2)
  have ss2 := ss1.kept0 hg2
  have hB2 : Hid (w.heap.size ≤ w1.heap.size) := Hid.mk' hg1.size
  clear hg1 hg2 ss1
  generalize w1.heap.size = B at *
  obtain ⟨SB, hSB⟩ : ∃ SB, Hid (w.heap.size = SB) := ⟨_, Hid.mk' rfl⟩
  rw [hSB.out] at ss2
  rw [hSB.out]
  have s0 := ss2.cell 0 rfl
  go_wp2_with (first
    | (go_at_call 17; refine (a1.out _).mono ?_; rintro e w3 ⟨rfl, hg⟩; have rs3 := rs2.kept0 hg; have ss3 := ss2.kept0 hg; have hG3 : Hid (w.grownBy w3 none) := Hid.mk' (gt hG2.out hg); clear s0; have s0 := ss3.cell 0 rfl; clear rs2 hg ss2)
    | (go_at_call 28; refine (a2.out _).mono ?_; rintro e w4 ⟨rfl, hg⟩; have rs4 := rs3.kept0 hg; have ss4 := ss3.kept0 hg; have hG4 : Hid (w.grownBy w4 none) := Hid.mk' (gt hG3.out hg); clear s0; have s0 := ss4.cell 0 rfl; clear rs3 hg ss3)
    | (go_at_call 27; refine (a3.out _).mono ?_; rintro e w5 ⟨rfl, hg⟩; have rs5 := rs4.kept0 hg; have ss5 := ss4.kept0 hg; have hG5 : Hid (w.grownBy w5 none) := Hid.mk' (gt hG4.out hg); clear s0; have s0 := ss5.cell 0 rfl; clear rs4 hg ss4)
    | (go_at_call 20; refine (p_in _ _).mono ?_; rintro e w6 ⟨rfl, hg⟩; have rs6 := rs5.kept0 hg; have ss6 := ss5.kept0 hg; have hG6 : Hid (w.grownBy w6 none) := Hid.mk' (gt hG5.out hg); clear s0; have s0 := ss6.cell 0 rfl; clear rs5 hg ss5)
    | (refine wpList_loadC _ rfl 24 _ rfl _ Try.underlying24 rfl SB (sC f 0 0 0) infoS rfl (by first | exact ss6 | exact ss5 | exact ss4 | exact ss3 | exact ss2) ?_)
    | (refine wpList_storeC _ rfl 35 _ _ rfl B (pZ 0 ⟨#[]⟩) (pM 0 (ws ++ s) t) infoP rfl (pC_one _ _ _ _ _ _) rfl rfl rs6 ?_; intro wz rsz hgz))
  refine bodyPost_ret (v := .agg (pM 0 (ws ++ s) t)) (results_cell_row Try.results14 _ wz B 35 _ (0, 0) _ rfl rsz Try.underlying35 rfl infoP) rfl ⟨rfl, ?_⟩
  exact grownBy_new hG6.out hgz (fun k hk => by have h5 := Option.some.inj hk; have h6 := hB2.out; omega)
theorem sE_uP {k : Int} (hk : k = 83 ∨ k = 88) {m : Nat} (hm : m < 3) (u : Int) : sE k m u = match uP k u with
    | none => (11, [], 0)
    | some q => (0, wB k m q.2 ++ q.1, (q.2 : Int)) := by
  have h1 : has k = true := by unfold has; exact decide_eq_true hk
  unfold sE
  rw [h1, if_neg (by simp), if_neg (by omega)]
  unfold uP
  rcases hk with rfl | rfl
  · by_cases h27 : u = 27
    · rw [if_pos (.inl h27), if_pos h27]
    · rw [if_neg (by omega), if_neg (by omega), if_neg h27, if_pos rfl]
      unfold sJ
      by_cases h0 : 0 ≤ u ∧ u < 128
      · rw [if_pos h0, if_pos h0]; rfl
      · rw [if_neg h0, if_neg h0]
        by_cases h2 : u = 165
        · rw [if_pos h2, if_pos h2]; rfl
        · rw [if_neg h2, if_neg h2]
          by_cases h3 : u = 8254
          · rw [if_pos h3, if_pos h3]; rfl
          · rw [if_neg h3, if_neg h3]
            cases ep : C14.plT u with
            | mk A q =>
            obtain ⟨D, ok⟩ := q
            cases ok <;> rfl
  · by_cases h27 : u = 27
    · rw [if_pos (.inl h27), if_pos h27]
    · by_cases h1 : u = 14 ∨ u = 15
      · rw [if_pos (.inr ⟨rfl, h1⟩), if_neg h27, if_neg (by omega), if_pos h1]
      · rw [if_neg (by omega), if_pos rfl, if_neg h27, if_neg (by omega), if_neg h1]
        unfold sK
        by_cases h0 : 0 ≤ u ∧ u < 128
        · rw [if_pos h0, if_pos h0]
          show _ = (0, wB 88 m 1 ++ _, _)
          unfold wB
          rw [if_neg (by omega), if_pos rfl, List.append_assoc]
          rfl
        · rw [if_neg h0, if_neg h0]
          cases ep : C16.plT u with
          | mk A q =>
          obtain ⟨D, ok⟩ := q
          cases ok with
          | false => rfl
          | true =>
            show _ = (0, wB 88 m 2 ++ _, _)
            unfold wB
            rw [if_neg (by omega), if_neg (by omega), List.append_assoc]
            rfl
theorem uP_ok {k u : Int} {q : List UInt8 × Nat} (hk : k = 83 ∨ k = 88) (h : uP k u = some q) : q.2 < 3 ∧ (k = 83 ∨ 1 ≤ q.2) ∧ q.1.length ≤ 2 ∧ ∃ c r, q.1 = c :: r := by
  unfold uP at h
  by_cases h27 : u = 27
  · rw [if_pos h27] at h; cases h
  · rw [if_neg h27] at h
    rcases hk with rfl | rfl
    · rw [if_pos rfl] at h
      by_cases h0 : 0 ≤ u ∧ u < 128
      · rw [if_pos h0] at h; cases h; exact ⟨by simp, .inl rfl, by simp, _, _, rfl⟩
      · rw [if_neg h0] at h
        by_cases h2 : u = 165
        · rw [if_pos h2] at h; cases h; exact ⟨by simp, .inl rfl, by simp, _, _, rfl⟩
        · rw [if_neg h2] at h
          by_cases h3 : u = 8254
          · rw [if_pos h3] at h; cases h; exact ⟨by simp, .inl rfl, by simp, _, _, rfl⟩
          · rw [if_neg h3] at h
            cases ep : C14.plT u with
            | mk A q =>
            obtain ⟨D, ok⟩ := q
            rw [ep] at h
            cases ok with
            | false => cases h
            | true => cases h; exact ⟨by simp, .inl rfl, by simp, _, _, rfl⟩
    · rw [if_neg (by omega)] at h
      by_cases h1 : u = 14 ∨ u = 15
      · rw [if_pos h1] at h; cases h
      · rw [if_neg h1] at h
        by_cases h0 : 0 ≤ u ∧ u < 128
        · rw [if_pos h0] at h; cases h; exact ⟨by simp, .inr (by simp), by simp, _, _, rfl⟩
        · rw [if_neg h0] at h
          cases ep : C16.plT u with
          | mk A q =>
          obtain ⟨D, ok⟩ := q
          rw [ep] at h
          cases ok with
          | false => cases h
          | true => cases h; exact ⟨by simp, .inr (by simp), by simp, _, _, rfl⟩
theorem str_ne (c : UInt8) (r : List UInt8) : (str (c :: r)).toList.isEmpty = false := by
  rw [Go.ByteArray.toList_eq]
  simp [str]
theorem str_two (A B : List UInt8) : str A ++ str B = str (A ++ B) := by
  apply ByteArray.ext
  simp [str]
theorem set_any (k md bi ac he u : Int) (w : World) : Calls Try.prog 14 #[.int .i64 k, stV md bi ac he, .int .i32 u] w fun e w' => e = .returned (putV (sE k (mo md bi ac he) u)) ∧ w.grownBy w' none := by
  cases hh : has k with
  | false =>
    have e : sE k (mo md bi ac he) u = (5, [], 0) := by unfold sE; rw [hh, if_pos rfl]
    rw [e]
    exact ps_e5 k md bi ac he u (Hid.mk' (fun w => pc_kind k md bi ac he (Hid.mk' hh) w)) w
  | true =>
    have hk := has_yes hh
    obtain ⟨m, hm⟩ : ∃ m, mo md bi ac he = m := ⟨_, rfl⟩
    have hl := mo_le md bi ac he
    rw [hm] at hl ⊢
    by_cases h3 : m = 3
    · subst h3
      have e : sE k 3 u = (7, [], 0) := by unfold sE; rw [hh, if_neg (by simp), if_pos (by omega)]
      rw [e]
      exact ps_e7 k md bi ac he u (Hid.mk' (fun w => pcheck_no k hk md bi ac he (Hid.mk' hm) w)) w
    · obtain ⟨rfl, rfl, rfl, rfl⟩ := mo_fit hm (by omega)
      have a1 := Hid.mk' (fun w => pcheck_ok k hk m (by omega) w)
      have a2 := Hid.mk' (fun w => unit_any k hk u w)
      rw [sE_uP hk (by omega)]
      cases hu : uP k u with
      | none =>
        rw [hu] at a2
        exact ps_none k m u 0 a1 a2 w
      | some q =>
        rw [hu] at a2
        obtain ⟨q1, q2, q4, c, r, q3⟩ := uP_ok hk hu
        have q5 := wB_len k m q.2
        have := ps_some k m u q.2 (str q.1) (str (wB k m q.2)) (by rw [q3]; exact str_ne c r) (by rw [str_size, str_size]; omega) a1 a2 (Hid.mk' (fun w => way_any k hk m q.2 (by omega) q1 q2 w)) w
        refine this.mono (fun e w' h => ⟨h.1.trans ?_, h.2⟩)
        unfold putV
        simp only
        rw [← str_two]
set_option maxRecDepth 100000 in
set_option maxHeartbeats 1000000 in
theorem pe_e5 (k md bi ac he : Int) (a1 : Hid (∀ w, Calls Try.prog 17 #[.int .i64 k, stV md bi ac he] w fun e w' => e = .returned (.int .i64 5) ∧ w.grownBy w' none)) (w : World) : Calls Try.prog 12 #[.int .i64 k, stV md bi ac he] w fun e w' => e = .returned (.tuple #[.string ⟨#[]⟩, .agg (sC 0 0 0 0), .int .i64 5]) ∧ w.grownBy w' none := by
  go_enter Try.func12, Try.ntmps12
  go_upto_region 1 with (first
    | (refine wpList_boxC _ rfl 24 _ rfl (sC md bi ac he) rfl ?_; intro w1 ss1 hg1)
    | (refine wpList_allocC _ rfl 24 rfl (sC 0 0 0 0) (zeroS _) ?_; intro w2 rs2 hg2))
  have ss2 := ss1.kept0 hg2
  have hG2 : Hid (w.grownBy w2 none) := Hid.mk' (gt hg1 hg2)
  have hB2 : Hid (w.heap.size ≤ w1.heap.size) := Hid.mk' hg1.size
  clear hg1 hg2 ss1
  generalize w1.heap.size = B at *
  obtain ⟨SB, hSB⟩ : ∃ SB, Hid (w.heap.size = SB) := ⟨_, Hid.mk' rfl⟩
  rw [hSB.out] at ss2
  rw [hSB.out]
  go_wp2_with (first
    | (go_at_call 17; refine (a1.out _).mono ?_; rintro e w3 ⟨rfl, hg⟩; have ss3 := ss2.kept0 hg; have rs3 := rs2.kept0 hg; have hG3 : Hid (w.grownBy w3 none) := Hid.mk' (gt hG2.out hg); have s0 := ss3.cell 0 rfl; clear ss2 rs2 hg)
    | (refine wpList_loadC _ rfl 24 _ rfl _ Try.underlying24 rfl SB (sC md bi ac he) infoS rfl ss2 ?_)
    | (refine wpList_storeC _ rfl 24 _ _ rfl B (sC 0 0 0 0) (sC 0 0 0 0) infoS rfl (sC_one _ _ _ _) rfl rfl rs3 ?_; intro wz rsz hgz))
  refine bodyPost_ret (v := .tuple #[.string ⟨#[]⟩, .agg (sC 0 0 0 0), .int .i64 5]) (results_tct Try.results12 _ wz B 24 _ (0, 0) _ rfl rsz Try.underlying24 rfl infoS _ _ rfl rfl) rfl ⟨rfl, ?_⟩
  exact grownBy_new hG3.out hgz (fun k hk => by have h5 := Option.some.inj hk; have h6 := hB2.out; omega)
set_option maxRecDepth 100000 in
set_option maxHeartbeats 1000000 in
theorem pe_e7 (k md bi ac he : Int) (a1 : Hid (∀ w, Calls Try.prog 17 #[.int .i64 k, stV md bi ac he] w fun e w' => e = .returned (.int .i64 7) ∧ w.grownBy w' none)) (w : World) : Calls Try.prog 12 #[.int .i64 k, stV md bi ac he] w fun e w' => e = .returned (.tuple #[.string ⟨#[]⟩, .agg (sC 0 0 0 0), .int .i64 7]) ∧ w.grownBy w' none := by
  go_enter Try.func12, Try.ntmps12
  go_upto_region 1 with (first
    | (refine wpList_boxC _ rfl 24 _ rfl (sC md bi ac he) rfl ?_; intro w1 ss1 hg1)
    | (refine wpList_allocC _ rfl 24 rfl (sC 0 0 0 0) (zeroS _) ?_; intro w2 rs2 hg2))
  have ss2 := ss1.kept0 hg2
  have hG2 : Hid (w.grownBy w2 none) := Hid.mk' (gt hg1 hg2)
  have hB2 : Hid (w.heap.size ≤ w1.heap.size) := Hid.mk' hg1.size
  clear hg1 hg2 ss1
  generalize w1.heap.size = B at *
  obtain ⟨SB, hSB⟩ : ∃ SB, Hid (w.heap.size = SB) := ⟨_, Hid.mk' rfl⟩
  rw [hSB.out] at ss2
  rw [hSB.out]
  go_wp2_with (first
    | (go_at_call 17; refine (a1.out _).mono ?_; rintro e w3 ⟨rfl, hg⟩; have ss3 := ss2.kept0 hg; have rs3 := rs2.kept0 hg; have hG3 : Hid (w.grownBy w3 none) := Hid.mk' (gt hG2.out hg); have s0 := ss3.cell 0 rfl; clear ss2 rs2 hg)
    | (refine wpList_loadC _ rfl 24 _ rfl _ Try.underlying24 rfl SB (sC md bi ac he) infoS rfl ss2 ?_)
    | (refine wpList_storeC _ rfl 24 _ _ rfl B (sC 0 0 0 0) (sC 0 0 0 0) infoS rfl (sC_one _ _ _ _) rfl rfl rs3 ?_; intro wz rsz hgz))
  refine bodyPost_ret (v := .tuple #[.string ⟨#[]⟩, .agg (sC 0 0 0 0), .int .i64 7]) (results_tct Try.results12 _ wz B 24 _ (0, 0) _ rfl rsz Try.underlying24 rfl infoS _ _ rfl rfl) rfl ⟨rfl, ?_⟩
  exact grownBy_new hG3.out hgz (fun k hk => by have h5 := Option.some.inj hk; have h6 := hB2.out; omega)
set_option maxRecDepth 100000 in
set_option maxHeartbeats 1000000 in
theorem pe_83_0  (w : World) : Calls Try.prog 12 #[.int .i64 83, stV 0 0 0 0] w fun e w' => e = .returned (.tuple #[.string ⟨#[]⟩, .agg (sC 0 0 0 0), .int .i64 0]) ∧ w.grownBy w' none := by
  go_enter Try.func12, Try.ntmps12
  go_upto_region 1 with (first
    | (refine wpList_boxC _ rfl 24 _ rfl (sC 0 0 0 0) rfl ?_; intro w1 ss1 hg1)
    | (refine wpList_allocC _ rfl 24 rfl (sC 0 0 0 0) (zeroS _) ?_; intro w2 rs2 hg2))
  have ss2 := ss1.kept0 hg2
  have hG2 : Hid (w.grownBy w2 none) := Hid.mk' (gt hg1 hg2)
  have hB2 : Hid (w.heap.size ≤ w1.heap.size) := Hid.mk' hg1.size
  clear hg1 hg2 ss1
  generalize w1.heap.size = B at *
  obtain ⟨SB, hSB⟩ : ∃ SB, Hid (w.heap.size = SB) := ⟨_, Hid.mk' rfl⟩
  rw [hSB.out] at ss2
  rw [hSB.out]
  go_wp2_with (first
    | (go_at_call 17; refine (pc_83_0 _).mono ?_; rintro e w3 ⟨rfl, hg⟩; have ss3 := ss2.kept0 hg; have rs3 := rs2.kept0 hg; have hG3 : Hid (w.grownBy w3 none) := Hid.mk' (gt hG2.out hg); have s0 := ss3.cell 0 rfl; clear ss2 rs2 hg)
    | (go_at_call 27; refine (wy_83_0_0 _).mono ?_; rintro e w4 ⟨rfl, hg⟩; have ss4 := ss3.kept0 hg; have rs4 := rs3.kept0 hg; have hG4 : Hid (w.grownBy w4 none) := Hid.mk' (gt hG3.out hg); clear s0; have s0 := ss4.cell 0 rfl; clear ss3 rs3 hg)
    | (go_at_call 20; refine (p_in _ _).mono ?_; rintro e w5 ⟨rfl, hg⟩; have ss5 := ss4.kept0 hg; have rs5 := rs4.kept0 hg; have hG5 : Hid (w.grownBy w5 none) := Hid.mk' (gt hG4.out hg); clear s0; have s0 := ss5.cell 0 rfl; clear ss4 rs4 hg)
    | (refine wpList_loadC _ rfl 24 _ rfl _ Try.underlying24 rfl SB (sC 0 0 0 0) infoS rfl ss2 ?_)
    | (refine wpList_storeC _ rfl 24 _ _ rfl B (sC 0 0 0 0) (sC 0 0 0 0) infoS rfl (sC_one _ _ _ _) rfl rfl rs5 ?_; intro wz rsz hgz))
  refine bodyPost_ret (v := .tuple #[.string ⟨#[]⟩, .agg (sC 0 0 0 0), .int .i64 0]) (results_tct Try.results12 _ wz B 24 _ (0, 0) _ rfl rsz Try.underlying24 rfl infoS _ _ rfl rfl) rfl ⟨rfl, ?_⟩
  exact grownBy_new hG5.out hgz (fun k hk => by have h5 := Option.some.inj hk; have h6 := hB2.out; omega)
set_option maxRecDepth 100000 in
set_option maxHeartbeats 1000000 in
theorem pe_83_1  (w : World) : Calls Try.prog 12 #[.int .i64 83, stV 1 0 0 0] w fun e w' => e = .returned (.tuple #[.string ⟨#[27, 40, 66]⟩, .agg (sC 0 0 0 0), .int .i64 0]) ∧ w.grownBy w' none := by
  go_enter Try.func12, Try.ntmps12
  go_upto_region 1 with (first
    | (refine wpList_boxC _ rfl 24 _ rfl (sC 1 0 0 0) rfl ?_; intro w1 ss1 hg1)
    | (refine wpList_allocC _ rfl 24 rfl (sC 0 0 0 0) (zeroS _) ?_; intro w2 rs2 hg2))
  have ss2 := ss1.kept0 hg2
  have hG2 : Hid (w.grownBy w2 none) := Hid.mk' (gt hg1 hg2)
  have hB2 : Hid (w.heap.size ≤ w1.heap.size) := Hid.mk' hg1.size
  clear hg1 hg2 ss1
  generalize w1.heap.size = B at *
  obtain ⟨SB, hSB⟩ : ∃ SB, Hid (w.heap.size = SB) := ⟨_, Hid.mk' rfl⟩
  rw [hSB.out] at ss2
  rw [hSB.out]
  go_wp2_with (first
    | (go_at_call 17; refine (pc_83_1 _).mono ?_; rintro e w3 ⟨rfl, hg⟩; have ss3 := ss2.kept0 hg; have rs3 := rs2.kept0 hg; have hG3 : Hid (w.grownBy w3 none) := Hid.mk' (gt hG2.out hg); have s0 := ss3.cell 0 rfl; clear ss2 rs2 hg)
    | (go_at_call 27; refine (wy_83_1_0 _).mono ?_; rintro e w4 ⟨rfl, hg⟩; have ss4 := ss3.kept0 hg; have rs4 := rs3.kept0 hg; have hG4 : Hid (w.grownBy w4 none) := Hid.mk' (gt hG3.out hg); clear s0; have s0 := ss4.cell 0 rfl; clear ss3 rs3 hg)
    | (go_at_call 20; refine (p_in _ _).mono ?_; rintro e w5 ⟨rfl, hg⟩; have ss5 := ss4.kept0 hg; have rs5 := rs4.kept0 hg; have hG5 : Hid (w.grownBy w5 none) := Hid.mk' (gt hG4.out hg); clear s0; have s0 := ss5.cell 0 rfl; clear ss4 rs4 hg)
    | (refine wpList_loadC _ rfl 24 _ rfl _ Try.underlying24 rfl SB (sC 1 0 0 0) infoS rfl ss2 ?_)
    | (refine wpList_storeC _ rfl 24 _ _ rfl B (sC 0 0 0 0) (sC 0 0 0 0) infoS rfl (sC_one _ _ _ _) rfl rfl rs5 ?_; intro wz rsz hgz))
  refine bodyPost_ret (v := .tuple #[.string ⟨#[27, 40, 66]⟩, .agg (sC 0 0 0 0), .int .i64 0]) (results_tct Try.results12 _ wz B 24 _ (0, 0) _ rfl rsz Try.underlying24 rfl infoS _ _ rfl rfl) rfl ⟨rfl, ?_⟩
  exact grownBy_new hG5.out hgz (fun k hk => by have h5 := Option.some.inj hk; have h6 := hB2.out; omega)
set_option maxRecDepth 100000 in
set_option maxHeartbeats 1000000 in
theorem pe_83_2  (w : World) : Calls Try.prog 12 #[.int .i64 83, stV 2 0 0 0] w fun e w' => e = .returned (.tuple #[.string ⟨#[27, 40, 66]⟩, .agg (sC 0 0 0 0), .int .i64 0]) ∧ w.grownBy w' none := by
  go_enter Try.func12, Try.ntmps12
  go_upto_region 1 with (first
    | (refine wpList_boxC _ rfl 24 _ rfl (sC 2 0 0 0) rfl ?_; intro w1 ss1 hg1)
    | (refine wpList_allocC _ rfl 24 rfl (sC 0 0 0 0) (zeroS _) ?_; intro w2 rs2 hg2))
  have ss2 := ss1.kept0 hg2
  have hG2 : Hid (w.grownBy w2 none) := Hid.mk' (gt hg1 hg2)
  have hB2 : Hid (w.heap.size ≤ w1.heap.size) := Hid.mk' hg1.size
  clear hg1 hg2 ss1
  generalize w1.heap.size = B at *
  obtain ⟨SB, hSB⟩ : ∃ SB, Hid (w.heap.size = SB) := ⟨_, Hid.mk' rfl⟩
  rw [hSB.out] at ss2
  rw [hSB.out]
  go_wp2_with (first
    | (go_at_call 17; refine (pc_83_2 _).mono ?_; rintro e w3 ⟨rfl, hg⟩; have ss3 := ss2.kept0 hg; have rs3 := rs2.kept0 hg; have hG3 : Hid (w.grownBy w3 none) := Hid.mk' (gt hG2.out hg); have s0 := ss3.cell 0 rfl; clear ss2 rs2 hg)
    | (go_at_call 27; refine (wy_83_2_0 _).mono ?_; rintro e w4 ⟨rfl, hg⟩; have ss4 := ss3.kept0 hg; have rs4 := rs3.kept0 hg; have hG4 : Hid (w.grownBy w4 none) := Hid.mk' (gt hG3.out hg); clear s0; have s0 := ss4.cell 0 rfl; clear ss3 rs3 hg)
    | (go_at_call 20; refine (p_in _ _).mono ?_; rintro e w5 ⟨rfl, hg⟩; have ss5 := ss4.kept0 hg; have rs5 := rs4.kept0 hg; have hG5 : Hid (w.grownBy w5 none) := Hid.mk' (gt hG4.out hg); clear s0; have s0 := ss5.cell 0 rfl; clear ss4 rs4 hg)
    | (refine wpList_loadC _ rfl 24 _ rfl _ Try.underlying24 rfl SB (sC 2 0 0 0) infoS rfl ss2 ?_)
    | (refine wpList_storeC _ rfl 24 _ _ rfl B (sC 0 0 0 0) (sC 0 0 0 0) infoS rfl (sC_one _ _ _ _) rfl rfl rs5 ?_; intro wz rsz hgz))
  refine bodyPost_ret (v := .tuple #[.string ⟨#[27, 40, 66]⟩, .agg (sC 0 0 0 0), .int .i64 0]) (results_tct Try.results12 _ wz B 24 _ (0, 0) _ rfl rsz Try.underlying24 rfl infoS _ _ rfl rfl) rfl ⟨rfl, ?_⟩
  exact grownBy_new hG5.out hgz (fun k hk => by have h5 := Option.some.inj hk; have h6 := hB2.out; omega)
set_option maxRecDepth 100000 in
set_option maxHeartbeats 1000000 in
theorem pe_88_0  (w : World) : Calls Try.prog 12 #[.int .i64 88, stV 0 0 0 0] w fun e w' => e = .returned (.tuple #[.string ⟨#[]⟩, .agg (sC 0 0 0 0), .int .i64 0]) ∧ w.grownBy w' none := by
  go_enter Try.func12, Try.ntmps12
  go_upto_region 1 with (first
    | (refine wpList_boxC _ rfl 24 _ rfl (sC 0 0 0 0) rfl ?_; intro w1 ss1 hg1)
    | (refine wpList_allocC _ rfl 24 rfl (sC 0 0 0 0) (zeroS _) ?_; intro w2 rs2 hg2))
  have ss2 := ss1.kept0 hg2
  have hG2 : Hid (w.grownBy w2 none) := Hid.mk' (gt hg1 hg2)
  have hB2 : Hid (w.heap.size ≤ w1.heap.size) := Hid.mk' hg1.size
  clear hg1 hg2 ss1
  generalize w1.heap.size = B at *
  obtain ⟨SB, hSB⟩ : ∃ SB, Hid (w.heap.size = SB) := ⟨_, Hid.mk' rfl⟩
  rw [hSB.out] at ss2
  rw [hSB.out]
  go_wp2_with (first
    | (go_at_call 17; refine (pc_88_0 _).mono ?_; rintro e w3 ⟨rfl, hg⟩; have ss3 := ss2.kept0 hg; have rs3 := rs2.kept0 hg; have hG3 : Hid (w.grownBy w3 none) := Hid.mk' (gt hG2.out hg); have s0 := ss3.cell 0 rfl; clear ss2 rs2 hg)
    | (go_at_call 27; refine (wy_88_0_0 _).mono ?_; rintro e w4 ⟨rfl, hg⟩; have ss4 := ss3.kept0 hg; have rs4 := rs3.kept0 hg; have hG4 : Hid (w.grownBy w4 none) := Hid.mk' (gt hG3.out hg); clear s0; have s0 := ss4.cell 0 rfl; clear ss3 rs3 hg)
    | (go_at_call 20; refine (p_in _ _).mono ?_; rintro e w5 ⟨rfl, hg⟩; have ss5 := ss4.kept0 hg; have rs5 := rs4.kept0 hg; have hG5 : Hid (w.grownBy w5 none) := Hid.mk' (gt hG4.out hg); clear s0; have s0 := ss5.cell 0 rfl; clear ss4 rs4 hg)
    | (refine wpList_loadC _ rfl 24 _ rfl _ Try.underlying24 rfl SB (sC 0 0 0 0) infoS rfl ss2 ?_)
    | (refine wpList_storeC _ rfl 24 _ _ rfl B (sC 0 0 0 0) (sC 0 0 0 0) infoS rfl (sC_one _ _ _ _) rfl rfl rs5 ?_; intro wz rsz hgz))
  refine bodyPost_ret (v := .tuple #[.string ⟨#[]⟩, .agg (sC 0 0 0 0), .int .i64 0]) (results_tct Try.results12 _ wz B 24 _ (0, 0) _ rfl rsz Try.underlying24 rfl infoS _ _ rfl rfl) rfl ⟨rfl, ?_⟩
  exact grownBy_new hG5.out hgz (fun k hk => by have h5 := Option.some.inj hk; have h6 := hB2.out; omega)
set_option maxRecDepth 100000 in
set_option maxHeartbeats 1000000 in
theorem pe_88_1  (w : World) : Calls Try.prog 12 #[.int .i64 88, stV 1 0 0 0] w fun e w' => e = .returned (.tuple #[.string ⟨#[]⟩, .agg (sC 1 0 0 0), .int .i64 0]) ∧ w.grownBy w' none := by
  go_enter Try.func12, Try.ntmps12
  go_upto_region 1 with (first
    | (refine wpList_boxC _ rfl 24 _ rfl (sC 1 0 0 0) rfl ?_; intro w1 ss1 hg1)
    | (refine wpList_allocC _ rfl 24 rfl (sC 0 0 0 0) (zeroS _) ?_; intro w2 rs2 hg2))
  have ss2 := ss1.kept0 hg2
  have hG2 : Hid (w.grownBy w2 none) := Hid.mk' (gt hg1 hg2)
  have hB2 : Hid (w.heap.size ≤ w1.heap.size) := Hid.mk' hg1.size
  clear hg1 hg2 ss1
  generalize w1.heap.size = B at *
  obtain ⟨SB, hSB⟩ : ∃ SB, Hid (w.heap.size = SB) := ⟨_, Hid.mk' rfl⟩
  rw [hSB.out] at ss2
  rw [hSB.out]
  go_wp2_with (first
    | (go_at_call 17; refine (pc_88_1 _).mono ?_; rintro e w3 ⟨rfl, hg⟩; have ss3 := ss2.kept0 hg; have rs3 := rs2.kept0 hg; have hG3 : Hid (w.grownBy w3 none) := Hid.mk' (gt hG2.out hg); have s0 := ss3.cell 0 rfl; clear ss2 rs2 hg)
    | (go_at_call 27; refine (wy_88_1_1 _).mono ?_; rintro e w4 ⟨rfl, hg⟩; have ss4 := ss3.kept0 hg; have rs4 := rs3.kept0 hg; have hG4 : Hid (w.grownBy w4 none) := Hid.mk' (gt hG3.out hg); clear s0; have s0 := ss4.cell 0 rfl; clear ss3 rs3 hg)
    | (go_at_call 20; refine (p_in _ _).mono ?_; rintro e w5 ⟨rfl, hg⟩; have ss5 := ss4.kept0 hg; have rs5 := rs4.kept0 hg; have hG5 : Hid (w.grownBy w5 none) := Hid.mk' (gt hG4.out hg); clear s0; have s0 := ss5.cell 0 rfl; clear ss4 rs4 hg)
    | (refine wpList_loadC _ rfl 24 _ rfl _ Try.underlying24 rfl SB (sC 1 0 0 0) infoS rfl ss2 ?_)
    | (refine wpList_storeC _ rfl 24 _ _ rfl B (sC 0 0 0 0) (sC 1 0 0 0) infoS rfl (sC_one _ _ _ _) rfl rfl rs5 ?_; intro wz rsz hgz))
  refine bodyPost_ret (v := .tuple #[.string ⟨#[]⟩, .agg (sC 1 0 0 0), .int .i64 0]) (results_tct Try.results12 _ wz B 24 _ (0, 0) _ rfl rsz Try.underlying24 rfl infoS _ _ rfl rfl) rfl ⟨rfl, ?_⟩
  exact grownBy_new hG5.out hgz (fun k hk => by have h5 := Option.some.inj hk; have h6 := hB2.out; omega)
set_option maxRecDepth 100000 in
set_option maxHeartbeats 1000000 in
theorem pe_88_2  (w : World) : Calls Try.prog 12 #[.int .i64 88, stV 2 0 0 0] w fun e w' => e = .returned (.tuple #[.string ⟨#[15]⟩, .agg (sC 1 0 0 0), .int .i64 0]) ∧ w.grownBy w' none := by
  go_enter Try.func12, Try.ntmps12
  go_upto_region 1 with (first
    | (refine wpList_boxC _ rfl 24 _ rfl (sC 2 0 0 0) rfl ?_; intro w1 ss1 hg1)
    | (refine wpList_allocC _ rfl 24 rfl (sC 0 0 0 0) (zeroS _) ?_; intro w2 rs2 hg2))
  have ss2 := ss1.kept0 hg2
  have hG2 : Hid (w.grownBy w2 none) := Hid.mk' (gt hg1 hg2)
  have hB2 : Hid (w.heap.size ≤ w1.heap.size) := Hid.mk' hg1.size
  clear hg1 hg2 ss1
  generalize w1.heap.size = B at *
  obtain ⟨SB, hSB⟩ : ∃ SB, Hid (w.heap.size = SB) := ⟨_, Hid.mk' rfl⟩
  rw [hSB.out] at ss2
  rw [hSB.out]
  go_wp2_with (first
    | (go_at_call 17; refine (pc_88_2 _).mono ?_; rintro e w3 ⟨rfl, hg⟩; have ss3 := ss2.kept0 hg; have rs3 := rs2.kept0 hg; have hG3 : Hid (w.grownBy w3 none) := Hid.mk' (gt hG2.out hg); have s0 := ss3.cell 0 rfl; clear ss2 rs2 hg)
    | (go_at_call 27; refine (wy_88_2_1 _).mono ?_; rintro e w4 ⟨rfl, hg⟩; have ss4 := ss3.kept0 hg; have rs4 := rs3.kept0 hg; have hG4 : Hid (w.grownBy w4 none) := Hid.mk' (gt hG3.out hg); clear s0; have s0 := ss4.cell 0 rfl; clear ss3 rs3 hg)
    | (go_at_call 20; refine (p_in _ _).mono ?_; rintro e w5 ⟨rfl, hg⟩; have ss5 := ss4.kept0 hg; have rs5 := rs4.kept0 hg; have hG5 : Hid (w.grownBy w5 none) := Hid.mk' (gt hG4.out hg); clear s0; have s0 := ss5.cell 0 rfl; clear ss4 rs4 hg)
    | (refine wpList_loadC _ rfl 24 _ rfl _ Try.underlying24 rfl SB (sC 2 0 0 0) infoS rfl ss2 ?_)
    | (refine wpList_storeC _ rfl 24 _ _ rfl B (sC 0 0 0 0) (sC 1 0 0 0) infoS rfl (sC_one _ _ _ _) rfl rfl rs5 ?_; intro wz rsz hgz))
  refine bodyPost_ret (v := .tuple #[.string ⟨#[15]⟩, .agg (sC 1 0 0 0), .int .i64 0]) (results_tct Try.results12 _ wz B 24 _ (0, 0) _ rfl rsz Try.underlying24 rfl infoS _ _ rfl rfl) rfl ⟨rfl, ?_⟩
  exact grownBy_new hG5.out hgz (fun k hk => by have h5 := Option.some.inj hk; have h6 := hB2.out; omega)
theorem end_any (k md bi ac he : Int) (m : Nat) (hm : Hid (mo md bi ac he = m)) (w : World) : Calls Try.prog 12 #[.int .i64 k, stV md bi ac he] w fun e w' => e = .returned (.tuple #[.string (str (enB k m)), .agg (sC (enM k m : Int) 0 0 0), .int .i64 (enE k m)]) ∧ w.grownBy w' none := by
  cases hh : has k with
  | false =>
    have e1 : enB k m = [] := by unfold enB; rw [hh, if_pos (.inl rfl)]
    have e2 : enM k m = 0 := by unfold enM; rw [hh, if_pos (.inl rfl)]
    have e3 : enE k m = 5 := by unfold enE; rw [hh, if_pos rfl]
    rw [e1, e2, e3]
    exact pe_e5 k md bi ac he (Hid.mk' (fun w => pc_kind k md bi ac he (Hid.mk' hh) w)) w
  | true =>
    have hk := has_yes hh
    have hl := mo_le md bi ac he
    rw [hm.out] at hl
    by_cases h3 : m = 3
    · subst h3
      have e1 : enB k 3 = [] := by unfold enB; rw [if_pos (.inr (by omega))]
      have e2 : enM k 3 = 0 := by unfold enM; rw [if_pos (.inr (by omega))]
      have e3 : enE k 3 = 7 := by unfold enE; rw [hh, if_neg (by simp), if_pos (by omega)]
      rw [e1, e2, e3]
      exact pe_e7 k md bi ac he (Hid.mk' (fun w => pcheck_no k hk md bi ac he hm w)) w
    · obtain ⟨rfl, rfl, rfl, rfl⟩ := mo_fit hm.out (by omega)
      have h4 : m < 3 := by omega
      rcases hk with rfl | rfl
      · match m, h4 with
        | 0, _ => exact pe_83_0 w
        | 1, _ => exact pe_83_1 w
        | 2, _ => exact pe_83_2 w
      · match m, h4 with
        | 0, _ => exact pe_88_0 w
        | 1, _ => exact pe_88_1 w
        | 2, _ => exact pe_88_2 w
end Go.Proofs.Ytdobjijebalkkaa.C21

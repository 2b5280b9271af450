/- The program's begins, Pack and Unpack of layer 19: walks. -/
import Derived.Test.YtdphkpjamclhjaaJN19
namespace Go.Proofs.Ytdphkpjamclhjaa.C19
open Go.ChangeShapes Go.WideShapes Go.ChangeAt Go.RowKit Go.Proofs.Ytdphkpjamclhjaa.Mem Go.Proofs.Ytdphkpjamclhjaa.Cb Go.Proofs.Ytdphkpjamclhjaa.Sp Go.Proofs.Ytdphkpjamclhjaa.Ar
set_option linter.unusedVariables false
set_option linter.unusedSimpArgs false

/-- What number and part answer of a kind's numbers. -/
def numT (L : List Nat) (p : Int) : Int × Bool := if 0 ≤ p ∧ p < (L.length : Int) then ((L.getD p.toNat 0 : Nat), true) else (0, false)
def ptT (L : List Nat) (x : Nat) : Int × Bool := match L.findIdx? (fun y => y == x) with | some i => ((i : Int), true) | none => (0, false)
theorem num_any (L : List Nat) (hL : L.length ≤ 28) (h0 : ∀ x ∈ L, x ≠ 0) (p : Int) (v : Int) (ok : Bool) (h : Hid (numT L p = (v, ok))) (w : World) : Calls Try.prog 25 #[arrV .i64 (nums L), .int .i64 p] w fun e w' => e = .returned (.tuple #[.int .i64 v, .bool ok]) ∧ w.grownBy w' none := by
  have h1 := h.out
  unfold numT at h1
  by_cases hp : p < 0
  · rw [if_neg (by omega)] at h1
    simp only [Prod.mk.injEq] at h1
    obtain ⟨rfl, rfl⟩ := h1
    exact num_lo _ p hp w
  · by_cases hq : 28 ≤ p
    · rw [if_neg (by omega)] at h1
      simp only [Prod.mk.injEq] at h1
      obtain ⟨rfl, rfl⟩ := h1
      exact num_hi _ p hq w
    · obtain ⟨j, rfl⟩ : ∃ j : Nat, p = (j : Int) := ⟨p.toNat, by omega⟩
      have hZ := Hid.mk' (nums_len hL)
      by_cases hj : j < L.length
      · rw [if_pos ⟨by omega, by omega⟩, Int.toNat_natCast] at h1
        simp only [Prod.mk.injEq] at h1
        obtain ⟨rfl, rfl⟩ := h1
        have e : L.getD j 0 = L[j] := by rw [List.getD_eq_getElem?_getD, List.getElem?_eq_getElem hj]; rfl
        have hn : (nums L)[j]? = some ((L.getD j 0 : Nat) : Int) := by
          unfold nums
          rw [List.getElem?_append_left (by rw [List.length_map]; exact hj), List.getElem?_map, List.getElem?_eq_getElem hj, e]
          rfl
        have h3 := h0 _ (List.getElem_mem hj)
        exact num_n _ j (by omega) hZ _ (Hid.mk' hn) (by rw [e]; omega) w
      · rw [if_neg (by omega)] at h1
        simp only [Prod.mk.injEq] at h1
        obtain ⟨rfl, rfl⟩ := h1
        have hn : (nums L)[j]? = some 0 := by
          unfold nums
          rw [List.getElem?_append_right (by rw [List.length_map]; omega), List.length_map, List.getElem?_replicate, if_pos (by omega)]
        exact num_z _ j (by omega) hZ (Hid.mk' hn) w
theorem zF : ∀ x ∈ firs, x ≠ 0 := by decide
theorem zM : ∀ x ∈ mids, x ≠ 0 := by decide
theorem zL : ∀ x ∈ lsts, x ≠ 0 := by decide
theorem ptF : ∀ x : Nat, x < 32 → x ≠ 0 → (match (nums firs).findIdx? (fun y => y == (x : Int)) with | some i => ((i : Int), true) | none => (0, false)) = ptT firs x := by decide +kernel
theorem part_F (x : Nat) (hx : x < 32) (r : Int) (ok : Bool) (h : Hid (ptT firs x = (r, ok))) (w : World) : Calls Try.prog 30 #[arrV .i64 (nums firs), .int .i64 (x : Int)] w fun e w' => e = .returned (.tuple #[.int .i64 r, .bool ok]) ∧ w.grownBy w' none := by
  by_cases h0 : x = 0
  · subst h0
    have e : ptT firs 0 = (0, false) := by decide
    have h1 := h.out
    rw [e] at h1
    simp only [Prod.mk.injEq] at h1
    obtain ⟨rfl, rfl⟩ := h1
    exact part_z _ w
  · exact part_f _ (Hid.mk' (nums_len (by decide))) _ (by omega) r ok (Hid.mk' ((ptF x hx h0).trans h.out)) w
theorem ptM : ∀ x : Nat, x < 32 → x ≠ 0 → (match (nums mids).findIdx? (fun y => y == (x : Int)) with | some i => ((i : Int), true) | none => (0, false)) = ptT mids x := by decide +kernel
theorem part_M (x : Nat) (hx : x < 32) (r : Int) (ok : Bool) (h : Hid (ptT mids x = (r, ok))) (w : World) : Calls Try.prog 30 #[arrV .i64 (nums mids), .int .i64 (x : Int)] w fun e w' => e = .returned (.tuple #[.int .i64 r, .bool ok]) ∧ w.grownBy w' none := by
  by_cases h0 : x = 0
  · subst h0
    have e : ptT mids 0 = (0, false) := by decide
    have h1 := h.out
    rw [e] at h1
    simp only [Prod.mk.injEq] at h1
    obtain ⟨rfl, rfl⟩ := h1
    exact part_z _ w
  · exact part_f _ (Hid.mk' (nums_len (by decide))) _ (by omega) r ok (Hid.mk' ((ptM x hx h0).trans h.out)) w
theorem ptL : ∀ x : Nat, x < 32 → x ≠ 0 → (match (nums lsts).findIdx? (fun y => y == (x : Int)) with | some i => ((i : Int), true) | none => (0, false)) = ptT lsts x := by decide +kernel
theorem part_L (x : Nat) (hx : x < 32) (r : Int) (ok : Bool) (h : Hid (ptT lsts x = (r, ok))) (w : World) : Calls Try.prog 30 #[arrV .i64 (nums lsts), .int .i64 (x : Int)] w fun e w' => e = .returned (.tuple #[.int .i64 r, .bool ok]) ∧ w.grownBy w' none := by
  by_cases h0 : x = 0
  · subst h0
    have e : ptT lsts 0 = (0, false) := by decide
    have h1 := h.out
    rw [e] at h1
    simp only [Prod.mk.injEq] at h1
    obtain ⟨rfl, rfl⟩ := h1
    exact part_z _ w
  · exact part_f _ (Hid.mk' (nums_len (by decide))) _ (by omega) r ok (Hid.mk' ((ptL x hx h0).trans h.out)) w
theorem wraps_i64 (n : Int) (h₀ : 0 ≤ n) (h₁ : n < 2 ^ 63) : IntKind.i64.wrap n = n := by rw [IntKind.wrap_i64]; omega
theorem and31 (n : Nat) (h : n < 9223372036854775808) : bits .and .i64 (n : Int) 31 = ((n % 32 : Nat) : Int) := by
  have h2 := bits_mask .i64 63 (by decide) wraps_i64 5 (by decide) (n : Int) (by omega) (by omega)
  have e : ((2 : Int) ^ 5 - 1) = 31 := by decide
  rw [e] at h2
  rw [h2]
  omega
theorem or_64 (i x y : Nat) (hx : x % 2 ^ i = 0) (hx1 : x < 9223372036854775808) (hy : y < 2 ^ i) (hy1 : y < 9223372036854775808) : bits .or .i64 (x : Int) (y : Int) = ((x + y : Nat) : Int) := by
  have h := bits_join .i64 63 (by decide) wraps_i64 i (x : Int) (y : Int) (by omega) (by exact_mod_cast hx) (by omega) (by omega) (by exact_mod_cast hy) (by omega)
  rw [h]
  omega
set_option maxRecDepth 100000 in
set_option maxHeartbeats 1000000 in
theorem bg_any (b p q x : Nat) (hb : b < 256) (e1 : (b : Int) * 256 = (p : Int)) (e2 : (p : Int) / 1024 = (q : Int)) (e3 : q % 32 = x) (hx : x < 32) (r : Int) (ok : Bool) (h : Hid (ptT firs x = (r, ok))) (w : World) : Calls Try.prog 18 #[.int .u8 (b : Int)] w fun e w' => e = .returned (.bool ok) ∧ w.grownBy w' none := by
  have w1 : IntKind.i64.wrap (b : Int) = (b : Int) := wraps_i64 _ (by omega) (by omega)
  have w2 : IntKind.i64.wrap (p : Int) = (p : Int) := wraps_i64 _ (by omega) (by omega)
  have a1 : bits .and .i64 (q : Int) 31 = (x : Int) := by rw [and31 q (by omega), e3]
  go_enter Try.func18, Try.ntmps18
  go_wp2_with (first
    | (go_at_call 24; refine (arrF _).mono ?_; rintro e w1 ⟨rfl, hg1⟩)
    | (go_at_call 30; refine (part_F x hx r ok h _).mono ?_; rintro e w2 ⟨rfl, hg2⟩))
  go_ret
  exact ⟨rfl, (gt hg1 hg2)⟩
theorem pt_F : ∀ x : Nat, x < 32 → ptT firs x = if 2 ≤ x ∧ x ≤ 20 then ((x : Int) - 2, true) else (0, false) := by decide +kernel
theorem pt_plc (L : List Nat) (x : Nat) : ptT L x = if 0 ≤ plc L x then (plc L x, true) else (0, false) := by
  unfold ptT plc
  cases L.findIdx? (fun y => y == x) with
  | none => simp
  | some i => simp
theorem bg_iff (b : Nat) (h1 : 128 ≤ b) (h2 : b < 256) : bgR b = (ptT firs (b / 4 % 32)).2 := by
  rw [pt_F _ (by omega)]
  by_cases hx : 2 ≤ b / 4 % 32 ∧ b / 4 % 32 ≤ 20
  · rw [if_pos hx]
    show bgR b = true
    obtain ⟨m, d, hm, hmd, hd⟩ : ∃ m d : Nat, m ≤ 20 ∧ md m = d ∧ d / 8 = b % 4 ∧ d < 32 := by
      have : b % 4 = 0 ∨ b % 4 = 1 ∨ b % 4 = 2 ∨ b % 4 = 3 := by omega
      rcases this with h | h | h | h <;> rw [h]
      · exact ⟨0, 3, by decide⟩
      · exact ⟨5, 10, by decide⟩
      · exact ⟨11, 18, by decide⟩
      · exact ⟨17, 26, by decide⟩
    have hu := up_of (a := b / 4 % 32 - 2) (b := m) (c := 0) (by omega) hm (by omega)
    have hl : ls 0 = 1 := by decide
    have hc : code (b / 4 % 32 - 2) m 0 = b * 256 + (d % 8 * 32 + 1) := by
      unfold code
      rw [hmd, hl]
      omega
    rw [hc] at hu
    exact bg_of (c := d % 8 * 32 + 1) (by omega) (by rw [hu])
  · rw [if_neg hx]
    show bgR b = false
    cases hb : bgR b with
    | false => rfl
    | true =>
      exfalso
      unfold bgR at hb
      rw [List.any_eq_true] at hb
      obtain ⟨i, hi, hu⟩ := hb
      have hi2 := List.mem_range.1 hi
      cases e : upT ((b * 256 + i : Nat) : Int) with
      | mk x q =>
      obtain ⟨y, z, ok⟩ := q
      rw [e] at hu
      simp only at hu
      subst hu
      obtain ⟨a, m, d, _, _, _, k1, k2, k3, k4⟩ := of_up e
      have g1 := (md_lt m (by omega)).1
      have g2 := (ls_lt d (by omega)).1
      unfold code at k4
      omega
theorem pBegins (b : Nat) (h1 : 128 ≤ b) (h2 : b < 256) (H : Bool) (hH : Hid (bgR b = H)) (w : World) : Calls Try.prog 18 #[.int .u8 (b : Int)] w fun e w' => e = .returned (.bool H) ∧ w.grownBy w' none := by
  have h3 := hH.out
  rw [bg_iff b h1 h2] at h3
  have e : b * 256 / 1024 % 32 = b / 4 % 32 := by omega
  exact bg_any b (b * 256) (b * 256 / 1024) (b / 4 % 32) h2 (by omega) (by omega) e (by omega) (ptT firs (b / 4 % 32)).1 H (Hid.mk' (by rw [← h3])) w
set_option maxRecDepth 100000 in
set_option maxHeartbeats 1000000 in
theorem pk_yes (Z1 Z2 Z3 : List Int) (f m l : Int) (x y z p1 p2 p3 p4 c : Nat) (aF : Hid (∀ w, Calls Try.prog 24 #[] w fun e w' => e = .returned (arrV .i64 Z1) ∧ w.grownBy w' none)) (aM : Hid (∀ w, Calls Try.prog 26 #[] w fun e w' => e = .returned (arrV .i64 Z2) ∧ w.grownBy w' none)) (aL : Hid (∀ w, Calls Try.prog 27 #[] w fun e w' => e = .returned (arrV .i64 Z3) ∧ w.grownBy w' none)) (nF : Hid (∀ w, Calls Try.prog 25 #[arrV .i64 Z1, .int .i64 f] w fun e w' => e = .returned (.tuple #[.int .i64 (x : Int), .bool true]) ∧ w.grownBy w' none)) (nM : Hid (∀ w, Calls Try.prog 25 #[arrV .i64 Z2, .int .i64 m] w fun e w' => e = .returned (.tuple #[.int .i64 (y : Int), .bool true]) ∧ w.grownBy w' none)) (nL : Hid (∀ w, Calls Try.prog 25 #[arrV .i64 Z3, .int .i64 l] w fun e w' => e = .returned (.tuple #[.int .i64 (z : Int), .bool true]) ∧ w.grownBy w' none)) (e1 : (x : Int) * 1024 = (p1 : Int)) (o1 : bits .or .i64 32768 (p1 : Int) = (p2 : Int)) (e2 : (y : Int) * 32 = (p3 : Int)) (o2 : bits .or .i64 (p2 : Int) (p3 : Int) = (p4 : Int)) (o3 : bits .or .i64 (p4 : Int) (z : Int) = (c : Int)) (b1 : p1 < 65536) (b2 : p3 < 65536) (w : World) : Calls Try.prog 13 #[.int .i64 f, .int .i64 m, .int .i64 l] w fun e w' => e = .returned (.tuple #[.int .i64 (c : Int), .bool true]) ∧ w.grownBy w' none := by
  have w0 : IntKind.i64.wrap (p1 : Int) = (p1 : Int) := wraps_i64 _ (by omega) (by omega)
  have w1 : IntKind.i64.wrap (p3 : Int) = (p3 : Int) := wraps_i64 _ (by omega) (by omega)
  go_enter Try.func13, Try.ntmps13
  go_upto_region 2 with (first
    | (go_at_call 24; refine (aF.out _).mono ?_; rintro e w1 ⟨rfl, hg1⟩)
    | (go_at_call 25; refine (nF.out _).mono ?_; rintro e w2 ⟨rfl, hg2⟩))
  go_upto_region 3 with (first
    | (go_at_call 26; refine (aM.out _).mono ?_; rintro e w3 ⟨rfl, hg3⟩)
    | (go_at_call 25; refine (nM.out _).mono ?_; rintro e w4 ⟨rfl, hg4⟩))
  go_upto_region 4 with (first
    | (go_at_call 27; refine (aL.out _).mono ?_; rintro e w5 ⟨rfl, hg5⟩)
    | (go_at_call 25; refine (nL.out _).mono ?_; rintro e w6 ⟨rfl, hg6⟩))
  go_wp2
  exact bodyPost_ret (v := .tuple #[.int .i64 (c : Int), .bool true]) (by simp [results, Try.results13, go_sem]) rfl ⟨rfl, (gt (gt (gt (gt (gt hg1 hg2) hg3) hg4) hg5) hg6)⟩
set_option maxRecDepth 100000 in
set_option maxHeartbeats 1000000 in
theorem pk_na (Z1 Z2 Z3 : List Int) (f m l : Int) (x y z : Int) (b c : Bool) (aF : Hid (∀ w, Calls Try.prog 24 #[] w fun e w' => e = .returned (arrV .i64 Z1) ∧ w.grownBy w' none)) (aM : Hid (∀ w, Calls Try.prog 26 #[] w fun e w' => e = .returned (arrV .i64 Z2) ∧ w.grownBy w' none)) (aL : Hid (∀ w, Calls Try.prog 27 #[] w fun e w' => e = .returned (arrV .i64 Z3) ∧ w.grownBy w' none)) (nF : Hid (∀ w, Calls Try.prog 25 #[arrV .i64 Z1, .int .i64 f] w fun e w' => e = .returned (.tuple #[.int .i64 x, .bool false]) ∧ w.grownBy w' none)) (nM : Hid (∀ w, Calls Try.prog 25 #[arrV .i64 Z2, .int .i64 m] w fun e w' => e = .returned (.tuple #[.int .i64 y, .bool b]) ∧ w.grownBy w' none)) (nL : Hid (∀ w, Calls Try.prog 25 #[arrV .i64 Z3, .int .i64 l] w fun e w' => e = .returned (.tuple #[.int .i64 z, .bool c]) ∧ w.grownBy w' none))  (w : World) : Calls Try.prog 13 #[.int .i64 f, .int .i64 m, .int .i64 l] w fun e w' => e = .returned (.tuple #[.int .i64 0, .bool false]) ∧ w.grownBy w' none := by
  go_enter Try.func13, Try.ntmps13
  go_upto_region 2 with (first
    | (go_at_call 24; refine (aF.out _).mono ?_; rintro e w1 ⟨rfl, hg1⟩)
    | (go_at_call 25; refine (nF.out _).mono ?_; rintro e w2 ⟨rfl, hg2⟩))
  go_upto_region 3 with (first
    | (go_at_call 26; refine (aM.out _).mono ?_; rintro e w3 ⟨rfl, hg3⟩)
    | (go_at_call 25; refine (nM.out _).mono ?_; rintro e w4 ⟨rfl, hg4⟩))
  go_upto_region 4 with (first
    | (go_at_call 27; refine (aL.out _).mono ?_; rintro e w5 ⟨rfl, hg5⟩)
    | (go_at_call 25; refine (nL.out _).mono ?_; rintro e w6 ⟨rfl, hg6⟩))
  go_wp2
  exact bodyPost_ret (v := .tuple #[.int .i64 0, .bool false]) (by simp [results, Try.results13, go_sem]) rfl ⟨rfl, (gt (gt (gt (gt (gt hg1 hg2) hg3) hg4) hg5) hg6)⟩
set_option maxRecDepth 100000 in
set_option maxHeartbeats 1000000 in
theorem pk_nb (Z1 Z2 Z3 : List Int) (f m l : Int) (x y z : Int) (c : Bool) (aF : Hid (∀ w, Calls Try.prog 24 #[] w fun e w' => e = .returned (arrV .i64 Z1) ∧ w.grownBy w' none)) (aM : Hid (∀ w, Calls Try.prog 26 #[] w fun e w' => e = .returned (arrV .i64 Z2) ∧ w.grownBy w' none)) (aL : Hid (∀ w, Calls Try.prog 27 #[] w fun e w' => e = .returned (arrV .i64 Z3) ∧ w.grownBy w' none)) (nF : Hid (∀ w, Calls Try.prog 25 #[arrV .i64 Z1, .int .i64 f] w fun e w' => e = .returned (.tuple #[.int .i64 x, .bool true]) ∧ w.grownBy w' none)) (nM : Hid (∀ w, Calls Try.prog 25 #[arrV .i64 Z2, .int .i64 m] w fun e w' => e = .returned (.tuple #[.int .i64 y, .bool false]) ∧ w.grownBy w' none)) (nL : Hid (∀ w, Calls Try.prog 25 #[arrV .i64 Z3, .int .i64 l] w fun e w' => e = .returned (.tuple #[.int .i64 z, .bool c]) ∧ w.grownBy w' none))  (w : World) : Calls Try.prog 13 #[.int .i64 f, .int .i64 m, .int .i64 l] w fun e w' => e = .returned (.tuple #[.int .i64 0, .bool false]) ∧ w.grownBy w' none := by
  go_enter Try.func13, Try.ntmps13
  go_upto_region 2 with (first
    | (go_at_call 24; refine (aF.out _).mono ?_; rintro e w1 ⟨rfl, hg1⟩)
    | (go_at_call 25; refine (nF.out _).mono ?_; rintro e w2 ⟨rfl, hg2⟩))
  go_upto_region 3 with (first
    | (go_at_call 26; refine (aM.out _).mono ?_; rintro e w3 ⟨rfl, hg3⟩)
    | (go_at_call 25; refine (nM.out _).mono ?_; rintro e w4 ⟨rfl, hg4⟩))
  go_upto_region 4 with (first
    | (go_at_call 27; refine (aL.out _).mono ?_; rintro e w5 ⟨rfl, hg5⟩)
    | (go_at_call 25; refine (nL.out _).mono ?_; rintro e w6 ⟨rfl, hg6⟩))
  go_wp2
  exact bodyPost_ret (v := .tuple #[.int .i64 0, .bool false]) (by simp [results, Try.results13, go_sem]) rfl ⟨rfl, (gt (gt (gt (gt (gt hg1 hg2) hg3) hg4) hg5) hg6)⟩
set_option maxRecDepth 100000 in
set_option maxHeartbeats 1000000 in
theorem pk_nc (Z1 Z2 Z3 : List Int) (f m l : Int) (x y z : Int) (aF : Hid (∀ w, Calls Try.prog 24 #[] w fun e w' => e = .returned (arrV .i64 Z1) ∧ w.grownBy w' none)) (aM : Hid (∀ w, Calls Try.prog 26 #[] w fun e w' => e = .returned (arrV .i64 Z2) ∧ w.grownBy w' none)) (aL : Hid (∀ w, Calls Try.prog 27 #[] w fun e w' => e = .returned (arrV .i64 Z3) ∧ w.grownBy w' none)) (nF : Hid (∀ w, Calls Try.prog 25 #[arrV .i64 Z1, .int .i64 f] w fun e w' => e = .returned (.tuple #[.int .i64 x, .bool true]) ∧ w.grownBy w' none)) (nM : Hid (∀ w, Calls Try.prog 25 #[arrV .i64 Z2, .int .i64 m] w fun e w' => e = .returned (.tuple #[.int .i64 y, .bool true]) ∧ w.grownBy w' none)) (nL : Hid (∀ w, Calls Try.prog 25 #[arrV .i64 Z3, .int .i64 l] w fun e w' => e = .returned (.tuple #[.int .i64 z, .bool false]) ∧ w.grownBy w' none))  (w : World) : Calls Try.prog 13 #[.int .i64 f, .int .i64 m, .int .i64 l] w fun e w' => e = .returned (.tuple #[.int .i64 0, .bool false]) ∧ w.grownBy w' none := by
  go_enter Try.func13, Try.ntmps13
  go_upto_region 2 with (first
    | (go_at_call 24; refine (aF.out _).mono ?_; rintro e w1 ⟨rfl, hg1⟩)
    | (go_at_call 25; refine (nF.out _).mono ?_; rintro e w2 ⟨rfl, hg2⟩))
  go_upto_region 3 with (first
    | (go_at_call 26; refine (aM.out _).mono ?_; rintro e w3 ⟨rfl, hg3⟩)
    | (go_at_call 25; refine (nM.out _).mono ?_; rintro e w4 ⟨rfl, hg4⟩))
  go_upto_region 4 with (first
    | (go_at_call 27; refine (aL.out _).mono ?_; rintro e w5 ⟨rfl, hg5⟩)
    | (go_at_call 25; refine (nL.out _).mono ?_; rintro e w6 ⟨rfl, hg6⟩))
  go_wp2
  exact bodyPost_ret (v := .tuple #[.int .i64 0, .bool false]) (by simp [results, Try.results13, go_sem]) rfl ⟨rfl, (gt (gt (gt (gt (gt hg1 hg2) hg3) hg4) hg5) hg6)⟩
theorem num_ok (L : List Nat) (p : Int) : (numT L p).2 = decide (0 ≤ p ∧ p < (L.length : Int)) := by
  unfold numT
  by_cases h : 0 ≤ p ∧ p < (L.length : Int)
  · rw [if_pos h, decide_eq_true h]
  · rw [if_neg h, decide_eq_false h]
theorem fir_at : ∀ a, a < 19 → firs.getD a 0 = a + 2 := by decide
theorem pPack (f m l : Int) (c : Int) (ok : Bool) (hP : Hid (pkT f m l = (c, ok))) (w : World) : Calls Try.prog 13 #[.int .i64 f, .int .i64 m, .int .i64 l] w fun e w' => e = .returned (.tuple #[.int .i64 c, .bool ok]) ∧ w.grownBy w' none := by
  have h := hP.out
  unfold pkT at h
  by_cases hi : C16.In3 f m l
  · rw [if_pos hi] at h
    simp only [Prod.mk.injEq] at h
    obtain ⟨rfl, rfl⟩ := h
    obtain ⟨a, b, d, rfl, rfl, rfl, h1, h2, h3⟩ := in3_nat hi
    simp only [Int.toNat_natCast]
    have g1 := (md_lt b (by omega)).1
    have g2 := (ls_lt d (by omega)).1
    have n1 : numT firs (a : Int) = (((a + 2 : Nat) : Int), true) := by
      unfold numT
      rw [if_pos (by rw [lenF]; omega), Int.toNat_natCast, fir_at a (by omega)]
    have n2 : numT mids (b : Int) = ((md b : Int), true) := by
      unfold numT
      rw [if_pos (by rw [lenM]; omega), Int.toNat_natCast]
      rfl
    have n3 : numT lsts (d : Int) = ((ls d : Int), true) := by
      unfold numT
      rw [if_pos (by rw [lenL]; omega), Int.toNat_natCast]
      rfl
    refine pk_yes _ _ _ _ _ _ (a + 2) (md b) (ls d) ((a + 2) * 1024) (32768 + (a + 2) * 1024) (md b * 32) (32768 + (a + 2) * 1024 + md b * 32) (code a b d) (Hid.mk' (fun w => arrF w)) (Hid.mk' (fun w => arrM w)) (Hid.mk' (fun w => arrL w)) (Hid.mk' (fun w => num_any firs (by decide) zF _ _ _ (Hid.mk' n1) w)) (Hid.mk' (fun w => num_any mids (by decide) zM _ _ _ (Hid.mk' n2) w)) (Hid.mk' (fun w => num_any lsts (by decide) zL _ _ _ (Hid.mk' n3) w)) (by omega) ?_ (by omega) ?_ ?_ (by omega) (by omega) w
    · exact or_64 15 32768 ((a + 2) * 1024) (by decide) (by decide) (by omega) (by omega)
    · exact or_64 10 _ (md b * 32) (by omega) (by omega) (by omega) (by omega)
    · exact or_64 5 _ (ls d) (by omega) (by omega) (by omega) (by omega)
  · rw [if_neg hi] at h
    simp only [Prod.mk.injEq] at h
    obtain ⟨rfl, rfl⟩ := h
    unfold C16.In3 at hi
    have q1 := num_ok firs f
    have q2 := num_ok mids m
    have q3 := num_ok lsts l
    rw [lenF] at q1
    rw [lenM] at q2
    rw [lenL] at q3
    cases n1 : numT firs f with
    | mk x a =>
    cases n2 : numT mids m with
    | mk y b =>
    cases n3 : numT lsts l with
    | mk z d =>
    rw [n1] at q1
    rw [n2] at q2
    rw [n3] at q3
    simp only at q1 q2 q3
    cases a with
    | false => exact pk_na _ _ _ f m l x y z b d (Hid.mk' (fun w => arrF w)) (Hid.mk' (fun w => arrM w)) (Hid.mk' (fun w => arrL w)) (Hid.mk' (fun w => num_any firs (by decide) zF _ _ _ (Hid.mk' n1) w)) (Hid.mk' (fun w => num_any mids (by decide) zM _ _ _ (Hid.mk' n2) w)) (Hid.mk' (fun w => num_any lsts (by decide) zL _ _ _ (Hid.mk' n3) w)) w
    | true =>
      cases b with
      | false => exact pk_nb _ _ _ f m l x y z d (Hid.mk' (fun w => arrF w)) (Hid.mk' (fun w => arrM w)) (Hid.mk' (fun w => arrL w)) (Hid.mk' (fun w => num_any firs (by decide) zF _ _ _ (Hid.mk' n1) w)) (Hid.mk' (fun w => num_any mids (by decide) zM _ _ _ (Hid.mk' n2) w)) (Hid.mk' (fun w => num_any lsts (by decide) zL _ _ _ (Hid.mk' n3) w)) w
      | true =>
        cases d with
        | false => exact pk_nc _ _ _ f m l x y z (Hid.mk' (fun w => arrF w)) (Hid.mk' (fun w => arrM w)) (Hid.mk' (fun w => arrL w)) (Hid.mk' (fun w => num_any firs (by decide) zF _ _ _ (Hid.mk' n1) w)) (Hid.mk' (fun w => num_any mids (by decide) zM _ _ _ (Hid.mk' n2) w)) (Hid.mk' (fun w => num_any lsts (by decide) zL _ _ _ (Hid.mk' n3) w)) w
        | true =>
          exfalso
          have r1 := of_decide_eq_true q1.symm
          have r2 := of_decide_eq_true q2.symm
          have r3 := of_decide_eq_true q3.symm
          omega
set_option maxRecDepth 100000 in
set_option maxHeartbeats 1000000 in
theorem uk_lo (c : Int) (h : c < 32768) (w : World) : Calls Try.prog 15 #[.int .i64 c] w fun e w' => e = .returned (.tuple #[.int .i64 0, .int .i64 0, .int .i64 0, .bool false]) ∧ w.grownBy w' none := by
  have f0 : decide (c < 32768) = true := decide_eq_true (by omega)
  go_enter Try.func15, Try.ntmps15
  go_wp2
  exact bodyPost_ret (v := .tuple #[.int .i64 0, .int .i64 0, .int .i64 0, .bool false]) (by simp [results, Try.results15, go_sem]) rfl ⟨rfl, (grownBy_refl _ _)⟩
set_option maxRecDepth 100000 in
set_option maxHeartbeats 1000000 in
theorem uk_hi (c : Int) (h : 65535 < c) (w : World) : Calls Try.prog 15 #[.int .i64 c] w fun e w' => e = .returned (.tuple #[.int .i64 0, .int .i64 0, .int .i64 0, .bool false]) ∧ w.grownBy w' none := by
  have f0 : decide (c < 32768) = false := decide_eq_false (by omega)
  have f1 : decide (65535 < c) = true := decide_eq_true (by omega)
  go_enter Try.func15, Try.ntmps15
  go_wp2
  exact bodyPost_ret (v := .tuple #[.int .i64 0, .int .i64 0, .int .i64 0, .bool false]) (by simp [results, Try.results15, go_sem]) rfl ⟨rfl, (grownBy_refl _ _)⟩
set_option maxRecDepth 100000 in
set_option maxHeartbeats 1000000 in
theorem uk_yes (Z1 Z2 Z3 : List Int) (c q1 q2 x1 x2 x3 : Nat) (h1 : 32768 ≤ c) (h2 : c ≤ 65535) (e1 : (c : Int) / 1024 = (q1 : Int)) (e2 : (c : Int) / 32 = (q2 : Int)) (m1 : q1 % 32 = x1) (m2 : q2 % 32 = x2) (m3 : c % 32 = x3) (x y z : Int) (aF : Hid (∀ w, Calls Try.prog 24 #[] w fun e w' => e = .returned (arrV .i64 Z1) ∧ w.grownBy w' none)) (aM : Hid (∀ w, Calls Try.prog 26 #[] w fun e w' => e = .returned (arrV .i64 Z2) ∧ w.grownBy w' none)) (aL : Hid (∀ w, Calls Try.prog 27 #[] w fun e w' => e = .returned (arrV .i64 Z3) ∧ w.grownBy w' none)) (nF : Hid (∀ w, Calls Try.prog 30 #[arrV .i64 Z1, .int .i64 (x1 : Int)] w fun e w' => e = .returned (.tuple #[.int .i64 x, .bool true]) ∧ w.grownBy w' none)) (nM : Hid (∀ w, Calls Try.prog 30 #[arrV .i64 Z2, .int .i64 (x2 : Int)] w fun e w' => e = .returned (.tuple #[.int .i64 y, .bool true]) ∧ w.grownBy w' none)) (nL : Hid (∀ w, Calls Try.prog 30 #[arrV .i64 Z3, .int .i64 (x3 : Int)] w fun e w' => e = .returned (.tuple #[.int .i64 z, .bool true]) ∧ w.grownBy w' none))  (w : World) : Calls Try.prog 15 #[.int .i64 (c : Int)] w fun e w' => e = .returned (.tuple #[.int .i64 x, .int .i64 y, .int .i64 z, .bool true]) ∧ w.grownBy w' none := by
  have f0 : decide ((c : Int) < 32768) = false := decide_eq_false (by omega)
  have f1 : decide (65535 < (c : Int)) = false := decide_eq_false (by omega)
  have a1 : bits .and .i64 (q1 : Int) 31 = (x1 : Int) := by rw [and31 q1 (by omega), m1]
  have a2 : bits .and .i64 (q2 : Int) 31 = (x2 : Int) := by rw [and31 q2 (by omega), m2]
  have a3 : bits .and .i64 (c : Int) 31 = (x3 : Int) := by rw [and31 c (by omega), m3]
  go_enter Try.func15, Try.ntmps15
  go_upto_region 4 with (first
    | (go_at_call 24; refine (aF.out _).mono ?_; rintro e w1 ⟨rfl, hg1⟩)
    | (go_at_call 30; refine (nF.out _).mono ?_; rintro e w2 ⟨rfl, hg2⟩))
  go_upto_region 5 with (first
    | (go_at_call 26; refine (aM.out _).mono ?_; rintro e w3 ⟨rfl, hg3⟩)
    | (go_at_call 30; refine (nM.out _).mono ?_; rintro e w4 ⟨rfl, hg4⟩))
  go_upto_region 6 with (first
    | (go_at_call 27; refine (aL.out _).mono ?_; rintro e w5 ⟨rfl, hg5⟩)
    | (go_at_call 30; refine (nL.out _).mono ?_; rintro e w6 ⟨rfl, hg6⟩))
  go_wp2
  exact bodyPost_ret (v := .tuple #[.int .i64 x, .int .i64 y, .int .i64 z, .bool true]) (by simp [results, Try.results15, go_sem]) rfl ⟨rfl, (gt (gt (gt (gt (gt hg1 hg2) hg3) hg4) hg5) hg6)⟩
set_option maxRecDepth 100000 in
set_option maxHeartbeats 1000000 in
theorem uk_na (Z1 Z2 Z3 : List Int) (c q1 q2 x1 x2 x3 : Nat) (h1 : 32768 ≤ c) (h2 : c ≤ 65535) (e1 : (c : Int) / 1024 = (q1 : Int)) (e2 : (c : Int) / 32 = (q2 : Int)) (m1 : q1 % 32 = x1) (m2 : q2 % 32 = x2) (m3 : c % 32 = x3) (x y z : Int) (b d : Bool) (aF : Hid (∀ w, Calls Try.prog 24 #[] w fun e w' => e = .returned (arrV .i64 Z1) ∧ w.grownBy w' none)) (aM : Hid (∀ w, Calls Try.prog 26 #[] w fun e w' => e = .returned (arrV .i64 Z2) ∧ w.grownBy w' none)) (aL : Hid (∀ w, Calls Try.prog 27 #[] w fun e w' => e = .returned (arrV .i64 Z3) ∧ w.grownBy w' none)) (nF : Hid (∀ w, Calls Try.prog 30 #[arrV .i64 Z1, .int .i64 (x1 : Int)] w fun e w' => e = .returned (.tuple #[.int .i64 x, .bool false]) ∧ w.grownBy w' none)) (nM : Hid (∀ w, Calls Try.prog 30 #[arrV .i64 Z2, .int .i64 (x2 : Int)] w fun e w' => e = .returned (.tuple #[.int .i64 y, .bool b]) ∧ w.grownBy w' none)) (nL : Hid (∀ w, Calls Try.prog 30 #[arrV .i64 Z3, .int .i64 (x3 : Int)] w fun e w' => e = .returned (.tuple #[.int .i64 z, .bool d]) ∧ w.grownBy w' none))  (w : World) : Calls Try.prog 15 #[.int .i64 (c : Int)] w fun e w' => e = .returned (.tuple #[.int .i64 0, .int .i64 0, .int .i64 0, .bool false]) ∧ w.grownBy w' none := by
  have f0 : decide ((c : Int) < 32768) = false := decide_eq_false (by omega)
  have f1 : decide (65535 < (c : Int)) = false := decide_eq_false (by omega)
  have a1 : bits .and .i64 (q1 : Int) 31 = (x1 : Int) := by rw [and31 q1 (by omega), m1]
  have a2 : bits .and .i64 (q2 : Int) 31 = (x2 : Int) := by rw [and31 q2 (by omega), m2]
  have a3 : bits .and .i64 (c : Int) 31 = (x3 : Int) := by rw [and31 c (by omega), m3]
  go_enter Try.func15, Try.ntmps15
  go_upto_region 4 with (first
    | (go_at_call 24; refine (aF.out _).mono ?_; rintro e w1 ⟨rfl, hg1⟩)
    | (go_at_call 30; refine (nF.out _).mono ?_; rintro e w2 ⟨rfl, hg2⟩))
  go_upto_region 5 with (first
    | (go_at_call 26; refine (aM.out _).mono ?_; rintro e w3 ⟨rfl, hg3⟩)
    | (go_at_call 30; refine (nM.out _).mono ?_; rintro e w4 ⟨rfl, hg4⟩))
  go_upto_region 6 with (first
    | (go_at_call 27; refine (aL.out _).mono ?_; rintro e w5 ⟨rfl, hg5⟩)
    | (go_at_call 30; refine (nL.out _).mono ?_; rintro e w6 ⟨rfl, hg6⟩))
  go_wp2
  exact bodyPost_ret (v := .tuple #[.int .i64 0, .int .i64 0, .int .i64 0, .bool false]) (by simp [results, Try.results15, go_sem]) rfl ⟨rfl, (gt (gt (gt (gt (gt hg1 hg2) hg3) hg4) hg5) hg6)⟩
set_option maxRecDepth 100000 in
set_option maxHeartbeats 1000000 in
theorem uk_nb (Z1 Z2 Z3 : List Int) (c q1 q2 x1 x2 x3 : Nat) (h1 : 32768 ≤ c) (h2 : c ≤ 65535) (e1 : (c : Int) / 1024 = (q1 : Int)) (e2 : (c : Int) / 32 = (q2 : Int)) (m1 : q1 % 32 = x1) (m2 : q2 % 32 = x2) (m3 : c % 32 = x3) (x y z : Int) (d : Bool) (aF : Hid (∀ w, Calls Try.prog 24 #[] w fun e w' => e = .returned (arrV .i64 Z1) ∧ w.grownBy w' none)) (aM : Hid (∀ w, Calls Try.prog 26 #[] w fun e w' => e = .returned (arrV .i64 Z2) ∧ w.grownBy w' none)) (aL : Hid (∀ w, Calls Try.prog 27 #[] w fun e w' => e = .returned (arrV .i64 Z3) ∧ w.grownBy w' none)) (nF : Hid (∀ w, Calls Try.prog 30 #[arrV .i64 Z1, .int .i64 (x1 : Int)] w fun e w' => e = .returned (.tuple #[.int .i64 x, .bool true]) ∧ w.grownBy w' none)) (nM : Hid (∀ w, Calls Try.prog 30 #[arrV .i64 Z2, .int .i64 (x2 : Int)] w fun e w' => e = .returned (.tuple #[.int .i64 y, .bool false]) ∧ w.grownBy w' none)) (nL : Hid (∀ w, Calls Try.prog 30 #[arrV .i64 Z3, .int .i64 (x3 : Int)] w fun e w' => e = .returned (.tuple #[.int .i64 z, .bool d]) ∧ w.grownBy w' none))  (w : World) : Calls Try.prog 15 #[.int .i64 (c : Int)] w fun e w' => e = .returned (.tuple #[.int .i64 0, .int .i64 0, .int .i64 0, .bool false]) ∧ w.grownBy w' none := by
  have f0 : decide ((c : Int) < 32768) = false := decide_eq_false (by omega)
  have f1 : decide (65535 < (c : Int)) = false := decide_eq_false (by omega)
  have a1 : bits .and .i64 (q1 : Int) 31 = (x1 : Int) := by rw [and31 q1 (by omega), m1]
  have a2 : bits .and .i64 (q2 : Int) 31 = (x2 : Int) := by rw [and31 q2 (by omega), m2]
  have a3 : bits .and .i64 (c : Int) 31 = (x3 : Int) := by rw [and31 c (by omega), m3]
  go_enter Try.func15, Try.ntmps15
  go_upto_region 4 with (first
    | (go_at_call 24; refine (aF.out _).mono ?_; rintro e w1 ⟨rfl, hg1⟩)
    | (go_at_call 30; refine (nF.out _).mono ?_; rintro e w2 ⟨rfl, hg2⟩))
  go_upto_region 5 with (first
    | (go_at_call 26; refine (aM.out _).mono ?_; rintro e w3 ⟨rfl, hg3⟩)
    | (go_at_call 30; refine (nM.out _).mono ?_; rintro e w4 ⟨rfl, hg4⟩))
  go_upto_region 6 with (first
    | (go_at_call 27; refine (aL.out _).mono ?_; rintro e w5 ⟨rfl, hg5⟩)
    | (go_at_call 30; refine (nL.out _).mono ?_; rintro e w6 ⟨rfl, hg6⟩))
  go_wp2
  exact bodyPost_ret (v := .tuple #[.int .i64 0, .int .i64 0, .int .i64 0, .bool false]) (by simp [results, Try.results15, go_sem]) rfl ⟨rfl, (gt (gt (gt (gt (gt hg1 hg2) hg3) hg4) hg5) hg6)⟩
set_option maxRecDepth 100000 in
set_option maxHeartbeats 1000000 in
theorem uk_nc (Z1 Z2 Z3 : List Int) (c q1 q2 x1 x2 x3 : Nat) (h1 : 32768 ≤ c) (h2 : c ≤ 65535) (e1 : (c : Int) / 1024 = (q1 : Int)) (e2 : (c : Int) / 32 = (q2 : Int)) (m1 : q1 % 32 = x1) (m2 : q2 % 32 = x2) (m3 : c % 32 = x3) (x y z : Int) (aF : Hid (∀ w, Calls Try.prog 24 #[] w fun e w' => e = .returned (arrV .i64 Z1) ∧ w.grownBy w' none)) (aM : Hid (∀ w, Calls Try.prog 26 #[] w fun e w' => e = .returned (arrV .i64 Z2) ∧ w.grownBy w' none)) (aL : Hid (∀ w, Calls Try.prog 27 #[] w fun e w' => e = .returned (arrV .i64 Z3) ∧ w.grownBy w' none)) (nF : Hid (∀ w, Calls Try.prog 30 #[arrV .i64 Z1, .int .i64 (x1 : Int)] w fun e w' => e = .returned (.tuple #[.int .i64 x, .bool true]) ∧ w.grownBy w' none)) (nM : Hid (∀ w, Calls Try.prog 30 #[arrV .i64 Z2, .int .i64 (x2 : Int)] w fun e w' => e = .returned (.tuple #[.int .i64 y, .bool true]) ∧ w.grownBy w' none)) (nL : Hid (∀ w, Calls Try.prog 30 #[arrV .i64 Z3, .int .i64 (x3 : Int)] w fun e w' => e = .returned (.tuple #[.int .i64 z, .bool false]) ∧ w.grownBy w' none))  (w : World) : Calls Try.prog 15 #[.int .i64 (c : Int)] w fun e w' => e = .returned (.tuple #[.int .i64 0, .int .i64 0, .int .i64 0, .bool false]) ∧ w.grownBy w' none := by
  have f0 : decide ((c : Int) < 32768) = false := decide_eq_false (by omega)
  have f1 : decide (65535 < (c : Int)) = false := decide_eq_false (by omega)
  have a1 : bits .and .i64 (q1 : Int) 31 = (x1 : Int) := by rw [and31 q1 (by omega), m1]
  have a2 : bits .and .i64 (q2 : Int) 31 = (x2 : Int) := by rw [and31 q2 (by omega), m2]
  have a3 : bits .and .i64 (c : Int) 31 = (x3 : Int) := by rw [and31 c (by omega), m3]
  go_enter Try.func15, Try.ntmps15
  go_upto_region 4 with (first
    | (go_at_call 24; refine (aF.out _).mono ?_; rintro e w1 ⟨rfl, hg1⟩)
    | (go_at_call 30; refine (nF.out _).mono ?_; rintro e w2 ⟨rfl, hg2⟩))
  go_upto_region 5 with (first
    | (go_at_call 26; refine (aM.out _).mono ?_; rintro e w3 ⟨rfl, hg3⟩)
    | (go_at_call 30; refine (nM.out _).mono ?_; rintro e w4 ⟨rfl, hg4⟩))
  go_upto_region 6 with (first
    | (go_at_call 27; refine (aL.out _).mono ?_; rintro e w5 ⟨rfl, hg5⟩)
    | (go_at_call 30; refine (nL.out _).mono ?_; rintro e w6 ⟨rfl, hg6⟩))
  go_wp2
  exact bodyPost_ret (v := .tuple #[.int .i64 0, .int .i64 0, .int .i64 0, .bool false]) (by simp [results, Try.results15, go_sem]) rfl ⟨rfl, (gt (gt (gt (gt (gt hg1 hg2) hg3) hg4) hg5) hg6)⟩
theorem pUnpack (c : Int) (x y z : Int) (ok : Bool) (hU : Hid (upT c = (x, y, z, ok))) (w : World) : Calls Try.prog 15 #[.int .i64 c] w fun e w' => e = .returned (.tuple #[.int .i64 x, .int .i64 y, .int .i64 z, .bool ok]) ∧ w.grownBy w' none := by
  have h := hU.out
  unfold upT at h
  by_cases hc : 32768 ≤ c ∧ c ≤ 65535
  · rw [if_pos hc] at h
    obtain ⟨n, rfl⟩ : ∃ n : Nat, c = (n : Int) := ⟨c.toNat, by omega⟩
    obtain ⟨k, hk⟩ : ∃ k, ((n : Int) - 32768).toNat = k := ⟨_, rfl⟩
    rw [hk] at h
    have j1 : n / 1024 % 32 = k / 1024 := by omega
    have j2 : k / 32 % 32 = n / 32 % 32 := by omega
    have j3 : k % 32 = n % 32 := by omega
    have eB : upB k = plc mids (n / 32 % 32) := by unfold upB; rw [j2]
    have eL : upL k = plc lsts (n % 32) := by unfold upL; rw [j3]
    have p1 := pt_F (n / 1024 % 32) (by omega)
    have p2 := pt_plc mids (n / 32 % 32)
    have p3 := pt_plc lsts (n % 32)
    have g2 := pl_md (n / 32 % 32) (by omega)
    have g3 := pl_ls (n % 32) (by omega)
    rw [← eB] at p2 g2
    rw [← eL] at p3 g3
    have hA : upA k = ((n / 1024 % 32 : Nat) : Int) - 2 := by unfold upA; rw [j1]
    have W : ∀ a b d u v s, ptT firs (n / 1024 % 32) = (u, a) → ptT mids (n / 32 % 32) = (v, b) → ptT lsts (n % 32) = (s, d) → (upT (n : Int) = if a = true ∧ b = true ∧ d = true then (u, v, s, true) else (0, 0, 0, false)) → Calls Try.prog 15 #[.int .i64 (n : Int)] w fun e w' => e = .returned (.tuple #[.int .i64 x, .int .i64 y, .int .i64 z, .bool ok]) ∧ w.grownBy w' none := by
      intro a b d u v s t1 t2 t3 t4
      rw [hU.out] at t4
      have B1 : n / 1024 % 32 < 32 := by omega
      have B2 : n / 32 % 32 < 32 := by omega
      have B3 : n % 32 < 32 := by omega
      cases a with
      | false =>
        simp only [Bool.false_eq_true, false_and, if_false, Prod.mk.injEq] at t4
        obtain ⟨rfl, rfl, rfl, rfl⟩ := t4
        exact uk_na _ _ _ n (n / 1024) (n / 32) _ _ _ (by omega) (by omega) (by omega) (by omega) rfl rfl rfl u v s b d (Hid.mk' (fun w => arrF w)) (Hid.mk' (fun w => arrM w)) (Hid.mk' (fun w => arrL w)) (Hid.mk' (fun w => part_F _ B1 _ _ (Hid.mk' t1) w)) (Hid.mk' (fun w => part_M _ B2 _ _ (Hid.mk' t2) w)) (Hid.mk' (fun w => part_L _ B3 _ _ (Hid.mk' t3) w)) w
      | true =>
        cases b with
        | false =>
          simp only [Bool.false_eq_true, false_and, and_false, if_false, Prod.mk.injEq] at t4
          obtain ⟨rfl, rfl, rfl, rfl⟩ := t4
          exact uk_nb _ _ _ n (n / 1024) (n / 32) _ _ _ (by omega) (by omega) (by omega) (by omega) rfl rfl rfl u v s d (Hid.mk' (fun w => arrF w)) (Hid.mk' (fun w => arrM w)) (Hid.mk' (fun w => arrL w)) (Hid.mk' (fun w => part_F _ B1 _ _ (Hid.mk' t1) w)) (Hid.mk' (fun w => part_M _ B2 _ _ (Hid.mk' t2) w)) (Hid.mk' (fun w => part_L _ B3 _ _ (Hid.mk' t3) w)) w
        | true =>
          cases d with
          | false =>
            simp only [Bool.false_eq_true, and_false, if_false, Prod.mk.injEq] at t4
            obtain ⟨rfl, rfl, rfl, rfl⟩ := t4
            exact uk_nc _ _ _ n (n / 1024) (n / 32) _ _ _ (by omega) (by omega) (by omega) (by omega) rfl rfl rfl u v s (Hid.mk' (fun w => arrF w)) (Hid.mk' (fun w => arrM w)) (Hid.mk' (fun w => arrL w)) (Hid.mk' (fun w => part_F _ B1 _ _ (Hid.mk' t1) w)) (Hid.mk' (fun w => part_M _ B2 _ _ (Hid.mk' t2) w)) (Hid.mk' (fun w => part_L _ B3 _ _ (Hid.mk' t3) w)) w
          | true =>
            simp only [and_self, if_true, Prod.mk.injEq] at t4
            obtain ⟨rfl, rfl, rfl, rfl⟩ := t4
            exact uk_yes _ _ _ n (n / 1024) (n / 32) _ _ _ (by omega) (by omega) (by omega) (by omega) rfl rfl rfl x y z (Hid.mk' (fun w => arrF w)) (Hid.mk' (fun w => arrM w)) (Hid.mk' (fun w => arrL w)) (Hid.mk' (fun w => part_F _ B1 _ _ (Hid.mk' t1) w)) (Hid.mk' (fun w => part_M _ B2 _ _ (Hid.mk' t2) w)) (Hid.mk' (fun w => part_L _ B3 _ _ (Hid.mk' t3) w)) w
    refine W (ptT firs (n / 1024 % 32)).2 (ptT mids (n / 32 % 32)).2 (ptT lsts (n % 32)).2 (ptT firs (n / 1024 % 32)).1 (ptT mids (n / 32 % 32)).1 (ptT lsts (n % 32)).1 rfl rfl rfl ?_
    rw [p1, p2, p3]
    have E : upT (n : Int) = if C16.In3 (upA k) (upB k) (upL k) then (upA k, upB k, upL k, true) else (0, 0, 0, false) := by
      unfold upT
      rw [if_pos hc, hk]
    rw [E]
    unfold C16.In3
    by_cases c1 : 2 ≤ n / 1024 % 32 ∧ n / 1024 % 32 ≤ 20
    · by_cases c2 : 0 ≤ upB k
      · by_cases c3 : 0 ≤ upL k
        · have g4 := (g2 c2).2
          have g5 := (g3 c3).2
          rw [if_pos c1, if_pos c2, if_pos c3, if_pos (by omega), if_pos (by simp), hA]
        · rw [if_pos c1, if_pos c2, if_neg c3, if_neg (by omega), if_neg (by simp)]
      · rw [if_pos c1, if_neg c2, if_neg (by omega), if_neg (by simp)]
    · rw [if_neg c1, if_neg (by omega), if_neg (by simp)]
  · rw [if_neg hc] at h
    simp only [Prod.mk.injEq] at h
    obtain ⟨rfl, rfl, rfl, rfl⟩ := h
    by_cases h1 : c < 32768
    · exact uk_lo c h1 w
    · exact uk_hi c (by omega) w
end Go.Proofs.Ytdphkpjamclhjaa.C19

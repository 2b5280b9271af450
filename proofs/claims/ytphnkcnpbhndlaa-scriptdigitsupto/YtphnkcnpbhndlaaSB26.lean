/- The document's Bytes: a walk. -/
import Derived.Test.YtphnkcnpbhndlaaSH26
import Derived.Test.YtphnkcnpbhndlaaRegion
import Derived.Test.YtphnkcnpbhndlaaBlk
import Derived.Test.YtphnkcnpbhndlaaSx
import Derived.Deep.RegionHeld3
import Derived.BigQuiet
import Derived.Deep.Cut
namespace Go.Proofs.Ytphnkcnpbhndlaa.C26
open Go.ChangeShapes Go.WideShapes Go.ChangeAt Go.RowKit Go.Proofs.Ytphnkcnpbhndlaa.Mem Go.Proofs.Ytphnkcnpbhndlaa.Sx
set_option linter.unusedVariables false
set_option linter.unusedSimpArgs false

theorem index_str {r : ByteArray} {i : Nat} {c : UInt8} (h : r[i]? = some c) (w : World) : (Instr.index 9 (.string r) (.int .i64 (i : Int))).run Try.prog w = .ok (.int .u8 (c.toNat : Int)) w := by
  simp [Instr.index, run_underlying Try.underlying9, asIntOf, h]
theorem byte_new (w : World) {v : Nat} (h : v < 256) : Bytes (w.alloc (.cells #[.int .u8 (v : Int)] 5)) (some ⟨w.heap.size, 0, none⟩) [b8 v] := by
  refine .inr ⟨_, rfl, fun j hj => ?_⟩
  have hj2 : j < 1 := hj
  obtain rfl : j = 0 := by omega
  rw [addr_add]
  refine cell_at (heap_alloc_new w _) 0 ?_
  simp [b8_toNat h]
theorem src_byte (w : World) {v : Nat} (h : v < 256) : Src Try.prog 1 22 (.slice (some ⟨w.heap.size, 0, none⟩) 1 1) [b8 v].length (bcells [b8 v]) ((w.alloc (.cells #[.int .u8 (v : Int)] 5)).drew) :=
  src_of (byte_new w h).drew 22 1 Try.underlying22
theorem own_nil (w : World) : Own w none 0 [] := .inl ⟨rfl, rfl, rfl⟩
set_option maxRecDepth 100000 in
set_option maxHeartbeats 1000000 in
theorem bytesRef_any (S : List UInt8) (s : ByteArray) (hs : Hid (str S = s)) (w : World) (hm : S.length ≤ 70368744177665) (R : Option (List UInt8)) (hR : Hid (byT S = R)) :
    Calls Try.prog 7 #[.string s] w fun e w' => ∃ ao cap, e = .returned (.tuple #[.slice ao (R.getD []).length cap, .bool R.isSome]) ∧ Own w' ao cap (R.getD []) ∧ w.grownBy w' none := by
  obtain ⟨i5, hi5, hz5, hs5, hb5⟩ := info_parts info5
  by_cases h1 : S = [45]
  · subst h1
    obtain rfl : s = ⟨#[45]⟩ := hs.out.symm
    obtain rfl : R = some [] := hR.out.symm
    go_enter Try.func7, Try.ntmps7
    go_wp2
    go_ret2
    exact ⟨none, 0, rfl, own_nil _, grownBy_refl _ _⟩
  by_cases h2 : S = []
  · subst h2
    obtain rfl : s = ⟨#[]⟩ := hs.out.symm
    obtain rfl : R = none := hR.out.symm
    go_enter Try.func7, Try.ntmps7
    go_wp2
    go_ret2
    exact ⟨none, 0, rfl, own_nil _, grownBy_refl _ _⟩
  have qs : s.toList = S := by rw [← hs.out]; exact str_toList S
  have q1 : (s.toList == [45]) = false := by rw [qs]; simpa using h1
  have q2 : s.toList.isEmpty = false := by rw [qs]; simpa using h2
  clear qs
  obtain ⟨len, hlen⟩ : ∃ n, S.length = n := ⟨_, rfl⟩
  have hsz : s.size = len := by rw [← hs.out, str_size]; exact hlen
  have hl0 := Hid.mk' hlen
  have hm' : len ≤ 70368744177665 := by omega
  by_cases h3 : len % 2 = 0
  · have q3 : (len : Int).tmod 2 = 0 := by rw [Int.tmod_eq_emod_of_nonneg (by omega)]; omega
    have hR2 : Hid (rd S = R) := Hid.mk' (by rw [← hR.out]; unfold byT; rw [if_neg h1, if_neg]; intro h; rcases h with h | h; exact h2 h; rw [hl0.out] at h; exact h h3)
    have h30 := Hid.mk' h3
    clear hR h1 h2 h3 hlen hm
    go_enter Try.func7, Try.ntmps7
    go_wp2
    clear q1 q2 q3
    go_loopw [4, 5] (fun t4 t5 wx => ∃ (i rc : Nat) (ro : Option Addr) (D : List UInt8), i ≤ len ∧ t5 = .int .i64 (i : Int) ∧ t4 = .slice ro D.length rc ∧ D.length ≤ i ∧ Hid (i % 2 = 0) ∧ Hid (rd S = (rd (S.drop i)).map (D ++ ·)) ∧ Hid (Own wx ro rc D) ∧ Hid (∀ g, blk ro = some g → w.heap.size ≤ g) ∧ Hid (w.grownBy wx none)) (fun _ t5 _ => len - (intOf t5).toNat)
    case atStart => exact ⟨0, 0, none, [], by omega, rfl, rfl, by simp, Hid.mk' rfl, Hid.mk' (by simp), Hid.mk' (.inl ⟨rfl, rfl, rfl⟩), Hid.mk' (by intro g e; cases e), Hid.mk' (grownBy_refl _ _)⟩
    case round =>
      obtain ⟨i, rc, ro, D, hi, rfl, rfl, hDl, hi2, hD, hO, hbl, hG⟩ := hrel
      by_cases hlt : i < len
      · have hlt' : (i : Int) < (len : Int) := by omega
        have hodd : i + 1 < len := by have := hi2.out; have := h30.out; omega
        have hi1 : i + 1 < S.length := by rw [hl0.out]; exact hodd
        have hrr := rd_round hi1 hD.out
        obtain ⟨c, hc⟩ : ∃ c, S[i]'(by omega) = c := ⟨_, rfl⟩
        obtain ⟨d, hd⟩ : ∃ d, S[i + 1]'hi1 = d := ⟨_, rfl⟩
        rw [hc, hd] at hrr
        have g0 : s[i]? = some c := by rw [← hs.out]; exact str_at (by rw [List.getElem?_eq_getElem (by omega), hc])
        have g1 : s[i + 1]? = some d := by rw [← hs.out]; exact str_at (by rw [List.getElem?_eq_getElem hi1, hd])
        have i0 := index_str (r := s) (i := i) g0
        have i1 := index_str (r := s) (i := i + 1) g1
        simp only [Int.natCast_add, Int.natCast_one, Int.cast_ofNat_Int] at i1
        obtain ⟨x, hx⟩ : ∃ x, Hid (vl c.toNat = x) := ⟨_, Hid.mk' rfl⟩
        obtain ⟨y, hy⟩ : ∃ y, Hid (vl d.toNat = y) := ⟨_, Hid.mk' rfl⟩
        have k0 := Hid.mk' (fun w => digit_any c.toNat c.toNat_lt x hx w)
        have k1 := Hid.mk' (fun w => digit_any d.toNat d.toNat_lt y hy w)
        have x1 : x ≤ 15 := by rw [← hx.out]; exact vl_le _
        have x2 : -1 ≤ x := by rw [← hx.out]; exact vl_ge _
        have y1 : y ≤ 15 := by rw [← hy.out]; exact vl_le _
        have y2 : -1 ≤ y := by rw [← hy.out]; exact vl_ge _
        rw [hx.out, hy.out] at hrr
        have hrr0 := Hid.mk' hrr
        have e1 : IntKind.i64.wrap ((i : Int) + 1) = (i : Int) + 1 := by rw [IntKind.wrap_i64]; omega
        have e2 : (0 : Int) ≤ (i : Int) := by omega
        clear hrr hc hd g0 g1 hi1
        go_wp2
        refine wp_region_held_drew (S := fun _ => True) (by kernel_rfl) trivial (fun hHeld => ?_)
        refine wpAnyH_take (i := 0) (v := ?_) rfl (by kernel_rfl) (by kernel_rfl) (by kernel_rfl) (fun _ _ _ h => h) (Or.inl ⟨by rfl, ?_⟩) (by assumption) ?_; rotate_left
        · (intro w hSw; (try dsimp only at hSw); go_simp; try with_reducible rfl)
        try simp only [List.getElem_toArray, List.getElem_cons_zero, Act.put, List.setIfInBounds_toArray, List.set_cons_zero, List.set_cons_succ]
        refine wpAnyH_take (i := 1) (v := ?_) rfl (by kernel_rfl) (by kernel_rfl) (by kernel_rfl) (fun _ _ _ h => h) (Or.inl ⟨by rfl, ?_⟩) (by assumption) ?_; rotate_left
        · (intro w hSw; (try dsimp only at hSw); go_simp; try with_reducible rfl)
        try simp only [List.getElem_toArray, List.getElem_cons_zero, List.getElem_cons_succ, Act.put, List.setIfInBounds_toArray, List.set_cons_zero, List.set_cons_succ]
        refine wpAnyH_take (i := 2) (v := ?_) rfl (by kernel_rfl) (by kernel_rfl) (by kernel_rfl) (fun _ _ _ h => h) (Or.inl ⟨by rfl, ?_⟩) (by assumption) ?_; rotate_left
        · (intro w hSw; (try dsimp only at hSw); go_simp; try with_reducible rfl)
        try simp only [List.getElem_toArray, List.getElem_cons_zero, List.getElem_cons_succ, Act.put, List.setIfInBounds_toArray, List.set_cons_zero, List.set_cons_succ]
        refine wpAnyH_take (i := 4) (v := ?_) rfl (by kernel_rfl) (by kernel_rfl) (by kernel_rfl) (fun _ _ _ h => h) (Or.inl ⟨by rfl, ?_⟩) (by assumption) ?_; rotate_left
        · (intro w hSw; (try dsimp only at hSw); go_simp; try with_reducible rfl)
        try simp only [List.getElem_toArray, List.getElem_cons_zero, List.getElem_cons_succ, Act.put, List.setIfInBounds_toArray, List.set_cons_zero, List.set_cons_succ]
        refine wpAnyH_take (i := 5) (v := ?_) rfl (by kernel_rfl) (by kernel_rfl) (by kernel_rfl) (fun _ _ _ h => h) (Or.inl ⟨by rfl, ?_⟩) (by assumption) ?_; rotate_left
        · (intro w hSw; (try dsimp only at hSw); go_simp; try with_reducible rfl)
        try simp only [List.getElem_toArray, List.getElem_cons_zero, List.getElem_cons_succ, Act.put, List.setIfInBounds_toArray, List.set_cons_zero, List.set_cons_succ]
        refine wpAnyH_take (i := 6) (v := ?_) rfl (by kernel_rfl) (by kernel_rfl) (by kernel_rfl) (fun _ _ _ h => h) (Or.inl ⟨by rfl, ?_⟩) (by assumption) ?_; rotate_left
        · (intro w hSw; (try dsimp only at hSw); go_simp; try with_reducible rfl)
        try simp only [List.getElem_toArray, List.getElem_cons_zero, List.getElem_cons_succ, Act.put, List.setIfInBounds_toArray, List.set_cons_zero, List.set_cons_succ]
        refine wpAnyH_take (i := 7) (v := ?_) rfl (by kernel_rfl) (by kernel_rfl) (by kernel_rfl) (fun _ _ _ h => h) (Or.inl ⟨by rfl, ?_⟩) (by assumption) ?_; rotate_left
        · (intro w hSw; (try dsimp only at hSw); go_simp; try with_reducible rfl)
        try simp only [List.getElem_toArray, List.getElem_cons_zero, List.getElem_cons_succ, Act.put, List.setIfInBounds_toArray, List.set_cons_zero, List.set_cons_succ]
        refine wpAnyH_ready (rs := [3]) (by kernel_rfl) (by simp) ?_
        refine AllReadyH.cons rfl (fun K hK => ?_) AllReadyH.nil
        go_simp
        refine (k0.out _).mono ?_; rintro e w' ⟨rfl, hw⟩; subst w'; try dsimp only
        refine hK.out _ _ trivial (fun hHeld => ?_)
        clear hK K
        try simp only [List.getElem_toArray, List.getElem_cons_zero, List.getElem_cons_succ, Act.put, List.setIfInBounds_toArray, List.set_cons_zero, List.set_cons_succ]
        refine wpAnyH_ready (rs := [8]) (by kernel_rfl) (by simp) ?_
        refine AllReadyH.cons rfl (fun K hK => ?_) AllReadyH.nil
        go_simp
        refine (k1.out _).mono ?_; rintro e w' ⟨rfl, hw⟩; subst w'; try dsimp only
        refine hK.out _ _ trivial (fun hHeld => ?_)
        clear hK K
        try simp only [List.getElem_toArray, List.getElem_cons_zero, List.getElem_cons_succ, Act.put, List.setIfInBounds_toArray, List.set_cons_zero, List.set_cons_succ]
        refine wpAnyH_take (i := 9) (v := ?_) rfl (by kernel_rfl) (by kernel_rfl) (by kernel_rfl) (fun _ _ _ h => h) (Or.inl ⟨by rfl, ?_⟩) (by assumption) ?_; rotate_left
        · (intro w hSw; (try dsimp only at hSw); go_simp; try with_reducible rfl)
        try simp only [List.getElem_toArray, List.getElem_cons_zero, List.getElem_cons_succ, Act.put, List.setIfInBounds_toArray, List.set_cons_zero, List.set_cons_succ]
        refine wpAnyH_take (i := 10) (v := ?_) rfl (by kernel_rfl) (by kernel_rfl) (by kernel_rfl) (fun _ _ _ h => h) (Or.inl ⟨by rfl, ?_⟩) (by assumption) ?_; rotate_left
        · (intro w hSw; (try dsimp only at hSw); go_simp; try with_reducible rfl)
        try simp only [List.getElem_toArray, List.getElem_cons_zero, List.getElem_cons_succ, Act.put, List.setIfInBounds_toArray, List.set_cons_zero, List.set_cons_succ]
        refine wpAnyH_done (by kernel_rfl) ?_ _
        have hDl0 := Hid.mk' hDl
        clear hDl
        by_cases hxy : x < 0 ∨ y < 0
        · have hn : R = none := by rw [← hR2.out]; exact hrr0.out.1 hxy
          subst hn
          by_cases hx0 : x < 0
          · go_wp2
            go_ret2
            exact ⟨none, 0, rfl, own_nil _, gd hG.out⟩
          · have hy0 : y < 0 := by omega
            go_wp2
            go_ret2
            exact ⟨none, 0, rfl, own_nil _, gd hG.out⟩
        · have hx0 : ¬ x < 0 := by omega
          have hy0 : ¬ y < 0 := by omega
          obtain ⟨v, hv⟩ : ∃ v : Nat, 16 * x + y = (v : Int) := ⟨(16 * x + y).toNat, by omega⟩
          have hv2 : v < 256 := by omega
          have hz : IntKind.u8.wrap (v : Int) = (v : Int) := by rw [IntKind.wrap_u8]; omega
          have hz2 : IntKind.i64.wrap (16 * x) = 16 * x := by rw [IntKind.wrap_i64]; omega
          have hrr1 := hrr0.out.2 hxy
          rw [hv, Int.toNat_natCast] at hrr1
          obtain ⟨F, hF⟩ : ∃ F, Hid (D ++ [b8 v] = F) := ⟨_, Hid.mk' rfl⟩
          rw [hF.out] at hrr1
          have hrr2 := Hid.mk' hrr1
          have hFl : Hid (F.length ≤ i + 2) := Hid.mk' (by rw [← hF.out]; have := hDl0.out; simp; omega)
          have hDm : Hid (D.length + 1 ≤ 140737488355328) := Hid.mk' (by have := hDl0.out; omega)
          clear hrr1 hrr0 hxy
          go_wp2_with (at_builtin; refine wpList_append_any _ rfl _ _ 22 22 rfl i5 Try.underlying22 hi5 hz5 hs5 hb5 ro rc D rfl (by exact (hO.out.alloc _).drew) _ rfl [b8 v] (src_byte wr hv2) hDm.out F hF.out ?_; intro ro' rc' w1 ho hg hat)
          go_roundw
          case rel => exact ⟨i + 2, rc', ro', F, by omega, by go_num, rfl, hFl.out, Hid.mk' (by have := hi2.out; omega), hrr2, Hid.mk' ho, Hid.mk' (by rcases hat with rfl | rfl; exact hbl.out; intro b hb; simp [blk] at hb; have := hG.out.size; omega), Hid.mk' (grownBy_new (gt hG.out (gd (ga (grownBy_refl _ _)))) hg hbl.out)⟩
          case measure => simp [intOf]; omega
      · obtain rfl : i = len := by omega
        obtain rfl : R = some D := by rw [← hR2.out]; exact rd_end (by rw [hl0.out]; exact Nat.le_refl _) hD.out
        go_wp2
        go_ret2
        exact ⟨ro, rc, rfl, hO.out, hG.out⟩
  · have q3 : (len : Int).tmod 2 = 1 := by rw [Int.tmod_eq_emod_of_nonneg (by omega)]; omega
    obtain rfl : R = none := by rw [← hR.out]; unfold byT; rw [if_neg h1, if_pos (.inr (by rw [hl0.out]; exact h3))]
    clear hR h1 h2 h3 hlen hm
    go_enter Try.func7, Try.ntmps7
    go_wp2
    go_ret2
    exact ⟨none, 0, rfl, own_nil _, grownBy_refl _ _⟩
end Go.Proofs.Ytphnkcnpbhndlaa.C26

/- The document's Hex: a walk. -/
import Derived.Test.YtphnkcnpbhndlaaSD26
import Derived.Test.YtphnkcnpbhndlaaRegion
import Derived.Test.YtphnkcnpbhndlaaBlk
import Derived.Test.YtphnkcnpbhndlaaSx
import Derived.Deep.RegionHeld3
import Derived.BigQuiet
import Derived.Deep.Cut
namespace Go.Proofs.Ytphnkcnpbhndlaa.C26
open Go.ChangeShapes Go.WideShapes Go.ChangeAt Go.RowKit Go.Proofs.Ytphnkcnpbhndlaa.Mem Go.Proofs.Ytphnkcnpbhndlaa.Sx
set_option linter.unusedVariables false
set_option linter.unusedSimpArgs false

theorem byte_cell {w : World} {ao : Option Addr} {L : List UInt8} (h : Bytes w ao L) {i : Nat} (hi : i < L.length) : ∃ g o, ao = some ⟨g, o, none⟩ ∧ ∀ wx, w.grownBy wx none → wx.cell? ⟨g, o + i, none⟩ = some (.int .u8 (L[i].toNat : Int)) := by
  obtain ⟨g, o, rfl, hc⟩ := h.at (by intro e; rw [e] at hi; simp at hi)
  refine ⟨g, o, rfl, fun wx hg => ?_⟩
  have h1 := hc i hi
  have hlt := World.block_lt_of_cell? w _ h1
  rw [(gcell hg).1 g (o + i) hlt]
  exact h1
theorem two_new (w : World) {c : UInt8} {dx dy : Nat} (hx : dx = dg (c.toNat / 16)) (hy : dy = dg (c.toNat % 16)) (h1 : dx < 256) (h2 : dy < 256) : Bytes (w.alloc (.cells #[.int .u8 (dx : Int), .int .u8 (dy : Int)] 5)) (some ⟨w.heap.size, 0, none⟩) (two c) := by
  subst hx
  subst hy
  refine .inr ⟨_, rfl, fun j hj => ?_⟩
  have hj2 : j < 2 := hj
  rw [addr_add]
  match j, hj2 with
  | 0, _ => refine cell_at (heap_alloc_new w _) 0 ?_; simp [two, b8_toNat h1]
  | 1, _ => refine cell_at (heap_alloc_new w _) 1 ?_; simp [two, b8_toNat h2]
theorem tab_at (n d : Nat) (hd : dg n = d) : ∀ h : n < (⟨#[48, 49, 50, 51, 52, 53, 54, 55, 56, 57, 65, 66, 67, 68, 69, 70]⟩ : ByteArray).size, ((⟨#[48, 49, 50, 51, 52, 53, 54, 55, 56, 57, 65, 66, 67, 68, 69, 70]⟩ : ByteArray)[n]'h).toNat = d := by
  intro h
  subst hd
  have hall : ∀ i : Fin 16, ((⟨#[48, 49, 50, 51, 52, 53, 54, 55, 56, 57, 65, 66, 67, 68, 69, 70]⟩ : ByteArray)[i.val]'i.isLt).toNat = dg i.val := by decide
  exact hall ⟨n, h⟩
set_option maxRecDepth 100000 in
set_option maxHeartbeats 1000000 in
theorem hexRef_any (ao : Option Addr) (cap : Nat) (L : List UInt8) (len : Nat) (hlen : L.length = len) (w : World) (hB : Bytes w ao L) (hm : len ≤ 35184372088832) (T : ByteArray) (hT : Hid (str (hexT L) = T)) :
    Calls Try.prog 5 #[.slice ao len cap] w fun e w' => e = .returned (.string T) ∧ w.grownBy w' none := by
  obtain ⟨i5, hi5, hz5, hs5, hb5⟩ := info_parts info5
  have hB0 := Hid.mk' hB
  have hl0 := Hid.mk' hlen
  clear hB hlen
  by_cases h0 : len = 0
  · subst h0
    have e : T = ⟨#[45]⟩ := by rw [← hT.out]; unfold hexT; rw [if_pos hl0.out]; rfl
    subst e
    go_enter Try.func5, Try.ntmps5
    go_wp2
    go_ret
    exact ⟨rfl, grownBy_refl _ _⟩
  have hT2 : Hid (str (hexL L) = T) := Hid.mk' (by rw [← hT.out]; unfold hexT; rw [if_neg (by rw [hl0.out]; exact h0)])
  clear hT
  have h0' : ((len : Int) == 0) = false := by simp; omega
  go_enter Try.func5, Try.ntmps5
  go_wp2
  go_loopw [3, 4] (fun t3 t4 wx => ∃ (i rc : Nat) (ro : Option Addr) (D : List UInt8), i ≤ len ∧ t4 = .int .i64 (i : Int) ∧ t3 = .slice ro D.length rc ∧ D.length = 2 * i ∧ Hid (D = hexL (L.take i)) ∧ Hid (Own wx ro rc D) ∧ Hid (∀ g, blk ro = some g → w.heap.size ≤ g) ∧ Hid (w.grownBy wx none)) (fun _ t4 _ => len - (intOf t4).toNat)
  case atStart => exact ⟨0, 0, none, [], by omega, rfl, rfl, rfl, Hid.mk' rfl, Hid.mk' (.inl ⟨rfl, rfl, rfl⟩), Hid.mk' (by intro g e; cases e), Hid.mk' (grownBy_refl _ _)⟩
  case round =>
    obtain ⟨i, rc, ro, D, hi, rfl, rfl, hDl, hD, hO, hbl, hG⟩ := hrel
    have hDl0 := Hid.mk' hDl
    clear hDl
    by_cases hlt : i < len
    · have hlt' : (i : Int) < (len : Int) := by omega
      have hiL : i < L.length := by rw [hl0.out]; exact hlt
      have hD2 : Hid (D ++ two L[i] = hexL (L.take (i + 1))) := Hid.mk' (by rw [hD.out]; exact hexL_take hiL)
      obtain ⟨g, o, rfl, hy⟩ := byte_cell hB0.out hiL
      have hcl := L[i].toNat_lt
      obtain ⟨c, hcc⟩ : ∃ c, L[i] = c := ⟨_, rfl⟩
      rw [hcc] at hy hD2 hcl
      clear hcc
      obtain ⟨n, hn⟩ : ∃ n, c.toNat = n := ⟨_, rfl⟩
      rw [hn] at hy hcl
      have hc := Hid.mk' hy
      have x0 := hc.out _ hG.out
      clear hy
      obtain ⟨dx, hdx⟩ : ∃ d, d = dg (c.toNat / 16) := ⟨_, rfl⟩
      obtain ⟨dy, hdy⟩ : ∃ d, d = dg (c.toNat % 16) := ⟨_, rfl⟩
      have hdx2 : dx < 256 := by rw [hdx]; exact dg_lt (by omega)
      have hdy2 : dy < 256 := by rw [hdy]; exact dg_lt (by omega)
      have e1 : (n : Int).tdiv 16 = ((n / 16 : Nat) : Int) := by rw [Int.tdiv_eq_ediv_of_nonneg (by omega)]; omega
      have e2 : (n : Int).tmod 16 = ((n % 16 : Nat) : Int) := by rw [Int.tmod_eq_emod_of_nonneg (by omega)]; omega
      have x1 := tab_at (n / 16) dx (by rw [hdx, hn])
      have x2 := tab_at (n % 16) dy (by rw [hdy, hn])
      have y1 : ((n / 16 : Nat) : Int) < 16 := by omega
      have y2 : ((n % 16 : Nat) : Int) < 16 := by omega
      have z1 : IntKind.u8.wrap ((n / 16 : Nat) : Int) = ((n / 16 : Nat) : Int) := by rw [IntKind.wrap_u8]; omega
      have z2 : IntKind.u8.wrap ((n % 16 : Nat) : Int) = ((n % 16 : Nat) : Int) := by rw [IntKind.wrap_u8]; omega
      have hdx0 := Hid.mk' hdx
      have hdy0 := Hid.mk' hdy
      clear hdx hdy
      generalize n / 16 = nx at *
      generalize n % 16 = ny at *
      have e3 : (0 : Int) ≤ (i : Int) := by omega
      have hDm : D.length ≤ 70368744177664 := by rw [hDl0.out]; omega
      have hn0 := Hid.mk' hn
      obtain ⟨R, hR⟩ : ∃ R, Hid (D ++ two c = R) := ⟨_, Hid.mk' rfl⟩
      have hRl : Hid (R.length = 2 * (i + 1)) := Hid.mk' (by rw [← hR.out]; simp [two, hDl0.out]; omega)
      rw [hR.out] at hD2
      clear hn
      go_wp2
      clear x0
      have hg3n : Hid (∀ w3 : World, ((wr.alloc (.cells #[.int .u8 (dx : Int), .int .u8 (dy : Int)] 5)).drew).grownBy w3 (blk ro) → w.grownBy w3 none) := Hid.mk' (fun w3 h => grownBy_new (gt hG.out (gd (ga (grownBy_refl _ _)))) h hbl.out)
      refine wp_region_held_drew (S := fun w' => w'.cell? ⟨g, o + i, none⟩ = some (.int .u8 (n : Int))) (by kernel_rfl) (hc.out _ (gt hG.out (gd (grownBy_refl _ _)))) (fun hHeld => ?_)
      refine wpAnyH_take (i := 0) (v := ?_) rfl (by kernel_rfl) (by kernel_rfl) (by kernel_rfl) (fun _ _ _ h => h) (Or.inl ⟨by rfl, ?_⟩) (by assumption) ?_; rotate_left
      · (intro w hSw; (try dsimp only at hSw); go_simp; try with_reducible rfl)
      try simp only [List.getElem_toArray, List.getElem_cons_zero, Act.put, List.setIfInBounds_toArray, List.set_cons_zero, List.set_cons_succ]
      refine wpAnyH_take (i := 1) (v := ?_) rfl (by kernel_rfl) (by kernel_rfl) (by kernel_rfl) (fun _ _ _ h => h) (Or.inl ⟨by rfl, ?_⟩) (by assumption) ?_; rotate_left
      · (intro w hSw; (try dsimp only at hSw); go_simp; try with_reducible rfl)
      try simp only [List.getElem_toArray, List.getElem_cons_zero, List.getElem_cons_succ, Act.put, List.setIfInBounds_toArray, List.set_cons_zero, List.set_cons_succ]
      refine wpAnyH_take (i := 2) (v := ?_) rfl (by kernel_rfl) (by kernel_rfl) (by kernel_rfl) (fun _ _ _ h => h) (Or.inl ⟨by rfl, ?_⟩) (by assumption) ?_; rotate_left
      · (intro w hSw; (try dsimp only at hSw); go_simp; try with_reducible rfl)
      try simp only [List.getElem_toArray, List.getElem_cons_zero, List.getElem_cons_succ, Act.put, List.setIfInBounds_toArray, List.set_cons_zero, List.set_cons_succ]
      refine wpAnyH_take (i := 3) (v := ?_) rfl (by kernel_rfl) (by kernel_rfl) (by kernel_rfl) (fun _ _ _ h => h) (Or.inl ⟨by rfl, ?_⟩) (by assumption) ?_; rotate_left
      · (intro w hSw; (try dsimp only at hSw); go_simp; try with_reducible rfl)
      try simp only [List.getElem_toArray, List.getElem_cons_zero, List.getElem_cons_succ, Act.put, List.setIfInBounds_toArray, List.set_cons_zero, List.set_cons_succ]
      refine wpAnyH_take (i := 4) (v := ?_) rfl (by kernel_rfl) (by kernel_rfl) (by kernel_rfl) (fun _ _ _ h => h) (Or.inl ⟨by rfl, ?_⟩) (by assumption) ?_; rotate_left
      · (intro w hSw; (try dsimp only at hSw); go_simp; try with_reducible rfl)
      try simp only [List.getElem_toArray, List.getElem_cons_zero, List.getElem_cons_succ, Act.put, List.setIfInBounds_toArray, List.set_cons_zero, List.set_cons_succ]
      refine wpAnyH_take (i := 5) (v := ?_) rfl (by kernel_rfl) (by kernel_rfl) (by kernel_rfl) (fun _ _ _ h => h) (Or.inl ⟨by rfl, ?_⟩) (by assumption) ?_; rotate_left
      · (intro w hSw; (try dsimp only at hSw); go_simp; try with_reducible rfl)
      try simp only [List.getElem_toArray, List.getElem_cons_zero, List.getElem_cons_succ, Act.put, List.setIfInBounds_toArray, List.set_cons_zero, List.set_cons_succ]
      refine wpAnyH_take (i := 6) (v := ?_) rfl (by kernel_rfl) (by kernel_rfl) (by kernel_rfl) (fun _ _ _ h => h) (Or.inl ⟨by rfl, ?_⟩) (by assumption) ?_; rotate_left
      · (intro w hSw; (try dsimp only at hSw); go_simp; try with_reducible rfl)
      try simp only [List.getElem_toArray, List.getElem_cons_zero, List.getElem_cons_succ, Act.put, List.setIfInBounds_toArray, List.set_cons_zero, List.set_cons_succ]
      refine wpAnyH_take (i := 7) (v := ?_) rfl (by kernel_rfl) (by kernel_rfl) (by kernel_rfl) (fun _ _ _ h => h) (Or.inl ⟨by rfl, ?_⟩) (by assumption) ?_; rotate_left
      · (intro w hSw; (try dsimp only at hSw); go_simp; try with_reducible rfl)
      try simp only [List.getElem_toArray, List.getElem_cons_zero, List.getElem_cons_succ, Act.put, List.setIfInBounds_toArray, List.set_cons_zero, List.set_cons_succ]
      refine wpAnyH_take (i := 8) (v := ?_) rfl (by kernel_rfl) (by kernel_rfl) (by kernel_rfl) (fun _ _ _ h => h) (Or.inl ⟨by rfl, ?_⟩) (by assumption) ?_; rotate_left
      · (intro w hSw; (try dsimp only at hSw); go_simp; try with_reducible rfl)
      try simp only [List.getElem_toArray, List.getElem_cons_zero, List.getElem_cons_succ, Act.put, List.setIfInBounds_toArray, List.set_cons_zero, List.set_cons_succ]
      refine wpAnyH_take (i := 9) (v := ?_) rfl (by kernel_rfl) (by kernel_rfl) (by kernel_rfl) (fun _ _ _ h => h) (Or.inl ⟨by rfl, ?_⟩) (by assumption) ?_; rotate_left
      · (intro w hSw; (try dsimp only at hSw); go_simp; try with_reducible rfl)
      try simp only [List.getElem_toArray, List.getElem_cons_zero, List.getElem_cons_succ, Act.put, List.setIfInBounds_toArray, List.set_cons_zero, List.set_cons_succ]
      refine wpAnyH_take (i := 10) (v := ?_) rfl (by kernel_rfl) (by kernel_rfl) (by kernel_rfl) (fun _ _ _ h => h) (Or.inl ⟨by rfl, ?_⟩) (by assumption) ?_; rotate_left
      · (intro w hSw; (try dsimp only at hSw); go_simp; try with_reducible rfl)
      try simp only [List.getElem_toArray, List.getElem_cons_zero, List.getElem_cons_succ, Act.put, List.setIfInBounds_toArray, List.set_cons_zero, List.set_cons_succ]
      refine wpAnyH_take (i := 11) (v := ?_) rfl (by kernel_rfl) (by kernel_rfl) (by kernel_rfl) (fun _ _ _ h => h) (Or.inl ⟨by rfl, ?_⟩) (by assumption) ?_; rotate_left
      · (intro w hSw; (try dsimp only at hSw); go_simp; try with_reducible rfl)
      try simp only [List.getElem_toArray, List.getElem_cons_zero, List.getElem_cons_succ, Act.put, List.setIfInBounds_toArray, List.set_cons_zero, List.set_cons_succ]
      refine wpAnyH_take (i := 12) (v := ?_) rfl (by kernel_rfl) (by kernel_rfl) (by kernel_rfl) (fun _ _ _ h => h) (Or.inl ⟨by rfl, ?_⟩) (by assumption) ?_; rotate_left
      · (intro w hSw; (try dsimp only at hSw); go_simp; try with_reducible rfl)
      try simp only [List.getElem_toArray, List.getElem_cons_zero, List.getElem_cons_succ, Act.put, List.setIfInBounds_toArray, List.set_cons_zero, List.set_cons_succ]
      refine wpAnyH_ready (rs := [13]) (by kernel_rfl) (by simp) ?_
      refine AllReadyH.cons rfl (fun K hK => ?_) AllReadyH.nil
      go_simp
      refine hK.out _ _ (hc.out _ (gt hG.out (by (repeat (first | with_reducible exact grownBy_refl _ _ | (with_reducible refine gs ?_ ?_; first | omega | (simp; omega)) | with_reducible refine ga ?_ | with_reducible refine gd ?_ | with_reducible refine gdn ?_ | with_reducible refine gt ?_ (by assumption)))))) (fun hHeld => ?_)
      clear hK K
      try simp only [List.getElem_toArray, List.getElem_cons_zero, List.getElem_cons_succ, Act.put, List.setIfInBounds_toArray, List.set_cons_zero, List.set_cons_succ]
      refine wpAnyH_ready (rs := [14]) (by kernel_rfl) (by simp) ?_
      refine AllReadyH.cons rfl (fun K hK => ?_) AllReadyH.nil
      refine step_append_any ((wr.alloc (.cells #[.int .u8 (dx : Int), .int .u8 (dy : Int)] 5)).drew) (by rfl) _ _ _ _ (by rfl) i5 Try.underlying22 hi5 hz5 hs5 hb5 ro rc D (by simp [Act.eval, Act.put]) (by exact (hO.out.alloc _).drew) (.slice (some ⟨wr.heap.size, 0, none⟩) 2 2) (by simp [Act.eval, Act.put]) (two c) (by exact src_of (two_new wr hdx0.out hdy0.out hdx2 hdy2).drew _ _ Try.underlying22) (by simp [two]; omega) R hR.out ?_; intro ro' rc' w3 ho3 hg3 hat3
      refine hK.out _ _ (hc.out _ (hg3n.out _ hg3)) (fun hHeld => ?_)
      clear hK K
      try simp only [List.getElem_toArray, List.getElem_cons_zero, List.getElem_cons_succ, Act.put, List.setIfInBounds_toArray, List.set_cons_zero, List.set_cons_succ]
      refine wpAnyH_take (i := 15) (v := ?_) rfl (by kernel_rfl) (by kernel_rfl) (by kernel_rfl) (fun _ _ _ h => h) (Or.inl ⟨by rfl, ?_⟩) (by assumption) ?_; rotate_left
      · (intro w hSw; (try dsimp only at hSw); go_simp; try with_reducible rfl)
      try simp only [List.getElem_toArray, List.getElem_cons_zero, List.getElem_cons_succ, Act.put, List.setIfInBounds_toArray, List.set_cons_zero, List.set_cons_succ]
      refine wpAnyH_done (by kernel_rfl) ?_ _
      go_wp2
      go_roundw
      case rel => exact ⟨i + 1, rc', ro', R, by omega, by go_num, rfl, hRl.out, hD2, Hid.mk' ho3, Hid.mk' (by rcases hat3 with rfl | rfl; exact hbl.out; intro b hb; simp [blk] at hb; have := hG.out.size; omega), Hid.mk' (hg3n.out _ hg3)⟩
      case measure => simp [intOf]; omega
    · obtain rfl : i = len := by omega
      have hlt' : ¬ (i : Int) < (i : Int) := by omega
      have hcv := conv (hO.out.bytes) 22 9 rc Try.underlying22 Try.underlying5 Try.underlying9
      have hT3 : Hid (str D = T) := Hid.mk' (by rw [hD.out, List.take_of_length_le (by rw [hl0.out]; exact Nat.le_refl _)]; exact hT2.out)
      rw [hT3.out] at hcv
      go_wp2
      go_ret
      exact ⟨rfl, hG.out⟩
end Go.Proofs.Ytphnkcnpbhndlaa.C26

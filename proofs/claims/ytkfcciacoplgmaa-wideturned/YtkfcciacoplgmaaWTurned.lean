/- WideTurned: walks. -/
import Derived.Test.YtkfcciacoplgmaaTurn
import Derived.Test.YtkfcciacoplgmaaWGets
import Derived.Test.YtkfcciacoplgmaaWorks
import Derived.Deep.RegionHeld3
import Derived.BigQuiet
namespace Go.Proofs.Ytkfcciacoplgmaa.Wd
open Go.ChangeShapes Go.WideShapes Go.ChangeAt Go.RowKit Go.Proofs.Ytkfcciacoplgmaa.Mem Go.Proofs.Ytkfcciacoplgmaa.Ucs
set_option linter.unusedVariables false
set_option linter.unusedSimpArgs false

set_option maxRecDepth 100000 in
set_option maxHeartbeats 4000000 in
theorem turned_3 (a : Int) (r : Hid (wrap64 ((IntKind.u64.wrap a).tmod 3) = 0)) (ao : Option Addr) (cap : Nat) (L : List UInt8) (w : World) (hB : Bytes w ao L) (hLc : L.length ≤ cap) (hcm : cap ≤ 140737488351232) (hL : L.length ≤ 1000) :
    Calls Try.prog 6 #[.int .i64 a, .slice ao L.length cap] w fun e w' => e = .returned (.bool true) ∧ Below w.heap.size w w' := by
  obtain ⟨i0, hi, hz0, hz1, hz2⟩ := info_parts info5
  have HB : Hid (Bytes w ao L) := hB
  have r' := r.out
  have hLl : L.length ≤ 140737488351232 := by omega
  clear hB r
  go_enter Try.func6, Try.ntmps6
  go_wp2_with (first | (go_at_call 15; refine (works_any _).mono ?_; rintro e w1 ⟨rfl, hg1⟩) | (at_builtin; refine wpList_append_any _ rfl _ _ 25 25 rfl i0 Try.underlying25 hi hz0 hz1 hz2 _ _ [] rfl (own_made2 _ _) _ rfl L (src_of (((HB.out.kept0 hg1).alloc _).alloc _) 25 cap Try.underlying25) (by simp; omega) L rfl ?_; intro ao' c' wa hown hga hat))
  obtain ⟨g, rfl, hgn⟩ : ∃ g, ao' = some ⟨g, 0, none⟩ ∧ w.heap.size ≤ g := by
    have hsz := hg1.size
    rcases hat with rfl | rfl
    · exact ⟨_, rfl, by omega⟩
    · exact ⟨_, rfl, by simp; omega⟩
  have hgw : Hid (w.grownBy wa none) := grownBy_new (ga (ga hg1)) hga (by intro g' e; have hsz := hg1.size; simp [blk] at e; omega)
  have q1 := hown.cap_le
  have q2 := hown.cap_max
  have ho0 : Hid (Own wa (some ⟨g, 0, none⟩) c' (tn 2 L 0)) := by
    refine (?_ : Own _ _ _ _)
    rw [tn_zero]
    exact hown
  clear hown hga hat hg1 r'
  go_loopw [8] (fun t8 wx => ∃ q i : Nat, Hid (i = 2 * q) ∧ i ≤ L.length ∧ t8 = .int .i64 (i : Int) ∧ Hid (w.grownBy wx none) ∧ Hid (Own wx (some ⟨g, 0, none⟩) c' (tn 2 L i))) (fun t8 _ => L.length - (intOf t8).toNat)
  case atStart => exact ⟨0, 0, (rfl : 0 = 2 * 0), by omega, rfl, hgw, ho0⟩
  case round =>
    obtain ⟨q, i, hiq, hil, rfl, hgx, hox⟩ := hrel
    clear hgw ho0
    by_cases hlt : i + 2 ≤ L.length
    · have hlt' : (i : Int) + 2 ≤ (L.length : Int) := by omega
      obtain ⟨b, o, rfl, hcc⟩ := Bytes.at HB.out (List.ne_nil_of_length_pos (by omega))
      clear hcc
      go_wp2
      go_loopw [9] (fun t9 wy => ∃ k : Nat, k ≤ 2 ∧ t9 = .int .i64 (k : Int) ∧ Hid (w.grownBy wy none) ∧ Hid (Own wy (some ⟨g, 0, none⟩) c' (tn 2 L (i + k)))) (fun t9 _ => 2 - (intOf t9).toNat)
      case atStart => exact ⟨0, by omega, rfl, hgx, hox⟩
      case round =>
        obtain ⟨k, hk, rfl, hgy, hoy⟩ := hrel
        clear hgx hox
        have hk' : k = 0 ∨ k = 1 ∨ k = 2 := by omega
        rcases hk' with rfl | rfl | rfl
        · have hj : i + 1 < L.length := by omega
          obtain ⟨d, hd⟩ : ∃ d, d = L[i + 1] := ⟨_, rfl⟩
          have xb : wr.cell? ⟨b, o + (i + 1), none⟩ = some (.int .u8 (d.toNat : Int)) := by
            obtain ⟨b', o', e, hc⟩ := Bytes.at (HB.out.kept0 hgy.out) (List.ne_nil_of_length_pos (by omega))
            cases e
            rw [hd]
            exact hc _ hj
          have xr := hoy.out.cell (i + 0) (by rw [tn_length]; omega)
          have xf := hoy.out.free (i + 0)
          have hdr : Hid (L.getD (rev 2 (i + 0)) 0 = d) := by
            refine (?_ : _ = d)
            rw [hiq.out, rev_at 2 q 0 (by omega), ← hiq.out, show i + 2 - 1 - 0 = i + 1 by omega, getD_at hj, hd]
          have ho2 : Hid (Own (wr.setCell ⟨g, i + 0, none⟩ (.int .u8 (d.toNat : Int))) (some ⟨g, 0, none⟩) c' (tn 2 L (i + 1))) := by
            refine (?_ : Own _ _ _ _)
            have h3 := hoy.out.set (i + 0) (by rw [tn_length]; omega) d
            have h4 := tn_set 2 L (i + 0) (by omega)
            rw [hdr.out] at h4
            rw [h4] at h3
            exact h3
          have hg2 : Hid (w.grownBy (wr.setCell ⟨g, i + 0, none⟩ (.int .u8 (d.toNat : Int))) none) := gs hgn hgy.out
          clear hd
          skip
          simp only [Nat.add_zero] at xr xf
          go_wp2
          go_roundw
          case rel => exact ⟨1, by omega, rfl, hg2, ho2⟩
          case measure => simp [intOf]
        · have hj : i + 0 < L.length := by omega
          obtain ⟨d, hd⟩ : ∃ d, d = L[i + 0] := ⟨_, rfl⟩
          have xb : wr.cell? ⟨b, o + (i + 0), none⟩ = some (.int .u8 (d.toNat : Int)) := by
            obtain ⟨b', o', e, hc⟩ := Bytes.at (HB.out.kept0 hgy.out) (List.ne_nil_of_length_pos (by omega))
            cases e
            rw [hd]
            exact hc _ hj
          have xr := hoy.out.cell (i + 1) (by rw [tn_length]; omega)
          have xf := hoy.out.free (i + 1)
          have hdr : Hid (L.getD (rev 2 (i + 1)) 0 = d) := by
            refine (?_ : _ = d)
            rw [hiq.out, rev_at 2 q 1 (by omega), ← hiq.out, show i + 2 - 1 - 1 = i + 0 by omega, getD_at hj, hd]
          have ho2 : Hid (Own (wr.setCell ⟨g, i + 1, none⟩ (.int .u8 (d.toNat : Int))) (some ⟨g, 0, none⟩) c' (tn 2 L (i + 2))) := by
            refine (?_ : Own _ _ _ _)
            have h3 := hoy.out.set (i + 1) (by rw [tn_length]; omega) d
            have h4 := tn_set 2 L (i + 1) (by omega)
            rw [hdr.out] at h4
            rw [h4] at h3
            exact h3
          have hg2 : Hid (w.grownBy (wr.setCell ⟨g, i + 1, none⟩ (.int .u8 (d.toNat : Int))) none) := gs hgn hgy.out
          clear hd
          simp only [Nat.add_zero] at xb
          skip
          go_wp2
          go_roundw
          case rel => exact ⟨2, by omega, rfl, hg2, ho2⟩
          case measure => simp [intOf]
        · go_wp2
          go_roundw
          case rel => exact ⟨q + 1, i + 2, (by have := hiq.out; omega : i + 2 = 2 * (q + 1)), by omega, by go_num, hgy, hoy⟩
          case measure => simp [intOf]; omega
    · have hlt' : ¬ (i : Int) + 2 ≤ (L.length : Int) := by omega
      have hBx : Hid (Bytes wr ao L) := HB.out.kept0 hgx.out
      have hTx : Hid (Bytes wr (some ⟨g, 0, none⟩) (tn 2 L i)) := hox.out.bytes
      obtain ⟨R, hR⟩ : ∃ R, Hid (getR 3 0 0 0 0 L = R) := ⟨_, (rfl : getR 3 0 0 0 0 L = getR 3 0 0 0 0 L)⟩
      have hR2 : Hid (getR 4 0 0 0 0 (tn 2 L i) = R) := by
        refine (?_ : _ = R)
        rw [← hR.out, getR_bare (k := 4) rfl, getR_bare (k := 3) rfl, hiq.out]
        exact (turn2 true L q (by have := hiq.out; omega) (by have := hiq.out; omega) 0).symm
      clear hox
      go_wp2_with (first | (go_at_call_of 9 (Value.int IntKind.i64 3); refine (get_any 3 0 0 0 0 _ L.length cap L _ ?_ rfl (by omega) hLc (by omega) R hR.out).mono ?_; exact hBx.out; rintro e w2 ⟨rfl, hg2⟩) | (go_at_call_of 9 (Value.int IntKind.i64 4); refine (get_any 4 0 0 0 0 _ L.length c' (tn 2 L i) _ ?_ (tn_length _ _ _) (by omega) q1 q2 R hR2.out).mono ?_; exact hTx.out.kept0 hg2; rintro e w3 ⟨rfl, hg3⟩))
      go_ret
      refine ⟨rfl, below_g ?_⟩
      have hgy := hgx.out
      (repeat (first | with_reducible exact grownBy_refl _ _ | (with_reducible refine gs ?_ ?_; first | omega | (simp; omega)) | with_reducible refine ga ?_ | with_reducible refine gd ?_ | with_reducible refine gdn ?_ | with_reducible refine gt ?_ (by assumption)))

set_option maxRecDepth 100000 in
set_option maxHeartbeats 4000000 in
theorem turned_6 (a : Int) (r : Hid (wrap64 ((IntKind.u64.wrap a).tmod 3) = 1)) (ao : Option Addr) (cap : Nat) (L : List UInt8) (w : World) (hB : Bytes w ao L) (hLc : L.length ≤ cap) (hcm : cap ≤ 140737488351232) (hL : L.length ≤ 1000) :
    Calls Try.prog 6 #[.int .i64 a, .slice ao L.length cap] w fun e w' => e = .returned (.bool true) ∧ Below w.heap.size w w' := by
  obtain ⟨i0, hi, hz0, hz1, hz2⟩ := info_parts info5
  have HB : Hid (Bytes w ao L) := hB
  have r' := r.out
  have hLl : L.length ≤ 140737488351232 := by omega
  clear hB r
  go_enter Try.func6, Try.ntmps6
  go_wp2_with (first | (go_at_call 15; refine (works_any _).mono ?_; rintro e w1 ⟨rfl, hg1⟩) | (at_builtin; refine wpList_append_any _ rfl _ _ 25 25 rfl i0 Try.underlying25 hi hz0 hz1 hz2 _ _ [] rfl (own_made2 _ _) _ rfl L (src_of (((HB.out.kept0 hg1).alloc _).alloc _) 25 cap Try.underlying25) (by simp; omega) L rfl ?_; intro ao' c' wa hown hga hat))
  obtain ⟨g, rfl, hgn⟩ : ∃ g, ao' = some ⟨g, 0, none⟩ ∧ w.heap.size ≤ g := by
    have hsz := hg1.size
    rcases hat with rfl | rfl
    · exact ⟨_, rfl, by omega⟩
    · exact ⟨_, rfl, by simp; omega⟩
  have hgw : Hid (w.grownBy wa none) := grownBy_new (ga (ga hg1)) hga (by intro g' e; have hsz := hg1.size; simp [blk] at e; omega)
  have q1 := hown.cap_le
  have q2 := hown.cap_max
  have ho0 : Hid (Own wa (some ⟨g, 0, none⟩) c' (tn 4 L 0)) := by
    refine (?_ : Own _ _ _ _)
    rw [tn_zero]
    exact hown
  clear hown hga hat hg1 r'
  go_loopw [8] (fun t8 wx => ∃ q i : Nat, Hid (i = 4 * q) ∧ i ≤ L.length ∧ t8 = .int .i64 (i : Int) ∧ Hid (w.grownBy wx none) ∧ Hid (Own wx (some ⟨g, 0, none⟩) c' (tn 4 L i))) (fun t8 _ => L.length - (intOf t8).toNat)
  case atStart => exact ⟨0, 0, (rfl : 0 = 4 * 0), by omega, rfl, hgw, ho0⟩
  case round =>
    obtain ⟨q, i, hiq, hil, rfl, hgx, hox⟩ := hrel
    clear hgw ho0
    by_cases hlt : i + 4 ≤ L.length
    · have hlt' : (i : Int) + 4 ≤ (L.length : Int) := by omega
      obtain ⟨b, o, rfl, hcc⟩ := Bytes.at HB.out (List.ne_nil_of_length_pos (by omega))
      clear hcc
      go_wp2
      go_loopw [9] (fun t9 wy => ∃ k : Nat, k ≤ 4 ∧ t9 = .int .i64 (k : Int) ∧ Hid (w.grownBy wy none) ∧ Hid (Own wy (some ⟨g, 0, none⟩) c' (tn 4 L (i + k)))) (fun t9 _ => 4 - (intOf t9).toNat)
      case atStart => exact ⟨0, by omega, rfl, hgx, hox⟩
      case round =>
        obtain ⟨k, hk, rfl, hgy, hoy⟩ := hrel
        clear hgx hox
        have hk' : k = 0 ∨ k = 1 ∨ k = 2 ∨ k = 3 ∨ k = 4 := by omega
        rcases hk' with rfl | rfl | rfl | rfl | rfl
        · have hj : i + 3 < L.length := by omega
          obtain ⟨d, hd⟩ : ∃ d, d = L[i + 3] := ⟨_, rfl⟩
          have xb : wr.cell? ⟨b, o + (i + 3), none⟩ = some (.int .u8 (d.toNat : Int)) := by
            obtain ⟨b', o', e, hc⟩ := Bytes.at (HB.out.kept0 hgy.out) (List.ne_nil_of_length_pos (by omega))
            cases e
            rw [hd]
            exact hc _ hj
          have xr := hoy.out.cell (i + 0) (by rw [tn_length]; omega)
          have xf := hoy.out.free (i + 0)
          have hdr : Hid (L.getD (rev 4 (i + 0)) 0 = d) := by
            refine (?_ : _ = d)
            rw [hiq.out, rev_at 4 q 0 (by omega), ← hiq.out, show i + 4 - 1 - 0 = i + 3 by omega, getD_at hj, hd]
          have ho2 : Hid (Own (wr.setCell ⟨g, i + 0, none⟩ (.int .u8 (d.toNat : Int))) (some ⟨g, 0, none⟩) c' (tn 4 L (i + 1))) := by
            refine (?_ : Own _ _ _ _)
            have h3 := hoy.out.set (i + 0) (by rw [tn_length]; omega) d
            have h4 := tn_set 4 L (i + 0) (by omega)
            rw [hdr.out] at h4
            rw [h4] at h3
            exact h3
          have hg2 : Hid (w.grownBy (wr.setCell ⟨g, i + 0, none⟩ (.int .u8 (d.toNat : Int))) none) := gs hgn hgy.out
          clear hd
          skip
          simp only [Nat.add_zero] at xr xf
          go_wp2
          go_roundw
          case rel => exact ⟨1, by omega, rfl, hg2, ho2⟩
          case measure => simp [intOf]
        · have hj : i + 2 < L.length := by omega
          obtain ⟨d, hd⟩ : ∃ d, d = L[i + 2] := ⟨_, rfl⟩
          have xb : wr.cell? ⟨b, o + (i + 2), none⟩ = some (.int .u8 (d.toNat : Int)) := by
            obtain ⟨b', o', e, hc⟩ := Bytes.at (HB.out.kept0 hgy.out) (List.ne_nil_of_length_pos (by omega))
            cases e
            rw [hd]
            exact hc _ hj
          have xr := hoy.out.cell (i + 1) (by rw [tn_length]; omega)
          have xf := hoy.out.free (i + 1)
          have hdr : Hid (L.getD (rev 4 (i + 1)) 0 = d) := by
            refine (?_ : _ = d)
            rw [hiq.out, rev_at 4 q 1 (by omega), ← hiq.out, show i + 4 - 1 - 1 = i + 2 by omega, getD_at hj, hd]
          have ho2 : Hid (Own (wr.setCell ⟨g, i + 1, none⟩ (.int .u8 (d.toNat : Int))) (some ⟨g, 0, none⟩) c' (tn 4 L (i + 2))) := by
            refine (?_ : Own _ _ _ _)
            have h3 := hoy.out.set (i + 1) (by rw [tn_length]; omega) d
            have h4 := tn_set 4 L (i + 1) (by omega)
            rw [hdr.out] at h4
            rw [h4] at h3
            exact h3
          have hg2 : Hid (w.grownBy (wr.setCell ⟨g, i + 1, none⟩ (.int .u8 (d.toNat : Int))) none) := gs hgn hgy.out
          clear hd
          skip
          skip
          go_wp2
          go_roundw
          case rel => exact ⟨2, by omega, rfl, hg2, ho2⟩
          case measure => simp [intOf]
        · have hj : i + 1 < L.length := by omega
          obtain ⟨d, hd⟩ : ∃ d, d = L[i + 1] := ⟨_, rfl⟩
          have xb : wr.cell? ⟨b, o + (i + 1), none⟩ = some (.int .u8 (d.toNat : Int)) := by
            obtain ⟨b', o', e, hc⟩ := Bytes.at (HB.out.kept0 hgy.out) (List.ne_nil_of_length_pos (by omega))
            cases e
            rw [hd]
            exact hc _ hj
          have xr := hoy.out.cell (i + 2) (by rw [tn_length]; omega)
          have xf := hoy.out.free (i + 2)
          have hdr : Hid (L.getD (rev 4 (i + 2)) 0 = d) := by
            refine (?_ : _ = d)
            rw [hiq.out, rev_at 4 q 2 (by omega), ← hiq.out, show i + 4 - 1 - 2 = i + 1 by omega, getD_at hj, hd]
          have ho2 : Hid (Own (wr.setCell ⟨g, i + 2, none⟩ (.int .u8 (d.toNat : Int))) (some ⟨g, 0, none⟩) c' (tn 4 L (i + 3))) := by
            refine (?_ : Own _ _ _ _)
            have h3 := hoy.out.set (i + 2) (by rw [tn_length]; omega) d
            have h4 := tn_set 4 L (i + 2) (by omega)
            rw [hdr.out] at h4
            rw [h4] at h3
            exact h3
          have hg2 : Hid (w.grownBy (wr.setCell ⟨g, i + 2, none⟩ (.int .u8 (d.toNat : Int))) none) := gs hgn hgy.out
          clear hd
          skip
          skip
          go_wp2
          go_roundw
          case rel => exact ⟨3, by omega, rfl, hg2, ho2⟩
          case measure => simp [intOf]
        · have hj : i + 0 < L.length := by omega
          obtain ⟨d, hd⟩ : ∃ d, d = L[i + 0] := ⟨_, rfl⟩
          have xb : wr.cell? ⟨b, o + (i + 0), none⟩ = some (.int .u8 (d.toNat : Int)) := by
            obtain ⟨b', o', e, hc⟩ := Bytes.at (HB.out.kept0 hgy.out) (List.ne_nil_of_length_pos (by omega))
            cases e
            rw [hd]
            exact hc _ hj
          have xr := hoy.out.cell (i + 3) (by rw [tn_length]; omega)
          have xf := hoy.out.free (i + 3)
          have hdr : Hid (L.getD (rev 4 (i + 3)) 0 = d) := by
            refine (?_ : _ = d)
            rw [hiq.out, rev_at 4 q 3 (by omega), ← hiq.out, show i + 4 - 1 - 3 = i + 0 by omega, getD_at hj, hd]
          have ho2 : Hid (Own (wr.setCell ⟨g, i + 3, none⟩ (.int .u8 (d.toNat : Int))) (some ⟨g, 0, none⟩) c' (tn 4 L (i + 4))) := by
            refine (?_ : Own _ _ _ _)
            have h3 := hoy.out.set (i + 3) (by rw [tn_length]; omega) d
            have h4 := tn_set 4 L (i + 3) (by omega)
            rw [hdr.out] at h4
            rw [h4] at h3
            exact h3
          have hg2 : Hid (w.grownBy (wr.setCell ⟨g, i + 3, none⟩ (.int .u8 (d.toNat : Int))) none) := gs hgn hgy.out
          clear hd
          simp only [Nat.add_zero] at xb
          skip
          go_wp2
          go_roundw
          case rel => exact ⟨4, by omega, rfl, hg2, ho2⟩
          case measure => simp [intOf]
        · go_wp2
          go_roundw
          case rel => exact ⟨q + 1, i + 4, (by have := hiq.out; omega : i + 4 = 4 * (q + 1)), by omega, by go_num, hgy, hoy⟩
          case measure => simp [intOf]; omega
    · have hlt' : ¬ (i : Int) + 4 ≤ (L.length : Int) := by omega
      have hBx : Hid (Bytes wr ao L) := HB.out.kept0 hgx.out
      have hTx : Hid (Bytes wr (some ⟨g, 0, none⟩) (tn 4 L i)) := hox.out.bytes
      obtain ⟨R, hR⟩ : ∃ R, Hid (getR 6 0 0 0 0 L = R) := ⟨_, (rfl : getR 6 0 0 0 0 L = getR 6 0 0 0 0 L)⟩
      have hR2 : Hid (getR 7 0 0 0 0 (tn 4 L i) = R) := by
        refine (?_ : _ = R)
        rw [← hR.out, getR_bare (k := 7) rfl, getR_bare (k := 6) rfl, hiq.out]
        exact (turn4 L q (by have := hiq.out; omega) (by have := hiq.out; omega) 0).symm
      clear hox
      go_wp2_with (first | (go_at_call_of 9 (Value.int IntKind.i64 6); refine (get_any 6 0 0 0 0 _ L.length cap L _ ?_ rfl (by omega) hLc (by omega) R hR.out).mono ?_; exact hBx.out; rintro e w2 ⟨rfl, hg2⟩) | (go_at_call_of 9 (Value.int IntKind.i64 7); refine (get_any 7 0 0 0 0 _ L.length c' (tn 4 L i) _ ?_ (tn_length _ _ _) (by omega) q1 q2 R hR2.out).mono ?_; exact hTx.out.kept0 hg2; rintro e w3 ⟨rfl, hg3⟩))
      go_ret
      refine ⟨rfl, below_g ?_⟩
      have hgy := hgx.out
      (repeat (first | with_reducible exact grownBy_refl _ _ | (with_reducible refine gs ?_ ?_; first | omega | (simp; omega)) | with_reducible refine ga ?_ | with_reducible refine gd ?_ | with_reducible refine gdn ?_ | with_reducible refine gt ?_ (by assumption)))

set_option maxRecDepth 100000 in
set_option maxHeartbeats 4000000 in
theorem turned_9 (a : Int) (r : Hid (wrap64 ((IntKind.u64.wrap a).tmod 3) = 2)) (ao : Option Addr) (cap : Nat) (L : List UInt8) (w : World) (hB : Bytes w ao L) (hLc : L.length ≤ cap) (hcm : cap ≤ 140737488351232) (hL : L.length ≤ 1000) :
    Calls Try.prog 6 #[.int .i64 a, .slice ao L.length cap] w fun e w' => e = .returned (.bool true) ∧ Below w.heap.size w w' := by
  obtain ⟨i0, hi, hz0, hz1, hz2⟩ := info_parts info5
  have HB : Hid (Bytes w ao L) := hB
  have r' := r.out
  have hLl : L.length ≤ 140737488351232 := by omega
  clear hB r
  go_enter Try.func6, Try.ntmps6
  go_wp2_with (first | (go_at_call 15; refine (works_any _).mono ?_; rintro e w1 ⟨rfl, hg1⟩) | (at_builtin; refine wpList_append_any _ rfl _ _ 25 25 rfl i0 Try.underlying25 hi hz0 hz1 hz2 _ _ [] rfl (own_made2 _ _) _ rfl L (src_of (((HB.out.kept0 hg1).alloc _).alloc _) 25 cap Try.underlying25) (by simp; omega) L rfl ?_; intro ao' c' wa hown hga hat))
  obtain ⟨g, rfl, hgn⟩ : ∃ g, ao' = some ⟨g, 0, none⟩ ∧ w.heap.size ≤ g := by
    have hsz := hg1.size
    rcases hat with rfl | rfl
    · exact ⟨_, rfl, by omega⟩
    · exact ⟨_, rfl, by simp; omega⟩
  have hgw : Hid (w.grownBy wa none) := grownBy_new (ga (ga hg1)) hga (by intro g' e; have hsz := hg1.size; simp [blk] at e; omega)
  have q1 := hown.cap_le
  have q2 := hown.cap_max
  have ho0 : Hid (Own wa (some ⟨g, 0, none⟩) c' (tn 2 L 0)) := by
    refine (?_ : Own _ _ _ _)
    rw [tn_zero]
    exact hown
  clear hown hga hat hg1 r'
  go_loopw [8] (fun t8 wx => ∃ q i : Nat, Hid (i = 2 * q) ∧ i ≤ L.length ∧ t8 = .int .i64 (i : Int) ∧ Hid (w.grownBy wx none) ∧ Hid (Own wx (some ⟨g, 0, none⟩) c' (tn 2 L i))) (fun t8 _ => L.length - (intOf t8).toNat)
  case atStart => exact ⟨0, 0, (rfl : 0 = 2 * 0), by omega, rfl, hgw, ho0⟩
  case round =>
    obtain ⟨q, i, hiq, hil, rfl, hgx, hox⟩ := hrel
    clear hgw ho0
    by_cases hlt : i + 2 ≤ L.length
    · have hlt' : (i : Int) + 2 ≤ (L.length : Int) := by omega
      obtain ⟨b, o, rfl, hcc⟩ := Bytes.at HB.out (List.ne_nil_of_length_pos (by omega))
      clear hcc
      go_wp2
      go_loopw [9] (fun t9 wy => ∃ k : Nat, k ≤ 2 ∧ t9 = .int .i64 (k : Int) ∧ Hid (w.grownBy wy none) ∧ Hid (Own wy (some ⟨g, 0, none⟩) c' (tn 2 L (i + k)))) (fun t9 _ => 2 - (intOf t9).toNat)
      case atStart => exact ⟨0, by omega, rfl, hgx, hox⟩
      case round =>
        obtain ⟨k, hk, rfl, hgy, hoy⟩ := hrel
        clear hgx hox
        have hk' : k = 0 ∨ k = 1 ∨ k = 2 := by omega
        rcases hk' with rfl | rfl | rfl
        · have hj : i + 1 < L.length := by omega
          obtain ⟨d, hd⟩ : ∃ d, d = L[i + 1] := ⟨_, rfl⟩
          have xb : wr.cell? ⟨b, o + (i + 1), none⟩ = some (.int .u8 (d.toNat : Int)) := by
            obtain ⟨b', o', e, hc⟩ := Bytes.at (HB.out.kept0 hgy.out) (List.ne_nil_of_length_pos (by omega))
            cases e
            rw [hd]
            exact hc _ hj
          have xr := hoy.out.cell (i + 0) (by rw [tn_length]; omega)
          have xf := hoy.out.free (i + 0)
          have hdr : Hid (L.getD (rev 2 (i + 0)) 0 = d) := by
            refine (?_ : _ = d)
            rw [hiq.out, rev_at 2 q 0 (by omega), ← hiq.out, show i + 2 - 1 - 0 = i + 1 by omega, getD_at hj, hd]
          have ho2 : Hid (Own (wr.setCell ⟨g, i + 0, none⟩ (.int .u8 (d.toNat : Int))) (some ⟨g, 0, none⟩) c' (tn 2 L (i + 1))) := by
            refine (?_ : Own _ _ _ _)
            have h3 := hoy.out.set (i + 0) (by rw [tn_length]; omega) d
            have h4 := tn_set 2 L (i + 0) (by omega)
            rw [hdr.out] at h4
            rw [h4] at h3
            exact h3
          have hg2 : Hid (w.grownBy (wr.setCell ⟨g, i + 0, none⟩ (.int .u8 (d.toNat : Int))) none) := gs hgn hgy.out
          clear hd
          skip
          simp only [Nat.add_zero] at xr xf
          go_wp2
          go_roundw
          case rel => exact ⟨1, by omega, rfl, hg2, ho2⟩
          case measure => simp [intOf]
        · have hj : i + 0 < L.length := by omega
          obtain ⟨d, hd⟩ : ∃ d, d = L[i + 0] := ⟨_, rfl⟩
          have xb : wr.cell? ⟨b, o + (i + 0), none⟩ = some (.int .u8 (d.toNat : Int)) := by
            obtain ⟨b', o', e, hc⟩ := Bytes.at (HB.out.kept0 hgy.out) (List.ne_nil_of_length_pos (by omega))
            cases e
            rw [hd]
            exact hc _ hj
          have xr := hoy.out.cell (i + 1) (by rw [tn_length]; omega)
          have xf := hoy.out.free (i + 1)
          have hdr : Hid (L.getD (rev 2 (i + 1)) 0 = d) := by
            refine (?_ : _ = d)
            rw [hiq.out, rev_at 2 q 1 (by omega), ← hiq.out, show i + 2 - 1 - 1 = i + 0 by omega, getD_at hj, hd]
          have ho2 : Hid (Own (wr.setCell ⟨g, i + 1, none⟩ (.int .u8 (d.toNat : Int))) (some ⟨g, 0, none⟩) c' (tn 2 L (i + 2))) := by
            refine (?_ : Own _ _ _ _)
            have h3 := hoy.out.set (i + 1) (by rw [tn_length]; omega) d
            have h4 := tn_set 2 L (i + 1) (by omega)
            rw [hdr.out] at h4
            rw [h4] at h3
            exact h3
          have hg2 : Hid (w.grownBy (wr.setCell ⟨g, i + 1, none⟩ (.int .u8 (d.toNat : Int))) none) := gs hgn hgy.out
          clear hd
          simp only [Nat.add_zero] at xb
          skip
          go_wp2
          go_roundw
          case rel => exact ⟨2, by omega, rfl, hg2, ho2⟩
          case measure => simp [intOf]
        · go_wp2
          go_roundw
          case rel => exact ⟨q + 1, i + 2, (by have := hiq.out; omega : i + 2 = 2 * (q + 1)), by omega, by go_num, hgy, hoy⟩
          case measure => simp [intOf]; omega
    · have hlt' : ¬ (i : Int) + 2 ≤ (L.length : Int) := by omega
      have hBx : Hid (Bytes wr ao L) := HB.out.kept0 hgx.out
      have hTx : Hid (Bytes wr (some ⟨g, 0, none⟩) (tn 2 L i)) := hox.out.bytes
      obtain ⟨R, hR⟩ : ∃ R, Hid (getR 9 0 0 0 0 L = R) := ⟨_, (rfl : getR 9 0 0 0 0 L = getR 9 0 0 0 0 L)⟩
      have hR2 : Hid (getR 10 0 0 0 0 (tn 2 L i) = R) := by
        refine (?_ : _ = R)
        rw [← hR.out, getR_bare (k := 10) rfl, getR_bare (k := 9) rfl, hiq.out]
        exact (turn2 false L q (by have := hiq.out; omega) (by have := hiq.out; omega) 0).symm
      clear hox
      go_wp2_with (first | (go_at_call_of 9 (Value.int IntKind.i64 9); refine (get_any 9 0 0 0 0 _ L.length cap L _ ?_ rfl (by omega) hLc (by omega) R hR.out).mono ?_; exact hBx.out; rintro e w2 ⟨rfl, hg2⟩) | (go_at_call_of 9 (Value.int IntKind.i64 10); refine (get_any 10 0 0 0 0 _ L.length c' (tn 2 L i) _ ?_ (tn_length _ _ _) (by omega) q1 q2 R hR2.out).mono ?_; exact hTx.out.kept0 hg2; rintro e w3 ⟨rfl, hg3⟩))
      go_ret
      refine ⟨rfl, below_g ?_⟩
      have hgy := hgx.out
      (repeat (first | with_reducible exact grownBy_refl _ _ | (with_reducible refine gs ?_ ?_; first | omega | (simp; omega)) | with_reducible refine ga ?_ | with_reducible refine gd ?_ | with_reducible refine gdn ?_ | with_reducible refine gt ?_ (by assumption)))

set_option maxRecDepth 100000 in
set_option maxHeartbeats 4000000 in
theorem turned_long (a : Int) (r : Nat) (hr : Hid (wrap64 ((IntKind.u64.wrap a).tmod 3) = (r : Int))) (hr3 : r < 3) (ao : Option Addr) (cap len : Nat) (w : World) (hL : 1000 < len) (hl : len ≤ 140737488351232) :
    Calls Try.prog 6 #[.int .i64 a, .slice ao len cap] w fun e w' => e = .returned (.bool true) ∧ Below w.heap.size w w' := by
  have h3 : r = 0 ∨ r = 1 ∨ r = 2 := by omega
  have r' := hr.out
  clear hr
  rcases h3 with rfl | rfl | rfl
  · go_enter Try.func6, Try.ntmps6
    go_wp2_with (go_at_call 15; refine (works_any _).mono ?_; rintro e w1 ⟨rfl, hg1⟩)
    go_ret
    refine ⟨rfl, below_g ?_⟩
    (repeat (first | with_reducible exact grownBy_refl _ _ | (with_reducible refine gs ?_ ?_; first | omega | (simp; omega)) | with_reducible refine ga ?_ | with_reducible refine gd ?_ | with_reducible refine gdn ?_ | with_reducible refine gt ?_ (by assumption)))
  · go_enter Try.func6, Try.ntmps6
    go_wp2_with (go_at_call 15; refine (works_any _).mono ?_; rintro e w1 ⟨rfl, hg1⟩)
    go_ret
    refine ⟨rfl, below_g ?_⟩
    (repeat (first | with_reducible exact grownBy_refl _ _ | (with_reducible refine gs ?_ ?_; first | omega | (simp; omega)) | with_reducible refine ga ?_ | with_reducible refine gd ?_ | with_reducible refine gdn ?_ | with_reducible refine gt ?_ (by assumption)))
  · go_enter Try.func6, Try.ntmps6
    go_wp2_with (go_at_call 15; refine (works_any _).mono ?_; rintro e w1 ⟨rfl, hg1⟩)
    go_ret
    refine ⟨rfl, below_g ?_⟩
    (repeat (first | with_reducible exact grownBy_refl _ _ | (with_reducible refine gs ?_ ?_; first | omega | (simp; omega)) | with_reducible refine ga ?_ | with_reducible refine gd ?_ | with_reducible refine gdn ?_ | with_reducible refine gt ?_ (by assumption)))
theorem turned_walk (a : Int) (ao : Option Addr) (cap : Nat) (L : List UInt8) (w : World) (hB : Bytes w ao L) (hLc : L.length ≤ cap) (hcm : cap ≤ 140737488351232) :
    Calls Try.prog 6 #[.int .i64 a, .slice ao L.length cap] w fun e w' => e = .returned (.bool true) ∧ Below w.heap.size w w' := by
  obtain ⟨r, hr, hr3⟩ := mod_fit a 3 (by omega) (by omega)
  by_cases hL : L.length ≤ 1000
  · have h3 : r = 0 ∨ r = 1 ∨ r = 2 := by omega
    rcases h3 with rfl | rfl | rfl
    · exact turned_3 a hr ao cap L w hB hLc hcm hL
    · exact turned_6 a hr ao cap L w hB hLc hcm hL
    · exact turned_9 a hr ao cap L w hB hLc hcm hL
  · exact turned_long a r hr hr3 ao cap L.length w (by omega) (by omega)
end Go.Proofs.Ytkfcciacoplgmaa.Wd

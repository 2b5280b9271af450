/- DenseTells: the walk. -/
import Derived.Test.YtkhndmphgcdffaaDoorWDMore
import Derived.Test.YtkhndmphgcdffaaDoorRefN
import Derived.Deep.RegionHeld3
import Derived.Deep.RegionWith
namespace Go.Proofs.YtkhndmphgcdffaaDoor.Dn
open Go.ChangeShapes Go.WideShapes Go.ChangeAt Go.RowKit Go.Maps Go.Proofs.YtkhndmphgcdffaaDoor.Mem Go.Proofs.YtkhndmphgcdffaaDoor.Ucs Go.Proofs.YtkhndmphgcdffaaDoor.U8
set_option linter.unusedVariables false

/-- The document's table in a block of its own. -/
structure RtAt (w : World) (R f : Nat) (ro : Option Addr) (rc : Nat) (zs : List Int) : Prop where
  blk : w.heap[R]? = some (.cells #[.int .i64 (f : Int), .slice ro zs.length rc] 28 (0, 0))
  row : MemR.Bytes w ro zs
theorem RtAt.kept0 {w w' : World} {R f : Nat} {ro : Option Addr} {rc : Nat} {zs : List Int} (h : RtAt w R f ro rc zs) (hg : w.grownBy w' none) : RtAt w' R f ro rc zs :=
  ⟨(hg.block R (lt_of_block h.blk) (by simp)).trans h.blk, h.row.kept0 hg⟩
theorem RtAt.new {w : World} {f : Nat} {ro : Option Addr} {rc : Nat} {zs : List Int} (h : MemR.Bytes w ro zs) : RtAt (w.alloc (.cells #[.int .i64 (f : Int), .slice ro zs.length rc] 28)) w.heap.size f ro rc zs :=
  ⟨heap_alloc_new w _, h.alloc _⟩
theorem refscalar_int (w : World) (f : Nat) (ro : Option Addr) (rc : Nat) (zs : List Int) (h : MemR.Bytes w ro zs) (hf : f + zs.length ≤ 256) (b : Int) (h0 : 0 ≤ b) (hb : b < 256) (x : Int) (ok : Bool) (hR : Hid (scR f zs b.toNat = (x, ok))) :
    Calls Tryd.prog 9 #[.agg #[.int .i64 (f : Int), .slice ro zs.length rc], .int .u8 b] w fun e w' => e = .returned (.tuple #[.int .i32 x, .bool ok]) ∧ w.grownBy w' none := by
  have := refscalar_at w f ro rc zs h hf b.toNat (by omega) x ok hR
  rwa [Int.toNat_of_nonneg h0] at this

set_option maxRecDepth 100000 in
set_option maxHeartbeats 1000000 in
theorem tells_long (a0 : Int) (s : ByteArray) (u : Int) (hs : 2000 < s.size) (h1 : s.size ≤ 9223372036854775807) (w : World) :
    Calls Tryd.prog 3 #[.int .i64 a0, .string s, .int .i32 u] w fun e w' => e = .returned (.bool true) ∧ w.grownBy w' none := by
  go_enter Tryd.func3, Tryd.ntmps3
  go_wp2
  go_ret
  exact ⟨rfl, grownBy_refl _ _⟩

set_option maxRecDepth 100000 in
set_option maxHeartbeats 1000000 in
theorem tells_no (a0 : Int) (s : ByteArray) (u : Int) (hs : s.size ≤ 2000) (w : World) (hF : Forms w) (E : Int) (hE : Hid (newE a0 s.toList = E)) (hne : E ≠ 0) :
    Calls Tryd.prog 3 #[.int .i64 a0, .string s, .int .i32 u] w fun e w' => e = .returned (.bool true) ∧ w.grownBy w' none := by
  have hF0 := Hid.mk' hF
  have hE1 : (E == 0) = false := by simpa using hne
  have hE2 : (E != 0) = true := by simpa using hne
  have hne0 := Hid.mk' hne
  clear hne hF
  go_enter Tryd.func3, Tryd.ntmps3
  go_wp2_with (first
    | (go_at_call 6; refine (new_no _ _ (by omega) _ hF0.out E hE.out hne0.out).mono ?_; rintro e w1 ⟨rfl, hg1⟩)
    | (go_at_call 7; refine (refnew_no _ _ (by omega) _ E hE.out hne0.out).mono ?_; rintro e w2 ⟨rfl, hg2⟩))
  go_ret
  exact ⟨rfl, grownBy_trans hg1 (grownBy_trans hg2 (World.grownBy_alloc _ _ _))⟩

set_option maxRecDepth 100000 in
set_option maxHeartbeats 1000000 in
theorem tells_yes (f : Nat) (s : ByteArray) (u : Int) (hs : s.size ≤ 2000) (hu0 : -2147483648 ≤ u) (hu1 : u ≤ 2147483647) (w : World) (hF : Forms w) (us : List Nat) (hf : f ≤ 255) (hsc : Sc us) (hu : s.toList = units us) (hl : f + us.length ≤ 256) :
    Calls Tryd.prog 3 #[.int .i64 (f : Int), .string s, .int .i32 u] w fun e w' => e = .returned (.bool true) ∧ w.grownBy w' none := by
  have hF0 := Hid.mk' hF
  have hnew := Hid.mk' (fun w hF => new_ok f s (by omega) w hF us hf hsc hu hl)
  have hnewR := Hid.mk' (fun w => refnew_yes f hf us hsc s hu (by omega) w hl)
  have hb := Hid.mk' (ints_le hsc)
  have hl' := Hid.mk' (show f + (ints us).length ≤ 256 by simpa [ints] using hl)
  have hN : (ints us).length ≤ 256 := by have := hl'.out; omega
  have hstr : str (units us) = s := by rw [← hu, ByteArray.toList_eq]; exact str_of s
  have htext := Hid.mk' (fun w B bm ro rc (h : Tab w B bm f ro rc (ints us)) => text_at w B bm f ro rc us h hsc s hstr)
  have hsd : decide (2000 < (s.size : Int)) = false := decide_eq_false (by omega)
  clear hF hsc hu hl hstr
  generalize ints us = zs at *
  clear us
  obtain ⟨x, ok, r0⟩ : ∃ x ok, Hid (byR f zs u = (x, ok)) := ⟨_, _, Hid.mk' rfl⟩
  go_enter Tryd.func3, Tryd.ntmps3
  go_wp2_with (first
    | (go_at_call 6; refine (hnew.out _ hF0.out).mono ?_; rintro e w1 ⟨B, bm, ro, rc, rfl, hT1, hg1⟩; have hT1' := Hid.mk' hT1; have hg1' := Hid.mk' hg1; clear hT1 hg1)
    | (go_at_call 7; refine (hnewR.out _).mono ?_; rintro e w2 ⟨so, sc, rfl, hR2, hg2⟩; have hR2' := Hid.mk' hR2; have hg2' := Hid.mk' hg2; clear hR2 hg2))
  have hT3 := Hid.mk' (hT1'.out.kept0 (grownBy_trans hg2'.out (World.grownBy_alloc w2 (.cells #[.int .i64 (f : Int), .slice so zs.length sc] 28) none)))
  have hR3 := Hid.mk' (RtAt.new (f := f) (rc := sc) hR2'.out)
  have hg3 := Hid.mk' (grownBy_trans hg1'.out (grownBy_trans hg2'.out (World.grownBy_alloc w2 (.cells #[.int .i64 (f : Int), .slice so zs.length sc] 28) none)))
  clear hT1' hR2' hg1' hg2' hnew hnewR hF0
  generalize w2.alloc (.cells #[.int .i64 (f : Int), .slice so zs.length sc] 28) = w3 at *
  generalize w2.heap.size = R at *
  go_loopw [11] (fun t11 wx => ∃ i : Nat, i ≤ 256 ∧ t11 = .int .i64 (i : Int) ∧ Hid (w3.grownBy wx none)) (fun t11 _ => 256 - (intOf t11).toNat)
  case atStart => exact ⟨0, by omega, rfl, Hid.mk' (grownBy_refl _ _)⟩
  case round =>
    obtain ⟨i, hi, rfl, hgx⟩ := hrel
    have hTx := Hid.mk' (hT3.out.kept0 hgx.out)
    have hRx := Hid.mk' (hR3.out.kept0 hgx.out)
    have k0 := cell_at hRx.out.blk 0 (v := .int .i64 (f : Int)) rfl
    have k1 := cell_at hRx.out.blk 1 (v := .slice so zs.length sc) rfl
    by_cases hlt : i < 256
    · have hlt' : (i : Int) < 256 := by omega
      obtain ⟨v, vo, q0⟩ : ∃ v vo, Hid (scR f zs (i : Int).toNat = (v, vo)) := ⟨_, _, Hid.mk' rfl⟩
      go_wp2_with (first
        | (go_at_call 8; refine (scalar_int _ B bm f ro rc zs hTx.out hl'.out _ (by omega) (by omega) _ _ q0).mono ?_; rintro e w4 ⟨rfl, rfl⟩)
        | (go_at_call 9; refine (refscalar_int _ f so sc zs hRx.out.row hl'.out _ (by omega) (by omega) _ _ q0).mono ?_; rintro e w5 ⟨rfl, hg5⟩))
      go_roundw
      case rel => exact ⟨i + 1, by omega, by go_num, Hid.mk' (grownBy_trans hgx.out hg5)⟩
      case measure => simp [intOf]; omega
    · obtain rfl : i = 256 := by omega
      go_wp2_with (first
        | (go_at_call 10; refine (byte_at _ B bm f ro rc zs hTx.out _ hu0 hu1 _ _ r0).mono ?_; rintro e w4 ⟨rfl, rfl⟩)
        | (go_at_call 11; refine (refbyte_at _ f so sc zs hRx.out.row hl'.out _ _ _ r0).mono ?_; rintro e w5 ⟨rfl, hg5⟩; have hT5 := Hid.mk' (hTx.out.kept0 hg5); have hg5' := Hid.mk' hg5; clear hg5)
        | (go_at_call 12; refine (htext.out _ _ _ _ _ hT5.out).mono ?_; rintro e w6 ⟨rfl, rfl⟩))
      clear r0 htext hTx hRx k0 k1
      go_loopw [20] (fun t20 wx => ∃ j : Nat, j ≤ zs.length ∧ t20 = .int .i64 (j : Int) ∧ Hid (w3.grownBy wx none)) (fun t20 _ => zs.length - (intOf t20).toNat)
      case atStart => exact ⟨0, by omega, rfl, Hid.mk' (grownBy_trans hgx.out hg5'.out)⟩
      case round =>
        obtain ⟨j, hj, rfl, hgy⟩ := hrel
        have hTy := Hid.mk' (hT3.out.kept0 hgy.out)
        have hRy := Hid.mk' (hR3.out.kept0 hgy.out)
        have m0 := cell_at hRy.out.blk 0 (v := .int .i64 (f : Int)) rfl
        have m1 := cell_at hRy.out.blk 1 (v := .slice so zs.length sc) rfl
        by_cases hlt2 : j < zs.length
        · have hlt3 : (j : Int) < (zs.length : Int) := by omega
          obtain ⟨g, o, hso, q⟩ := runes_cell hRy.out.row (List.ne_nil_of_length_pos (by omega))
          subst hso
          have m2 := q j hlt2
          obtain ⟨z, hz⟩ : ∃ z, Hid (zs[j] = z) := ⟨_, Hid.mk' rfl⟩
          rw [hz.out] at m2
          obtain ⟨hz0, hz1⟩ := hb.out z (by rw [← hz.out]; exact List.getElem_mem hlt2)
          obtain ⟨y, yo, q0⟩ : ∃ y yo, Hid (byR f zs z = (y, yo)) := ⟨_, _, Hid.mk' rfl⟩
          clear q
          go_wp2_with (go_at_call 10; refine (byte_at _ B bm f ro rc zs hTy.out _ (by omega) (by omega) _ _ q0).mono ?_; rintro e w7 ⟨rfl, rfl⟩)
          go_region_with (go_at_call 11; refine (refbyte_at _ f _ sc zs (MemR.Bytes.drew hRy.out.row) hl'.out _ _ _ q0).mono ?_; rintro e w8 ⟨rfl, hg8⟩)
          all_goals go_wp2
          all_goals go_roundw
          all_goals first | exact ⟨j + 1, by omega, by go_num, Hid.mk' (grownBy_trans hgy.out (grownBy_of_drew hg8))⟩ | (simp [intOf]; omega)
        · obtain rfl : j = zs.length := by omega
          go_wp2
          go_ret
          exact ⟨rfl, grownBy_trans hg3.out hgy.out⟩
end Go.Proofs.YtkhndmphgcdffaaDoor.Dn

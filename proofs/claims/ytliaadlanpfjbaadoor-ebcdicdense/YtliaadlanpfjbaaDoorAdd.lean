/- A table's add: a walk. -/
import Derived.Test.YtliaadlanpfjbaaDoorTab
import Derived.Deep.QuietTactic
import Derived.BigQuiet
namespace Go.Proofs.YtliaadlanpfjbaaDoor.Dn
open Go.ChangeShapes Go.WideShapes Go.ChangeAt Go.RowKit Go.Maps Go.Proofs.YtliaadlanpfjbaaDoor.Mem Go.Proofs.YtliaadlanpfjbaaDoor.Ucs Go.Proofs.YtliaadlanpfjbaaDoor.U8
set_option linter.unusedVariables false

set_option maxRecDepth 100000 in
set_option maxHeartbeats 2000000 in
theorem add_no (w : World) (B bm f : Nat) (ro : Option Addr) (rc : Nat) (zs : List Int) (h : Tab w B bm f ro rc zs) (hf : f ≤ 255) (hl : zs.length ≤ 256) (hn : 255 < f + zs.length) (z : Int) :
    Calls Tryd.prog 15 #[.pointer (some ⟨B, 0, none⟩), .int .i32 z] w fun e w' => e = .returned (.bool false) ∧ w.grownBy w' none := by
  have c0 := h.c0
  have c1 := h.c1
  have h' := Hid.mk' h
  clear h
  generalize zs.length = N at *
  have d1 : (255 : Int) < (f : Int) + (N : Int) := by omega
  go_enter Tryd.func15, Tryd.ntmps15
  go_wp2
  go_quiet (fail)
  go_wp2
  go_ret
  exact ⟨rfl, ⟨rfl, rfl, rfl, Nat.le_refl _, fun _ _ _ => rfl⟩⟩

/-- What the new world is, ahead of the map. -/
structure Mid (w w2 : World) (B bm f : Nat) (ro : Option Addr) (ro' : Option Addr) (rc' : Nat) (zs : List Int) (z : Int) : Prop where
  blk : w2.heap[B]? = some (.cells #[.int .i64 (f : Int), .slice ro' (zs ++ [z]).length rc', .map (some bm)] 46 (0, 0))
  own : MemR.Own w2 ro' rc' (zs ++ [z])
  map : w2.heap[bm]? = w.heap[bm]?
  kept : Kept (fun k => k = B ∨ k = bm ∨ Mem.blk ro = some k) w w2
  at' : ro' = ro ∨ ∃ g, ro' = some ⟨g, 0, none⟩ ∧ w.heap.size ≤ g

theorem mid_of {w w0 w1 : World} {B bm f : Nat} {ro ro' : Option Addr} {rc rc' : Nat} {zs : List Int} {z : Int} (h : Tab w B bm f ro rc zs) (h0 : w.grownBy w0 none) (hg : w0.grownBy w1 (Mem.blk ro)) (ho : MemR.Own w1 ro' rc' (zs ++ [z])) (hat : ro' = ro ∨ ro' = some ⟨w0.heap.size, 0, none⟩) :
    w1.heap[B]? = some (.cells #[.int .i64 (f : Int), .slice ro zs.length rc, .map (some bm)] 46 (0, 0)) ∧ Mid w (w1.setCell ⟨B, 1, none⟩ (.slice ro' (zs.length + 1) rc')) B bm f ro ro' rc' zs z := by
  have hB0 : w0.heap[B]? = w.heap[B]? := h0.block B h.lt (by simp)
  have hm0 : w0.heap[bm]? = w.heap[bm]? := h0.block bm h.map.lt (by simp)
  have hB1 : w1.heap[B]? = w0.heap[B]? := hg.block B (Nat.lt_of_lt_of_le h.lt h0.size) (Ne.symm h.row_ne)
  have hm1 : w1.heap[bm]? = w0.heap[bm]? := hg.block bm (Nat.lt_of_lt_of_le h.map.lt h0.size) (Ne.symm h.row_map)
  have hb1 := (hB1.trans hB0).trans h.blk
  have hBne : Mem.blk ro' ≠ some B := by
    rcases hat with rfl | rfl
    · exact h.row_ne
    · intro e
      have e1 : w0.heap.size = B := Option.some.inj e
      have := h.lt
      have := h0.size
      omega
  refine ⟨hb1, ?_, ?_, ?_, ?_, ?_⟩
  · rw [block_set hb1]; simp
  · exact ho.kept (grownBy_setCell w1 ⟨B, 1, none⟩ _) (.inr hBne)
  · have : (w1.setCell ⟨B, 1, none⟩ (.slice ro' (zs.length + 1) rc')).heap[bm]? = w1.heap[bm]? := Below.heap_setCell _ _ _ _ h.map_ne
    rw [this, hm1, hm0]
  · have k1 : Kept (fun k => k = B ∨ k = bm ∨ Mem.blk ro = some k) w w1 := (Kept.of0 h0).trans (Kept.of hg) (fun j _ e => .inr (.inr e.symm))
    exact k1.trans (Kept.of (grownBy_setCell w1 ⟨B, 1, none⟩ _)) (fun j _ e => .inl (Option.some.inj e))
  · rcases hat with rfl | rfl
    · exact .inl rfl
    · exact .inr ⟨_, rfl, h0.size⟩
theorem Mid.c2 {w w2 : World} {B bm f : Nat} {ro ro' : Option Addr} {rc' : Nat} {zs : List Int} {z : Int} (h : Mid w w2 B bm f ro ro' rc' zs z) : w2.cell? ⟨B, 2, none⟩ = some (.map (some bm)) := cell_at h.blk 2 rfl
theorem Mid.tab {w w2 : World} {B bm f : Nat} {ro ro' : Option Addr} {rc rc' : Nat} {zs : List Int} {z : Int} (m : Mid w w2 B bm f ro ro' rc' zs z) (h : Tab w B bm f ro rc zs) (hz : (byR f zs z).2 = true ∨ z = 65533) : Tab w2 B bm f ro' rc' (zs ++ [z]) := by
  refine ⟨m.blk, m.own, ?_⟩
  obtain ⟨n, D, ho, hn, hD⟩ := h.map
  exact ⟨n, D, ownsMap_same ho m.map, by simp; omega, hD.same hz⟩
theorem Mid.tab_put {w w2 w3 : World} {B bm f : Nat} {ro ro' : Option Addr} {rc rc' n : Nat} {zs : List Int} {z : Int} {D : DataW Unit} (m : Mid w w2 B bm f ro ro' rc' zs z) (h : Tab w B bm f ro rc zs) (hz : z ≠ 65533) (hb : (byR f zs z).2 = false)
    (hn : n ≤ zs.length) (hD : Holds D f zs) (ho : w2.ownsMap Tryd.prog 21 (plainElem (H := Unit) Tryd.prog 5) bm n D) (ho3 : w3.ownsMap Tryd.prog 21 (plainElem (H := Unit) Tryd.prog 5) bm (n + 1) (D.put (.int .i32 z) (.lit (.int .u8 ((f : Int) + (zs.length : Int)))))) (hg : w2.grownBy w3 (some bm)) :
    Tab w3 B bm f ro' rc' (zs ++ [z]) ∧ Kept (fun k => k = B ∨ k = bm ∨ Mem.blk ro = some k) w w3 := by
  have hrm : Mem.blk ro' ≠ some bm := by
    rcases m.at' with e | ⟨g, e, hgs⟩
    · rw [e]; exact h.row_map
    · rw [e]; intro x
      have e1 : g = bm := Option.some.inj x
      have := h.map.lt
      omega
  refine ⟨⟨?_, ?_, ?_⟩, ?_⟩
  · rw [hg.block B (lt_of_block m.blk) (fun e => h.map_ne (Option.some.inj e).symm)]; exact m.blk
  · exact m.own.kept hg (.inr hrm)
  · exact ⟨n + 1, _, ho3, by simp; omega, hD.put ho.isMap hz hb⟩
  · exact m.kept.trans (Kept.of hg) (fun j _ e => .inr (.inl (Option.some.inj e)))

theorem at_of {w w0 : World} {ro ro' : Option Addr} (hG : w.grownBy w0 none) (h : ro' = ro ∨ ∃ g, ro' = some ⟨g, 0, none⟩ ∧ w0.heap.size ≤ g) : ro' = ro ∨ ∃ g, ro' = some ⟨g, 0, none⟩ ∧ w.heap.size ≤ g :=
  h.imp id (fun ⟨g, e, hg⟩ => ⟨g, e, Nat.le_trans hG.size hg⟩)
set_option maxRecDepth 100000 in
set_option maxHeartbeats 2000000 in
theorem add_yes (w : World) (B bm f : Nat) (ro : Option Addr) (rc : Nat) (zs : List Int) (h : Tab w B bm f ro rc zs) (hn : f + zs.length ≤ 255) (z : Int) (h0 : -2147483648 ≤ z) (h1 : z ≤ 2147483647) :
    Calls Tryd.prog 15 #[.pointer (some ⟨B, 0, none⟩), .int .i32 z] w fun e w' => e = .returned (.bool true) ∧ ∃ ro' rc', Tab w' B bm f ro' rc' (zs ++ [z]) ∧
      Kept (fun k => k = B ∨ k = bm ∨ Mem.blk ro = some k) w w' ∧ (ro' = ro ∨ ∃ g, ro' = some ⟨g, 0, none⟩ ∧ w.heap.size ≤ g) := by
  obtain ⟨i0, hi, hz0, hz1, hz2⟩ := info_parts info21
  have c0 := h.c0
  have c1 := h.c1
  obtain ⟨n, D, hown, hnl, hD⟩ := h.map
  have hh := (hD z).1
  have hown0 := Hid.mk' hown
  have hD0 := Hid.mk' hD
  have h' := Hid.mk' h
  have wf := Hid.mk' (wf32 h0 h1)
  clear hown h hD
  have d1 : (f : Int) + (zs.length : Int) ≤ 255 := by omega
  have hl : zs.length ≤ 255 := by omega
  cases hb : (byR f zs z).2
  · rw [hb] at hh
    by_cases hz : z = 65533
    · subst hz
      go_enter Tryd.func15, Tryd.ntmps15
      go_wp2
      go_quiet (fail)
      have hG : w.grownBy (w.drewN nq) none := ⟨rfl, rfl, rfl, Nat.le_refl _, fun _ _ _ => rfl⟩
      have hT := Hid.mk' (h'.out.kept0 hG)
      have hown1 := Hid.mk' (hown0.out.kept hG (by simp))
      generalize w.drewN nq = w0 at *
      have c1' := hT.out.c1
      go_wp2_with (first | (at_builtin; refine MemR.wpList_append_any _ rfl _ _ 31 31 rfl i0 Tryd.underlying31 hi hz0 hz1 hz2 ro rc zs rfl (hT.out.own.alloc _) _ rfl [65533] (MemR.src_of (own_rune w0 _) 31 1 Tryd.underlying31) (by simp; omega) (zs ++ [65533]) rfl ?_; intro ro' rc' w1 ho hg hat; obtain ⟨hb1, hm0⟩ := mid_of hT.out (World.grownBy_alloc _ _ _) hg ho hat; have hm := Hid.mk' hm0; have k1 := cell_at hb1 1 rfl; have k2 := cell_at hb1 2 rfl; have k3 := froz_at hb1 1; clear hm0 hb1 ho hg hat) | (at_lookup; refine wpList_lookup_own_ok_int _ rfl _ _ 44 rfl 21 5 .u8 law Tryd.underlying44 Tryd.underlying5 (zeroE _) bm n D rfl (ownsMap_same hown1.out hm.out.map) _ _ rfl (keyOf_int_mk Tryd.underlying21 wf.out) ?_; intro c hat2 hwc; clear hat2 hwc))
      go_ret
      exact ⟨rfl, ro', rc', hm.out.tab hT.out (.inr rfl), (Kept.of0 hG).trans hm.out.kept (fun _ _ e => e), at_of hG hm.out.at'⟩
    · have hz' : (z == 65533) = false := by simpa using hz
      have hz2' : (z != 65533) = true := by simpa using hz
      go_enter Tryd.func15, Tryd.ntmps15
      go_wp2
      go_quiet (fail)
      have hG : w.grownBy (w.drewN nq) none := ⟨rfl, rfl, rfl, Nat.le_refl _, fun _ _ _ => rfl⟩
      have hT := Hid.mk' (h'.out.kept0 hG)
      have hown1 := Hid.mk' (hown0.out.kept hG (by simp))
      generalize w.drewN nq = w0 at *
      have c1' := hT.out.c1
      go_wp2_with (first | (at_builtin; refine MemR.wpList_append_any _ rfl _ _ 31 31 rfl i0 Tryd.underlying31 hi hz0 hz1 hz2 ro rc zs rfl (hT.out.own.alloc _) _ rfl [z] (MemR.src_of (own_rune w0 _) 31 1 Tryd.underlying31) (by simp; omega) (zs ++ [z]) rfl ?_; intro ro' rc' w1 ho hg hat; obtain ⟨hb1, hm0⟩ := mid_of hT.out (World.grownBy_alloc _ _ _) hg ho hat; have hm := Hid.mk' hm0; have k1 := cell_at hb1 1 rfl; have k2 := cell_at hb1 2 rfl; have k3 := froz_at hb1 1; clear hm0 hb1 ho hg hat) | (at_lookup; refine wpList_lookup_own_ok_int _ rfl _ _ 44 rfl 21 5 .u8 law Tryd.underlying44 Tryd.underlying5 (zeroE _) bm n D rfl (ownsMap_same hown1.out hm.out.map) _ _ rfl (keyOf_int_mk Tryd.underlying21 wf.out) ?_; intro c hat2 hwc; clear hat2 hwc) | (at_mapUpdate; refine wpList_mapUpdate_own _ rfl _ _ _ 44 rfl 21 5 law Tryd.underlying44 _ bm n D rfl (ownsMap_same hown1.out hm.out.map) (by unfold maxLen; omega) _ _ (.int .i32 z) rfl rfl (keyOf_int_mk Tryd.underlying21 wf.out) _ [] (plainElem_int Tryd.underlying5 (wf8 (z := (f : Int) + (zs.length : Int)) (by omega) (by omega))) ?_; intro w3 hown3 hg3))
      go_ret
      obtain ⟨t1, t2⟩ := hm.out.tab_put hT.out hz hb hnl hD0.out (ownsMap_same hown1.out hm.out.map) hown3 hg3
      exact ⟨rfl, ro', rc', t1, (Kept.of0 hG).trans t2 (fun _ _ e => e), at_of hG hm.out.at'⟩
  · rw [hb] at hh
    have hx := Hid.mk' hb
    clear hb
    go_enter Tryd.func15, Tryd.ntmps15
    go_wp2
    go_quiet (fail)
    have hG : w.grownBy (w.drewN nq) none := ⟨rfl, rfl, rfl, Nat.le_refl _, fun _ _ _ => rfl⟩
    have hT := Hid.mk' (h'.out.kept0 hG)
    have hown1 := Hid.mk' (hown0.out.kept hG (by simp))
    generalize w.drewN nq = w0 at *
    have c1' := hT.out.c1
    go_wp2_with (first | (at_builtin; refine MemR.wpList_append_any _ rfl _ _ 31 31 rfl i0 Tryd.underlying31 hi hz0 hz1 hz2 ro rc zs rfl (hT.out.own.alloc _) _ rfl [z] (MemR.src_of (own_rune w0 _) 31 1 Tryd.underlying31) (by simp; omega) (zs ++ [z]) rfl ?_; intro ro' rc' w1 ho hg hat; obtain ⟨hb1, hm0⟩ := mid_of hT.out (World.grownBy_alloc _ _ _) hg ho hat; have hm := Hid.mk' hm0; have k1 := cell_at hb1 1 rfl; have k2 := cell_at hb1 2 rfl; have k3 := froz_at hb1 1; clear hm0 hb1 ho hg hat) | (at_lookup; refine wpList_lookup_own_ok_int _ rfl _ _ 44 rfl 21 5 .u8 law Tryd.underlying44 Tryd.underlying5 (zeroE _) bm n D rfl (ownsMap_same hown1.out hm.out.map) _ _ rfl (keyOf_int_mk Tryd.underlying21 wf.out) ?_; intro c hat2 hwc; clear hat2 hwc))
    go_ret
    exact ⟨rfl, ro', rc', hm.out.tab hT.out (.inl hx.out), (Kept.of0 hG).trans hm.out.kept (fun _ _ e => e), at_of hG hm.out.at'⟩
end Go.Proofs.YtliaadlanpfjbaaDoor.Dn

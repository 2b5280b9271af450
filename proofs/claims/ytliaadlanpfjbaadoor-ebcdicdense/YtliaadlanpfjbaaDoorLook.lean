/- What a table's calls answer that only read: walks. -/
import Derived.Test.YtliaadlanpfjbaaDoorTab
import Derived.Deep.QuietTactic
import Derived.BigQuiet
namespace Go.Proofs.YtliaadlanpfjbaaDoor.Dn
open Go.ChangeShapes Go.WideShapes Go.ChangeAt Go.RowKit Go.Maps Go.Proofs.YtliaadlanpfjbaaDoor.Mem Go.Proofs.YtliaadlanpfjbaaDoor.Ucs Go.Proofs.YtliaadlanpfjbaaDoor.U8
set_option linter.unusedVariables false

set_option maxRecDepth 100000 in
set_option maxHeartbeats 2000000 in
theorem scalar_at (w : World) (B bm f : Nat) (ro : Option Addr) (rc : Nat) (zs : List Int) (h : Tab w B bm f ro rc zs) (hf : f + zs.length ≤ 256) (b : Nat) (hb : b < 256) (x : Int) (ok : Bool) (hR : Hid (scR f zs b = (x, ok))) :
    Calls Tryd.prog 10 #[.pointer (some ⟨B, 0, none⟩), .int .u8 (b : Int)] w fun e w' => e = .returned (.tuple #[.int .i32 x, .bool ok]) ∧ w' = w := by
  have c0 := h.c0
  have c1 := h.c1
  by_cases h1 : f ≤ b
  · by_cases h2 : b - f < zs.length
    · obtain ⟨g, rfl⟩ : ∃ g, ro = some ⟨g, 0, none⟩ := by
        rcases h.own with ⟨_, _, hz⟩ | ⟨g, cur, hg, _⟩
        · subst hz; simp at h2
        · exact ⟨g, hg⟩
      have c3 := h.own.cell (b - f) h2
      have hR' := hR.out
      rw [scR_at h1 h2] at hR'
      obtain ⟨j, hj⟩ : ∃ j, j = b - f := ⟨_, rfl⟩
      have e1 : (b : Int) - (f : Int) = (j : Int) := by omega
      subst hj
      generalize zs[b - f] = z at c3 hR'
      generalize b - f = j at *
      generalize hN : zs.length = N at *
      have d1 : ¬ ((j : Int) < 0) := by omega
      have d2 : (j : Int) < (N : Int) := by omega
      have h' := Hid.mk' h
      clear h hR
      by_cases hz : z = 65533
      · subst hz
        rw [if_pos rfl] at hR'
        cases hR'
        go_enter Tryd.func10, Tryd.ntmps10
        go_wp2
        go_ret2
        exact ⟨rfl, rfl⟩
      · rw [if_neg hz] at hR'
        cases hR'
        have hz' : (x == 65533) = false := by simpa using hz
        go_enter Tryd.func10, Tryd.ntmps10
        go_wp2
        go_ret2
        exact ⟨rfl, rfl⟩
    · have hR' := hR.out
      rw [scR_behind h1 (by omega)] at hR'
      cases hR'
      generalize hN : zs.length = N at *
      obtain ⟨j, hj⟩ : ∃ j, j = b - f := ⟨_, rfl⟩
      have e1 : (b : Int) - (f : Int) = (j : Int) := by omega
      have d1 : ¬ ((j : Int) < 0) := by omega
      have d2 : (N : Int) ≤ (j : Int) := by omega
      have h' := Hid.mk' h
      clear h hR
      go_enter Tryd.func10, Tryd.ntmps10
      go_wp2
      go_ret2
      exact ⟨rfl, rfl⟩
  · have hR' := hR.out
    rw [scR_below zs (by omega)] at hR'
    cases hR'
    have d1 : (b : Int) - (f : Int) < 0 := by omega
    have h' := Hid.mk' h
    clear h hR
    go_enter Tryd.func10, Tryd.ntmps10
    go_wp2
    go_ret2
    exact ⟨rfl, rfl⟩

set_option maxRecDepth 100000 in
set_option maxHeartbeats 2000000 in
theorem byte_at (w : World) (B bm f : Nat) (ro : Option Addr) (rc : Nat) (zs : List Int) (h : Tab w B bm f ro rc zs) (u : Int) (h0 : -2147483648 ≤ u) (h1 : u ≤ 2147483647) (x : Int) (ok : Bool) (hR : Hid (byR f zs u = (x, ok))) :
    Calls Tryd.prog 12 #[.pointer (some ⟨B, 0, none⟩), .int .i32 u] w fun e w' => e = .returned (.tuple #[.int .u8 x, .bool ok]) ∧ w' = w := by
  have c2 := h.c2
  obtain ⟨n, D, hown, _, hD⟩ := h.map
  obtain ⟨hh, ha⟩ := hD u
  rw [hR.out] at hh ha
  simp only at hh ha
  have hown0 := Hid.mk' hown
  have ha0 := Hid.mk' ha
  have h' := Hid.mk' h
  have wf := Hid.mk' (wf32 h0 h1)
  clear hown ha h hR hD
  go_enter Tryd.func12, Tryd.ntmps12
  go_wp2_with (at_lookup; refine wpList_lookup_own_ok_int _ rfl _ _ 44 rfl 21 5 .u8 law Tryd.underlying44 Tryd.underlying5 (zeroE _) bm n D rfl hown0.out _ _ rfl (keyOf_int_mk Tryd.underlying21 wf.out) ?_; intro c hat hwc; have hc : c = x := (by have := hat.symm.trans ha0.out; simpa using this); clear hat hwc)
  subst hc
  go_ret2
  exact ⟨rfl, rfl⟩
end Go.Proofs.YtliaadlanpfjbaaDoor.Dn

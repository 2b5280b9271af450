/- The document's New: a walk. -/
import Derived.Test.YtkhndmphgcdffaaDoorRefT
namespace Go.Proofs.YtkhndmphgcdffaaDoor.Dn
open Go.ChangeShapes Go.WideShapes Go.ChangeAt Go.RowKit Go.Maps Go.Proofs.YtkhndmphgcdffaaDoor.Mem Go.Proofs.YtkhndmphgcdffaaDoor.Ucs Go.Proofs.YtkhndmphgcdffaaDoor.U8
set_option linter.unusedVariables false
theorem refscalars_at (ao : Option Addr) (n cap : Nat) (L : List UInt8) (w : World) (hB : Bytes w ao L) (hn : L.length = n) (hl : n ≤ 100000) (hc : n ≤ cap) (hcm : cap ≤ 9223372036854775807)
    (E : Int) (N : Nat) (U : List Nat) (hE : Hid (scanAll L = (U, N, E))) :
    Calls Tryd.prog 16 #[.slice ao n cap] w fun e w' => ∃ ro rc, e = .returned (.tuple #[.slice ro U.length rc, .int .i64 (N : Int), .int .i64 E]) ∧ MemR.Bytes w' ro (ints U) ∧ w.grownBy w' none := by
  subst hn
  exact refscalars_any ao cap L w hB hl hc hcm E N U hE

theorem runes_aside {w w' : World} {ro : Option Addr} {l : List Int} {R : Nat} {cs : Array Value} {t : TypeId} {fr : Nat × Nat} (h : MemR.Bytes w ro l) (hR : w.heap[R]? = some (.cells cs t fr)) (hn : ∀ (j : Nat) (z : Int), cs[j]? ≠ some (.int .i32 z)) (hg : w.grownBy w' (some R)) : MemR.Bytes w' ro l := by
  by_cases hp : l = []
  · subst hp
    cases ro with
    | none => exact .inl ⟨rfl, rfl⟩
    | some a => exact .inr ⟨a, rfl, fun j hj => by simp at hj⟩
  · obtain ⟨b, o, rfl, hc⟩ := runes_cell h hp
    have hl : 0 < l.length := List.length_pos_iff.2 hp
    refine h.kept hg (.inr ?_)
    intro e
    obtain rfl : b = R := Option.some.inj e
    have := hc 0 hl
    simp [World.cell?, hR] at this
    exact hn _ _ this
set_option maxRecDepth 100000 in
set_option maxHeartbeats 400000 in
theorem refnew_yes (f : Nat) (hf : f ≤ 255) (us : List Nat) (hsc : Sc us) (s : ByteArray) (hss : s.toList = units us) (hs : s.size ≤ 100000) (w : World) (hl : f + us.length ≤ 256) :
    Calls Tryd.prog 7 #[.int .i64 (f : Int), .string s] w fun e w' => ∃ ro rc, e = .returned (.tuple #[rtV f ro (ints us).length rc, .int .i64 0]) ∧ MemR.Bytes w' ro (ints us) ∧ w.grownBy w' none := by
  obtain ⟨c, w1, hconv, hB, hg, hc1, hc2⟩ := conv_new (P := Tryd.prog) (w.alloc (.cells #[.int .i64 0, .slice none 0 0] 28)) 9 41 s Tryd.underlying9 Tryd.underlying41 Tryd.underlying5 (by omega)
  have ez : (w.alloc (.cells #[.int .i64 0, .slice none 0 0] 28)).heap.size = w.heap.size + 1 := by simp
  rw [ez] at hconv hB
  clear ez
  have hB1 := Hid.mk' hB
  have hg0 := Hid.mk' (grownBy_trans (World.grownBy_alloc w _ _) hg)
  have hr0 := Hid.mk' ((hg.block w.heap.size (by simp) (by simp)).trans (heap_alloc_new w (.cells #[.int .i64 0, .slice none 0 0] 28)))
  have hscan := scan_units us [] hsc
  rw [List.append_nil, scanAll_nil, List.append_nil, ← hss, Nat.add_zero] at hscan
  have hsc0 := Hid.mk' hscan
  have hlen : Hid (s.toList.length = s.size) := by show s.toList.length = s.size; rw [ByteArray.toList_eq, Array.length_toList]; rfl
  clear hB hg hscan hss
  have f1 : decide ((f : Int) < 0) = false := decide_eq_false (by omega)
  have f2 : decide (255 < (f : Int)) = false := decide_eq_false (by omega)
  go_enter Tryd.func7, Tryd.ntmps7
  go_wp2_with (go_at_call 16; refine (refscalars_at _ _ _ s.toList _ hB1.out hlen.out (by omega) hc1 hc2 _ _ _ hsc0).mono ?_; rintro e w2 ⟨ro, rc, rfl, hb2, hg2⟩; have hr2 := (hg2.block _ (lt_of_block hr0.out) (by simp)).trans hr0.out; have k0 := froz_at hr2 0; have k1 := froz_at hr2 1; have k2 := cell_at hr2 0 rfl; have k3 := cell_at hr2 1 rfl; have hr2' := Hid.mk' hr2; have hb2' := Hid.mk' hb2; have hg2' := Hid.mk' hg2; clear hb2 hg2 hr2)
  have hr3 := block_set (block_set hr2'.out 0 (.int .i64 (f : Int))) 1 (.slice ro us.length rc)
  have q0 := cell_at hr3 0 (v := .int .i64 (f : Int)) (by simp)
  have q1 := cell_at hr3 1 (v := .slice ro us.length rc) (by simp)
  have hgs : w2.grownBy ((w2.setCell ⟨w.heap.size, 0, none⟩ (.int .i64 (f : Int))).setCell ⟨w.heap.size, 1, none⟩ (.slice ro us.length rc)) (some w.heap.size) := grownBy_trans (grownBy_setCell _ _ _) (grownBy_setCell _ ⟨w.heap.size, 1, none⟩ _)
  refine bodyPost_ret (v := .tuple #[rtV f ro us.length rc, .int .i64 0]) (by simp [results, Tryd.results7, go_sem, q0, q1]) rfl ⟨ro, rc, by simp [ints], ?_, ?_⟩
  · exact runes_aside hb2'.out hr2'.out (by intro j z; rcases j with _ | _ | j <;> simp) hgs
  · exact sets_new (grownBy_trans hg0.out hg2'.out) (Nat.le_refl _) hgs

set_option maxRecDepth 100000 in
set_option maxHeartbeats 400000 in
theorem refnew_bad (f : Nat) (hf : f ≤ 255) (s : ByteArray) (hs : s.size ≤ 100000) (h : (scanAll s.toList).2.2 ≠ 0) (w : World) :
    Calls Tryd.prog 7 #[.int .i64 (f : Int), .string s] w fun e w' => e = .returned (.tuple #[rtV 0 none 0 0, .int .i64 3]) ∧ w.grownBy w' none := by
  obtain ⟨c, w1, hconv, hB, hg, hc1, hc2⟩ := conv_new (P := Tryd.prog) (w.alloc (.cells #[.int .i64 0, .slice none 0 0] 28)) 9 41 s Tryd.underlying9 Tryd.underlying41 Tryd.underlying5 (by omega)
  have ez : (w.alloc (.cells #[.int .i64 0, .slice none 0 0] 28)).heap.size = w.heap.size + 1 := by simp
  rw [ez] at hconv hB
  clear ez
  have hB1 := Hid.mk' hB
  have hg0 := Hid.mk' (grownBy_trans (World.grownBy_alloc w _ _) hg)
  have hr0 := Hid.mk' ((hg.block w.heap.size (by simp) (by simp)).trans (heap_alloc_new w (.cells #[.int .i64 0, .slice none 0 0] 28)))
  have hlen : Hid (s.toList.length = s.size) := by show s.toList.length = s.size; rw [ByteArray.toList_eq, Array.length_toList]; rfl
  obtain ⟨U, N, E, hsc0⟩ : ∃ U N E, Hid (scanAll s.toList = (U, N, E)) := ⟨_, _, _, Hid.mk' rfl⟩
  rw [hsc0.out] at h
  have he1 : (E == 0) = false := by simpa using h
  have he2 : (E != 0) = true := by simpa using h
  clear hB hg h
  have f1 : decide ((f : Int) < 0) = false := decide_eq_false (by omega)
  have f2 : decide (255 < (f : Int)) = false := decide_eq_false (by omega)
  go_enter Tryd.func7, Tryd.ntmps7
  go_wp2_with (go_at_call 16; refine (refscalars_at _ _ _ s.toList _ hB1.out hlen.out (by omega) hc1 hc2 _ _ _ hsc0).mono ?_; rintro e w2 ⟨ro, rc, rfl, hb2, hg2⟩; have hr2 := (hg2.block _ (lt_of_block hr0.out) (by simp)).trans hr0.out; have k0 := froz_at hr2 0; have k1 := froz_at hr2 1; have k2 := cell_at hr2 0 rfl; have k3 := cell_at hr2 1 rfl; have hr2' := Hid.mk' hr2; have hb2' := Hid.mk' hb2; have hg2' := Hid.mk' hg2; clear hb2 hg2 hr2)
  have hr3 := block_set (block_set hr2'.out 0 (.int .i64 0)) 1 (.slice none 0 0)
  have q0 := cell_at hr3 0 (v := .int .i64 0) (by simp)
  have q1 := cell_at hr3 1 (v := .slice none 0 0) (by simp)
  have hgs : w2.grownBy ((w2.setCell ⟨w.heap.size, 0, none⟩ (.int .i64 0)).setCell ⟨w.heap.size, 1, none⟩ (.slice none 0 0)) (some w.heap.size) := grownBy_trans (grownBy_setCell _ _ _) (grownBy_setCell _ ⟨w.heap.size, 1, none⟩ _)
  refine bodyPost_ret (v := .tuple #[rtV 0 none 0 0, .int .i64 3]) (by simp [results, Tryd.results7, go_sem, q0, q1]) rfl ⟨rfl, ?_⟩
  exact sets_new (grownBy_trans hg0.out hg2'.out) (Nat.le_refl _) hgs

set_option maxRecDepth 100000 in
set_option maxHeartbeats 400000 in
theorem refnew_long (f : Nat) (hf : f ≤ 255) (s : ByteArray) (hs : s.size ≤ 100000) (h : (scanAll s.toList).2.2 = 0) (h2 : 256 < f + (scanAll s.toList).1.length) (w : World) :
    Calls Tryd.prog 7 #[.int .i64 (f : Int), .string s] w fun e w' => e = .returned (.tuple #[rtV 0 none 0 0, .int .i64 8]) ∧ w.grownBy w' none := by
  obtain ⟨c, w1, hconv, hB, hg, hc1, hc2⟩ := conv_new (P := Tryd.prog) (w.alloc (.cells #[.int .i64 0, .slice none 0 0] 28)) 9 41 s Tryd.underlying9 Tryd.underlying41 Tryd.underlying5 (by omega)
  have ez : (w.alloc (.cells #[.int .i64 0, .slice none 0 0] 28)).heap.size = w.heap.size + 1 := by simp
  rw [ez] at hconv hB
  clear ez
  have hB1 := Hid.mk' hB
  have hg0 := Hid.mk' (grownBy_trans (World.grownBy_alloc w _ _) hg)
  have hr0 := Hid.mk' ((hg.block w.heap.size (by simp) (by simp)).trans (heap_alloc_new w (.cells #[.int .i64 0, .slice none 0 0] 28)))
  have hlen : Hid (s.toList.length = s.size) := by show s.toList.length = s.size; rw [ByteArray.toList_eq, Array.length_toList]; rfl
  obtain ⟨U, N, E, hsc0⟩ : ∃ U N E, Hid (scanAll s.toList = (U, N, E)) := ⟨_, _, _, Hid.mk' rfl⟩
  rw [hsc0.out] at h h2
  simp only at h h2
  subst h
  have d1 : 256 - (f : Int) < (U.length : Int) := by omega
  have hUl : U.length ≤ 100000 := by
    have := (scan_le s.toList.length s.toList (Nat.le_refl _)).2.1
    rw [hsc0.out, hlen.out] at this
    simp only at this
    omega
  clear hB hg h2
  have f1 : decide ((f : Int) < 0) = false := decide_eq_false (by omega)
  have f2 : decide (255 < (f : Int)) = false := decide_eq_false (by omega)
  go_enter Tryd.func7, Tryd.ntmps7
  go_wp2_with (go_at_call 16; refine (refscalars_at _ _ _ s.toList _ hB1.out hlen.out (by omega) hc1 hc2 _ _ _ hsc0).mono ?_; rintro e w2 ⟨ro, rc, rfl, hb2, hg2⟩; have hr2 := (hg2.block _ (lt_of_block hr0.out) (by simp)).trans hr0.out; have k0 := froz_at hr2 0; have k1 := froz_at hr2 1; have k2 := cell_at hr2 0 rfl; have k3 := cell_at hr2 1 rfl; have hr2' := Hid.mk' hr2; have hb2' := Hid.mk' hb2; have hg2' := Hid.mk' hg2; clear hb2 hg2 hr2)
  have hr3 := block_set (block_set hr2'.out 0 (.int .i64 0)) 1 (.slice none 0 0)
  have q0 := cell_at hr3 0 (v := .int .i64 0) (by simp)
  have q1 := cell_at hr3 1 (v := .slice none 0 0) (by simp)
  have hgs : w2.grownBy ((w2.setCell ⟨w.heap.size, 0, none⟩ (.int .i64 0)).setCell ⟨w.heap.size, 1, none⟩ (.slice none 0 0)) (some w.heap.size) := grownBy_trans (grownBy_setCell _ _ _) (grownBy_setCell _ ⟨w.heap.size, 1, none⟩ _)
  refine bodyPost_ret (v := .tuple #[rtV 0 none 0 0, .int .i64 8]) (by simp [results, Tryd.results7, go_sem, q0, q1]) rfl ⟨rfl, ?_⟩
  exact sets_new (grownBy_trans hg0.out hg2'.out) (Nat.le_refl _) hgs

set_option maxRecDepth 100000 in
set_option maxHeartbeats 400000 in
theorem refnew_range (fi : Int) (s : ByteArray) (h : fi < 0 ∨ 255 < fi) (w : World) :
    Calls Tryd.prog 7 #[.int .i64 fi, .string s] w fun e w' => e = .returned (.tuple #[rtV 0 none 0 0, .int .i64 2]) ∧ w.grownBy w' none := by
  rcases h with h | h
  · go_enter Tryd.func7, Tryd.ntmps7
    go_wp2
    refine bodyPost_ret (v := .tuple #[rtV 0 none 0 0, .int .i64 2]) (by simp [results, Tryd.results7, go_sem]) rfl ⟨rfl, World.grownBy_alloc _ _ _⟩
  · have h1 : 0 ≤ fi := by omega
    have h2 : decide (fi < 0) = false := decide_eq_false (by omega)
    go_enter Tryd.func7, Tryd.ntmps7
    go_wp2
    refine bodyPost_ret (v := .tuple #[rtV 0 none 0 0, .int .i64 2]) (by simp [results, Tryd.results7, go_sem]) rfl ⟨rfl, World.grownBy_alloc _ _ _⟩
theorem refnew_no (fi : Int) (s : ByteArray) (hs : s.size ≤ 100000) (w : World) (E : Int) (hE : newE fi s.toList = E) (hne : E ≠ 0) :
    Calls Tryd.prog 7 #[.int .i64 fi, .string s] w fun e w' => e = .returned (.tuple #[rtV 0 none 0 0, .int .i64 E]) ∧ w.grownBy w' none := by
  unfold newE at hE
  split at hE
  · rename_i h1
    subst hE
    exact refnew_range fi s h1 w
  · rename_i h1
    obtain ⟨f, rfl⟩ : ∃ f : Nat, fi = (f : Int) := ⟨fi.toNat, by omega⟩
    split at hE
    · rename_i h2
      subst hE
      exact refnew_bad f (by omega) s hs h2 w
    · rename_i h2
      split at hE
      · rename_i h3
        subst hE
        exact refnew_long f (by omega) s hs (Decidable.not_not.1 h2) (by omega) w
      · exact absurd hE.symm hne
end Go.Proofs.YtkhndmphgcdffaaDoor.Dn

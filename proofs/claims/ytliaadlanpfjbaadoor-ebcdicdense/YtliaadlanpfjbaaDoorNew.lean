/- dense.New: a walk. -/
import Derived.Test.YtliaadlanpfjbaaDoorAdd
import Derived.Test.YtliaadlanpfjbaaDoorValid
import Derived.Test.YtliaadlanpfjbaaDoorConv
namespace Go.Proofs.YtliaadlanpfjbaaDoor.Dn
open Go.ChangeShapes Go.WideShapes Go.ChangeAt Go.RowKit Go.Maps Go.Proofs.YtliaadlanpfjbaaDoor.Mem Go.Proofs.YtliaadlanpfjbaaDoor.Ucs Go.Proofs.YtliaadlanpfjbaaDoor.U8
set_option linter.unusedVariables false

theorem valid_at (ao : Option Addr) (m cap : Nat) (L : List UInt8) (w : World) (hF : Forms w) (hB : Bytes w ao L) (hm : L.length = m) (hl : m ≤ 1000000) (hc : m ≤ cap) (hcm : cap ≤ 9223372036854775807)
    (n : Nat) (ok : Bool) (hn : Hid ((scanAll L).2.1 = n)) (hok : Hid (decide ((scanAll L).2.2 = 0) = ok)) :
    Calls Tryd.prog 14 #[.slice ao m cap] w fun e w' => e = .returned (.tuple #[.int .i64 (n : Int), .bool ok]) ∧ w.grownBy w' none := by
  subst hm
  exact valid_any ao cap L w hF hB (by omega) hc hcm n ok hn hok

/-- The error that New answers. -/
def newE (fi : Int) (L : List UInt8) : Int := if fi < 0 ∨ 255 < fi then 2 else if (scanAll L).2.2 ≠ 0 then 3 else if 256 < fi + ((scanAll L).1.length : Int) then 8 else 0

theorem keptIter (w : World) (K : Nat) (s : ByteArray) (p : Nat) : Kept (fun k => k = K) w (w.iterAt K s p) :=
  ⟨rfl, rfl, rfl, by rw [Lib.iterAt_size]; exact Nat.le_refl _, fun i _ hi => Lib.iterAt_other w K i s p hi⟩

set_option maxRecDepth 100000 in
set_option maxHeartbeats 2000000 in
theorem new_range (fi : Int) (s : ByteArray) (w : World) (h : fi < 0 ∨ 255 < fi) :
    Calls Tryd.prog 6 #[.int .i64 fi, .string s] w fun e w' => e = .returned (.tuple #[.pointer none, .int .i64 2]) ∧ w' = w := by
  rcases h with h | h
  · go_enter Tryd.func6, Tryd.ntmps6
    go_wp2
    go_ret2
    exact ⟨rfl, rfl⟩
  · have h' : ¬ fi < 0 := by omega
    go_enter Tryd.func6, Tryd.ntmps6
    go_wp2
    go_ret2
    exact ⟨rfl, rfl⟩

set_option maxRecDepth 100000 in
set_option maxHeartbeats 2000000 in
theorem new_bad (f : Nat) (hf : f ≤ 255) (s : ByteArray) (hs : s.size ≤ 100000) (w : World) (hF : Forms w) (h : (scanAll s.toList).2.2 ≠ 0) :
    Calls Tryd.prog 6 #[.int .i64 (f : Int), .string s] w fun e w' => e = .returned (.tuple #[.pointer none, .int .i64 3]) ∧ w.grownBy w' none := by
  obtain ⟨c, w1, hconv, hB, hg, hc1, hc2⟩ := conv_new (P := Tryd.prog) w 9 43 s Tryd.underlying9 Tryd.underlying43 Tryd.underlying5 (by omega)
  have hF1 := Hid.mk' (hF.kept0 hg)
  have hB1 := Hid.mk' hB
  have hg0 := Hid.mk' hg
  have hok : Hid (decide ((scanAll s.toList).2.2 = 0) = false) := decide_eq_false h
  have hlen : Hid (s.toList.length = s.size) := by show s.toList.length = s.size; rw [ByteArray.toList_eq, Array.length_toList]; rfl
  clear hF hB hg h
  go_enter Tryd.func6, Tryd.ntmps6
  go_wp2_with (go_at_call 14; refine (valid_at _ _ _ s.toList _ hF1.out hB1.out hlen.out (by omega) hc1 hc2 _ false (Hid.mk' rfl) hok).mono ?_; rintro e w2 ⟨rfl, hg2⟩)
  go_ret2
  exact ⟨rfl, grownBy_trans hg0.out hg2⟩

/-- The world at the loop's beginning. -/
abbrev made (w : World) (f : Nat) (s : ByteArray) : World := ((w.alloc (.map #[] 0)).alloc (.cells #[.int .i64 (f : Int), .slice none 0 0, .map (some w.heap.size)] 46)).iter s 0
theorem made_at (w : World) (f : Nat) (s : ByteArray) : (made w f s).heap[w.heap.size]? = some (.map #[] 0) ∧ (made w f s).heap[w.heap.size + 1]? = some (.cells #[.int .i64 (f : Int), .slice none 0 0, .map (some w.heap.size)] 46 (0, 0)) ∧ (made w f s).heap[w.heap.size + 1 + 1]? = some (.stringIter s 0) := by
  have e1 : (w.alloc (.map #[] 0)).heap.size = w.heap.size + 1 := by simp
  have a1 := heap_alloc_new w (.map #[] 0)
  have a2 := heap_alloc_new (w.alloc (.map #[] 0)) (.cells #[.int .i64 (f : Int), .slice none 0 0, .map (some w.heap.size)] 46)
  rw [e1] at a2
  have b1 := Below.heap_alloc (w.alloc (.map #[] 0)) (.cells #[.int .i64 (f : Int), .slice none 0 0, .map (some w.heap.size)] 46) w.heap.size (by omega)
  have e2 : ((w.alloc (.map #[] 0)).alloc (.cells #[.int .i64 (f : Int), .slice none 0 0, .map (some w.heap.size)] 46)).heap.size = w.heap.size + 1 + 1 := by simp
  have a3 := World.iter_heap ((w.alloc (.map #[] 0)).alloc (.cells #[.int .i64 (f : Int), .slice none 0 0, .map (some w.heap.size)] 46)) s 0
  rw [e2] at a3
  refine ⟨?_, ?_, a3⟩
  · refine (Below.heap_alloc _ (.stringIter s 0) w.heap.size (by omega)).trans (b1.trans a1)
  · exact (Below.heap_alloc _ (.stringIter s 0) (w.heap.size + 1) (by omega)).trans a2
theorem iter_made (w : World) (f : Nat) (s : ByteArray) : (made w f s).heap[w.heap.size + 1 + 1]? = some (.stringIter s 0) := (made_at w f s).2.2
theorem tab_made (w : World) (f : Nat) (s : ByteArray) : Tab (made w f s) (w.heap.size + 1) w.heap.size f none 0 [] := by
  obtain ⟨h1, h2, h3⟩ := made_at w f s
  refine ⟨h2, .inl ⟨rfl, rfl, rfl⟩, 0, .map [], ?_, Nat.le_refl _, Holds.made f⟩
  exact ownsMap_same (World.ownsMap_made w Tryd.prog 21 (plainElem (H := Unit) Tryd.prog 5)) (h1.trans (heap_alloc_new w _).symm)
theorem grown_made (w : World) (f : Nat) (s : ByteArray) : w.grownBy (made w f s) none := grownBy_trans (World.grownBy_alloc _ _ _) (grownBy_trans (World.grownBy_alloc _ _ _) (World.grownBy_alloc _ _ _))

set_option maxRecDepth 100000 in
set_option maxHeartbeats 2000000 in
theorem new_yes (f : Nat) (hf : f ≤ 255) (us : List Nat) (hsc : Sc us) (s : ByteArray) (hss : s.toList = units us) (hs : s.size ≤ 100000) (w : World) (hF : Forms w) (hl : f + us.length ≤ 256) :
    Calls Tryd.prog 6 #[.int .i64 (f : Int), .string s] w fun e w' => ∃ B bm ro rc, e = .returned (.tuple #[.pointer (some ⟨B, 0, none⟩), .int .i64 0]) ∧ Tab w' B bm f ro rc (ints us) ∧ w.grownBy w' none := by
  obtain ⟨c, w1, hconv, hB, hg, hc1, hc2⟩ := conv_new (P := Tryd.prog) w 9 43 s Tryd.underlying9 Tryd.underlying43 Tryd.underlying5 (by omega)
  have hF1 := Hid.mk' (hF.kept0 hg)
  have hB1 := Hid.mk' hB
  have hg0 := Hid.mk' hg
  have hscan := scan_units us [] hsc
  rw [List.append_nil, scanAll_nil, List.append_nil, ← hss] at hscan
  have hok : Hid (decide ((scanAll s.toList).2.2 = 0) = true) := decide_eq_true (by rw [hscan])
  have hlen : Hid (s.toList.length = s.size) := by show s.toList.length = s.size; rw [ByteArray.toList_eq, Array.length_toList]; rfl
  have hss0 := Hid.mk' hss
  clear hF hB hg hscan hss
  have hmm := @run_makeMap Tryd.prog
  have f1 : decide ((f : Int) < 0) = false := decide_eq_false (by omega)
  have f2 : decide (255 < (f : Int)) = false := decide_eq_false (by omega)
  obtain ⟨vn, hvn⟩ : ∃ vn, Hid ((scanAll s.toList).2.1 = vn) := ⟨_, rfl⟩
  go_enter Tryd.func6, Tryd.ntmps6
  go_wp2_with (go_at_call 14; refine (valid_at _ _ _ s.toList _ hF1.out hB1.out hlen.out (by omega) hc1 hc2 vn true hvn hok).mono ?_; rintro e w2 ⟨rfl, hg2⟩)
  have hgw := Hid.mk' (grownBy_trans hg0.out hg2)
  have hT0 := Hid.mk' (tab_made w2 f s)
  have hI0 := Hid.mk' (iter_made w2 f s)
  have hG0 := Hid.mk' (grown_made w2 f s)
  clear hconv hF1 hB1 hg0 hok hg2 hmm hvn
  obtain ⟨B, hB⟩ : ∃ B, Hid (w2.heap.size + 1 = B) := ⟨_, rfl⟩
  rw [hB.out]
  go_loopw [10] (fun _ wr => Hid (∃ (p : Nat) (us1 us2 : List Nat) (ro : Option Addr) (rc : Nat), us = us1 ++ us2 ∧ p = (units us1).length ∧ wr.heap[B + 1]? = some (.stringIter s p) ∧ Tab wr B w2.heap.size f ro rc (ints us1) ∧ w2.grownBy wr none ∧ ∀ g, Mem.blk ro = some g → w2.heap.size ≤ g)) (fun _ wr => s.size - wr.iterPos (B + 1))
  case atStart => exact Hid.mk' ⟨0, [], us, none, 0, by simp, rfl, (by have := hI0.out; rwa [hB.out] at this), (by have := hT0.out; rwa [hB.out] at this), hG0.out, by simp [Mem.blk]⟩
  case round =>
    clear hT0 hI0 hG0
    obtain ⟨p, us1, us2, ro, rc, hu, hp, hk, hT, hgr, hro⟩ := hrel.out
    clear hrel
    cases us2 with
    | nil =>
      have hend : ¬ p < s.size := by
        rw [hp, ← hlen.out, hss0.out, hu, List.append_nil]; omega
      have hnx : ∀ ty, (Instr.next (.pointer (some ⟨B + 1, 0, none⟩)) true ty).run Tryd.prog wr = .ok (.tuple #[.bool false]) wr := fun ty => Lib.run_next_end_at wr (B + 1) s p ty hk hend
      have hfin := Hid.mk' (show Tab wr B w2.heap.size f ro rc (ints us) by rw [hu, List.append_nil]; exact hT)
      have hgr0 := Hid.mk' hgr
      clear hend hk hT hgr hro hp hu
      go_wp2
      go_ret2
      exact ⟨B, w2.heap.size, ro, rc, rfl, hfin.out, grownBy_trans hgw.out hgr0.out⟩
    | cons u us2 =>
      have hd : s.data.toList.drop p = unit u ++ units us2 := by rw [← ByteArray.toList_eq, hss0.out, hu, units_append, hp, List.drop_left, units_cons]
      have hsu : scB (u : Int) = true := hsc u (by rw [hu]; simp)
      have hub := sc_le hsu
      have hdec := decode_unit s p u (units us2) hd hsu
      have hlt : p < s.size := by
        have h1 : s.data.toList.length = s.size := by rw [Array.length_toList]; rfl
        have h2 := congrArg List.length hd
        rw [List.length_drop, List.length_append, h1] at h2
        have := unit_pos u
        omega
      have hnx : ∀ ty, (Instr.next (.pointer (some ⟨B + 1, 0, none⟩)) true ty).run Tryd.prog wr = .ok (.tuple #[.bool true, .int .i64 p, .int .i32 (u : Int)]) (wr.iterAt (B + 1) s (p + (unit u).length)) := by
        intro ty
        rw [Lib.run_next_any_at wr (B + 1) s p ty hk hlt, hdec]
      have hk2 := Hid.mk' (Lib.iterAt_heap wr (B + 1) s p (p + (unit u).length) hk)
      obtain ⟨n1, n2, n3⟩ := hT.iter_ne hk
      have hkp := keptIter wr (B + 1) s (p + (unit u).length)
      have hT2 := Hid.mk' (hT.keptS hkp (fun e => n1 e.symm) (fun e => n2 e.symm) (fun g e x => n3 (by rw [e, x])))
      have hKlt := lt_of_block hk
      have hkp0 := Hid.mk' hkp
      have hk0 := Hid.mk' hk
      have hro0 := Hid.mk' hro
      have hgr0 := Hid.mk' hgr
      have hu0 := Hid.mk' hu
      have hp0 := Hid.mk' hp
      have hne0 := Hid.mk' (show B + 1 ≠ B ∧ B + 1 ≠ w2.heap.size ∧ Mem.blk ro ≠ some (B + 1) from ⟨n1, n2, n3⟩)
      have hlen1 : f + us1.length ≤ 255 := by have := hl; rw [hu] at this; simp at this; omega
      clear hT hkp hk hro hgr hu hp n1 n2 n3 hd hdec hsu hKlt
      generalize wr.iterAt (B + 1) s (p + (unit u).length) = wi at *
      go_wp2_with (go_at_call 15; refine (add_yes _ B _ f ro rc (ints us1) hT2.out (by simpa [ints] using hlen1) (u : Int) (by omega) (by omega)).mono ?_; rintro e w3 ⟨rfl, ro', rc', hT3, hk3, hat3⟩)
      have hk4 : Hid (w3.heap[B + 1]? = some (.stringIter s (p + (unit u).length))) := Hid.mk' ((hk3.block (B + 1) (lt_of_block hk2.out) (by
        rintro (e | e | e)
        · exact hne0.out.1 e
        · exact hne0.out.2.1 e
        · exact hne0.out.2.2 e)).trans hk2.out)
      go_roundw
      case rel =>
        refine Hid.mk' ⟨p + (unit u).length, us1 ++ [u], us2, ro', rc', by rw [hu0.out]; simp, by rw [units_append, List.length_append, hp0.out]; simp [units], hk4.out, ?_, ?_, ?_⟩
        · simpa [ints] using hT3
        · refine Kept.none hgr0.out ((hkp0.out.mono (T := fun k => w2.heap.size ≤ k) (fun j _ e => by have := hB.out; omega)).trans hk3 ?_) (fun j e => e)
          rintro j _ (e | e | e)
          · have := hB.out; omega
          · omega
          · exact hro0.out j e
        · intro g e
          rcases hat3 with rfl | ⟨g', rfl, hg'⟩
          · exact hro0.out g e
          · have e1 : g' = g := Option.some.inj e
            have := hgr0.out.size
            have := hkp0.out.size
            omega
      case measure =>
        rw [iterPos_of hk4.out, iterPos_of hk0.out]
        have := unit_pos u
        omega
set_option maxRecDepth 100000 in
set_option maxHeartbeats 2000000 in
theorem new_long (f : Nat) (hf : f ≤ 255) (us : List Nat) (hsc : Sc us) (s : ByteArray) (hss : s.toList = units us) (hs : s.size ≤ 100000) (w : World) (hF : Forms w) (hl : 256 < f + us.length) :
    Calls Tryd.prog 6 #[.int .i64 (f : Int), .string s] w fun e w' => e = .returned (.tuple #[.pointer none, .int .i64 8]) ∧ w.grownBy w' none := by
  obtain ⟨c, w1, hconv, hB, hg, hc1, hc2⟩ := conv_new (P := Tryd.prog) w 9 43 s Tryd.underlying9 Tryd.underlying43 Tryd.underlying5 (by omega)
  have hF1 := Hid.mk' (hF.kept0 hg)
  have hB1 := Hid.mk' hB
  have hg0 := Hid.mk' hg
  have hscan := scan_units us [] hsc
  rw [List.append_nil, scanAll_nil, List.append_nil, ← hss] at hscan
  have hok : Hid (decide ((scanAll s.toList).2.2 = 0) = true) := decide_eq_true (by rw [hscan])
  have hlen : Hid (s.toList.length = s.size) := by show s.toList.length = s.size; rw [ByteArray.toList_eq, Array.length_toList]; rfl
  have hss0 := Hid.mk' hss
  clear hF hB hg hscan hss
  have hmm := @run_makeMap Tryd.prog
  have f1 : decide ((f : Int) < 0) = false := decide_eq_false (by omega)
  have f2 : decide (255 < (f : Int)) = false := decide_eq_false (by omega)
  obtain ⟨vn, hvn⟩ : ∃ vn, Hid ((scanAll s.toList).2.1 = vn) := ⟨_, rfl⟩
  go_enter Tryd.func6, Tryd.ntmps6
  go_wp2_with (go_at_call 14; refine (valid_at _ _ _ s.toList _ hF1.out hB1.out hlen.out (by omega) hc1 hc2 vn true hvn hok).mono ?_; rintro e w2 ⟨rfl, hg2⟩)
  have hgw := Hid.mk' (grownBy_trans hg0.out hg2)
  have hT0 := Hid.mk' (tab_made w2 f s)
  have hI0 := Hid.mk' (iter_made w2 f s)
  have hG0 := Hid.mk' (grown_made w2 f s)
  clear hconv hF1 hB1 hg0 hok hg2 hmm hvn
  obtain ⟨B, hB⟩ : ∃ B, Hid (w2.heap.size + 1 = B) := ⟨_, rfl⟩
  rw [hB.out]
  go_loopw [10] (fun _ wr => Hid (∃ (p : Nat) (us1 us2 : List Nat) (ro : Option Addr) (rc : Nat), us = us1 ++ us2 ∧ f + us1.length ≤ 256 ∧ p = (units us1).length ∧ wr.heap[B + 1]? = some (.stringIter s p) ∧ Tab wr B w2.heap.size f ro rc (ints us1) ∧ w2.grownBy wr none ∧ ∀ g, Mem.blk ro = some g → w2.heap.size ≤ g)) (fun _ wr => s.size - wr.iterPos (B + 1))
  case atStart => exact Hid.mk' ⟨0, [], us, none, 0, by simp, (by simp; omega), rfl, (by have := hI0.out; rwa [hB.out] at this), (by have := hT0.out; rwa [hB.out] at this), hG0.out, by simp [Mem.blk]⟩
  case round =>
    clear hT0 hI0 hG0
    obtain ⟨p, us1, us2, ro, rc, hu, hf1, hp, hk, hT, hgr, hro⟩ := hrel.out
    clear hrel
    cases us2 with
    | nil => exact absurd hl (by rw [hu, List.append_nil]; omega)
    | cons u us2 =>
      have hd : s.data.toList.drop p = unit u ++ units us2 := by rw [← ByteArray.toList_eq, hss0.out, hu, units_append, hp, List.drop_left, units_cons]
      have hsu : scB (u : Int) = true := hsc u (by rw [hu]; simp)
      have hub := sc_le hsu
      have hdec := decode_unit s p u (units us2) hd hsu
      have hlt : p < s.size := by
        have h1 : s.data.toList.length = s.size := by rw [Array.length_toList]; rfl
        have h2 := congrArg List.length hd
        rw [List.length_drop, List.length_append, h1] at h2
        have := unit_pos u
        omega
      have hnx : ∀ ty, (Instr.next (.pointer (some ⟨B + 1, 0, none⟩)) true ty).run Tryd.prog wr = .ok (.tuple #[.bool true, .int .i64 p, .int .i32 (u : Int)]) (wr.iterAt (B + 1) s (p + (unit u).length)) := by
        intro ty
        rw [Lib.run_next_any_at wr (B + 1) s p ty hk hlt, hdec]
      have hk2 := Hid.mk' (Lib.iterAt_heap wr (B + 1) s p (p + (unit u).length) hk)
      obtain ⟨n1, n2, n3⟩ := hT.iter_ne hk
      have hkp := keptIter wr (B + 1) s (p + (unit u).length)
      have hT2 := Hid.mk' (hT.keptS hkp (fun e => n1 e.symm) (fun e => n2 e.symm) (fun g e x => n3 (by rw [e, x])))
      have hKlt := lt_of_block hk
      have hkp0 := Hid.mk' hkp
      have hk0 := Hid.mk' hk
      have hro0 := Hid.mk' hro
      have hgr0 := Hid.mk' hgr
      have hu0 := Hid.mk' hu
      have hp0 := Hid.mk' hp
      have hne0 := Hid.mk' (show B + 1 ≠ B ∧ B + 1 ≠ w2.heap.size ∧ Mem.blk ro ≠ some (B + 1) from ⟨n1, n2, n3⟩)
      clear hT hkp hk hro hgr hu hp n1 n2 n3 hd hdec hsu hKlt
      generalize wr.iterAt (B + 1) s (p + (unit u).length) = wi at *
      by_cases hlen1 : f + us1.length ≤ 255
      · skip
        go_wp2_with (go_at_call 15; refine (add_yes _ B _ f ro rc (ints us1) hT2.out (by simpa [ints] using hlen1) (u : Int) (by omega) (by omega)).mono ?_; rintro e w3 ⟨rfl, ro', rc', hT3, hk3, hat3⟩)
        have hk4 : Hid (w3.heap[B + 1]? = some (.stringIter s (p + (unit u).length))) := Hid.mk' ((hk3.block (B + 1) (lt_of_block hk2.out) (by
          rintro (e | e | e)
          · exact hne0.out.1 e
          · exact hne0.out.2.1 e
          · exact hne0.out.2.2 e)).trans hk2.out)
        go_roundw
        case rel =>
          refine Hid.mk' ⟨p + (unit u).length, us1 ++ [u], us2, ro', rc', by rw [hu0.out]; simp, by simp; omega, by rw [units_append, List.length_append, hp0.out]; simp [units], hk4.out, ?_, ?_, ?_⟩
          · simpa [ints] using hT3
          · refine Kept.none hgr0.out ((hkp0.out.mono (T := fun k => w2.heap.size ≤ k) (fun j _ e => by have := hB.out; omega)).trans hk3 ?_) (fun j e => e)
            rintro j _ (e | e | e)
            · have := hB.out; omega
            · omega
            · exact hro0.out j e
          · intro g e
            rcases hat3 with rfl | ⟨g', rfl, hg'⟩
            · exact hro0.out g e
            · have e1 : g' = g := Option.some.inj e
              have := hgr0.out.size
              have := hkp0.out.size
              omega
        case measure =>
          rw [iterPos_of hk4.out, iterPos_of hk0.out]
          have := unit_pos u
          omega
      · have hN : (ints us1).length = us1.length := by simp [ints]
        go_wp2_with (go_at_call 15; refine (add_no _ B _ f ro rc (ints us1) hT2.out (by omega) (by rw [hN]; omega) (by rw [hN]; omega) (u : Int)).mono ?_; rintro e w3 ⟨rfl, hk3⟩)
        go_ret2
        exact ⟨rfl, grownBy_trans hgw.out (Kept.none hgr0.out ((hkp0.out.mono (T := fun k => w2.heap.size ≤ k) (fun j _ e => by have := hB.out; omega)).trans (Kept.of0 (S := fun _ => False) hk3) (fun _ _ e => e.elim)) (fun j e => e))⟩
end Go.Proofs.YtliaadlanpfjbaaDoor.Dn

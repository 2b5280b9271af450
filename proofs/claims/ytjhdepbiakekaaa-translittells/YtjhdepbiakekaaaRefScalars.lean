/- The document's Scalars and SameRunes: walks. -/
import Derived.Test.YtjhdepbiakekaaaScalars
import Derived.Test.YtjhdepbiakekaaaValid
import Derived.Test.YtjhdepbiakekaaaWGets
import Derived.Deep.QuietTactic
import Derived.BigQuiet
namespace Go.Proofs.Ytjhdepbiakekaaa.U8
open Go.ChangeShapes Go.WideShapes Go.ChangeAt Go.RowKit Go.Proofs.Ytjhdepbiakekaaa.Mem Go.Proofs.Ytjhdepbiakekaaa.Ucs
set_option linter.unusedVariables false

set_option maxRecDepth 100000 in
set_option maxHeartbeats 2000000 in
theorem refscalars_any (ao : Option Addr) (cap : Nat) (L : List UInt8) (w : World) (hB : Bytes w ao L) (hl : L.length ≤ 100000) (hc : L.length ≤ cap) (hcm : cap ≤ 9223372036854775807)
    (E : Int) (N : Nat) (U : List Nat) (hE : Hid (scanAll L = (U, N, E))) :
    Calls Try.prog 16 #[.slice ao L.length cap] w fun e w' => ∃ ro rc, e = .returned (.tuple #[.slice ro U.length rc, .int .i64 (N : Int), .int .i64 E]) ∧ MemR.Bytes w' ro (ints U) ∧ w.grownBy w' none := by
  obtain ⟨i0, hi, hz0, hz1, hz2⟩ := info_parts info21
  have hB0 : Hid (Bytes w ao L) := hB
  clear hB
  go_enter Try.func16, Try.ntmps16
  go_wp2
  go_loopw [5, 6] (fun t4 t5 wx => ∃ (a rc : Nat) (ro : Option Addr) (us : List Nat), a ≤ L.length ∧ us.length ≤ a ∧ t5 = .int .i64 (a : Int) ∧ t4 = .slice ro (ints us).length rc ∧ Hid (MemR.Own wx ro rc (ints us)) ∧ Hid (∀ g, blk ro = some g → w.heap.size ≤ g) ∧ Hid (scanAll L = (us ++ (scanAll (L.drop a)).1, a + (scanAll (L.drop a)).2.1, (scanAll (L.drop a)).2.2)) ∧ Hid (w.grownBy wx none)) (fun _ t5 _ => L.length - (intOf t5).toNat)
  case atStart => exact ⟨0, 0, none, [], by omega, by simp, rfl, rfl, .inl ⟨rfl, rfl, rfl⟩, (by simp [blk] : ∀ g, blk none = some g → w.heap.size ≤ g), (by simp : scanAll L = _), grownBy_refl _ _⟩
  case round =>
    obtain ⟨a, rc, ro, us, ha, hus, rfl, rfl, ho, hro, hsc, hgx⟩ := hrel
    have hBx : Hid (Bytes wr ao L) := hB0.out.kept0 hgx.out
    have hlr : (ints us).length ≤ 100000 := by simp [ints]; omega
    by_cases hlt : a < L.length
    · have hlt' : (a : Int) < (L.length : Int) := by omega
      have hBd : Hid (Bytes wr (ao.map (·.add a)) (L.drop a)) := by
        have := hBx.out.drop a cap hc
        rwa [if_neg (by omega)] at this
      have hne : L.drop a ≠ [] := List.ne_nil_of_length_pos (by simp; omega)
      obtain ⟨R, hR⟩ : ∃ R, Hid (get (L.drop a) = R) := ⟨_, rfl⟩
      by_cases he : R.err = 0
      · obtain ⟨n, x, rfl⟩ := err_ok he
        have hn := ok_n hR.out
        have hx := sc_le (get_ok hR.out).1
        rw [List.length_drop] at hn
        clear he
        go_wp2_with (first | (go_at_call 24; refine (refget_at _ _ _ (L.drop a) _ hBd.out (by rw [List.length_drop]) (by omega) (by omega) (by omega) _ hR.out).mono ?_; rintro e w1 ⟨rfl, hg1⟩; simp only [Res.err, Res.n, Res.k, Res.a]) | (at_builtin; refine MemR.wpList_append_any _ rfl _ _ 29 29 rfl i0 Try.underlying29 hi hz0 hz1 hz2 _ _ (ints us) rfl (((ho.out.kept0 hg1).alloc _).alloc _) _ rfl [(x : Int)] (MemR.src_of (own_rune2 _ _ _) 29 1 Try.underlying29) (by simp; omega) (ints (us ++ [x])) (by simp [ints]) ?_; intro ro' rc' w2 ho' hg2 hat; have l1 := kept_new hg2 (fun g e => Nat.lt_of_lt_of_le (ho.out.lt e) hg1.size) 1 (v := .int .i64 (n : Int)) rfl))
        go_roundw
        case rel =>
          have k1 : w.grownBy w1 none := grownBy_trans hgx.out hg1
          refine ⟨a + n, rc', ro', us ++ [x], by omega, by simp; omega, by go_num, rfl, ho', ?_, ?_, ?_⟩
          · refine (?_ : ∀ g, blk ro' = some g → w.heap.size ≤ g)
            intro g e
            rcases hat with rfl | rfl
            · exact hro.out g e
            · have := Option.some.inj e; have := k1.size; simp at *; omega
          · refine (?_ : scanAll L = _)
            rw [hsc.out, scanAll_step hR.out, List.drop_drop]
            simp [Nat.add_assoc]
          · refine (?_ : w.grownBy w2 none)
            exact grownBy_new (grownBy_trans k1 (grownBy_trans (World.grownBy_alloc _ _ _) (World.grownBy_alloc _ _ _))) hg2 (fun g e => hro.out g e)
        case measure => simp [intOf]; omega
      · have hstop : Hid (U = us ∧ N = a ∧ E = R.err) := by
          refine (?_ : U = us ∧ N = a ∧ E = R.err)
          have h := hsc.out
          rw [scanAll_stop hne (by rw [hR.out]; exact he), hR.out, hE.out] at h
          simpa using h
        have he' : (R.err == 0) = false := by simpa using he
        go_wp2_with (go_at_call 24; refine (refget_at _ _ _ (L.drop a) _ hBd.out (by rw [List.length_drop]) (by omega) (by omega) (by omega) _ hR.out).mono ?_; rintro e w1 ⟨rfl, hg1⟩)
        have l0 := cell_at (heap_alloc_new w1 (.cells #[.int .i64 R.err, .int .i64 (R.n : Int), .int .i64 R.k, .int .i32 (R.a : Int), .int .i32 0, .int .i64 0, .int .i64 0, .int .u32 0, .int .i32 0] 50)) 0 (v := .int .i64 R.err) rfl
        go_quiet (fail)
        go_wp2
        obtain ⟨rfl, rfl, rfl⟩ := hstop.out
        refine bodyPost_ret (v := .tuple #[.slice ro (ints U).length rc, .int .i64 (N : Int), .int .i64 R.err]) (by simp [results, Try.results16, go_sem]) rfl ⟨ro, rc, by simp [ints], ?_, ?_⟩
        · have k2 : wr.grownBy ((w1.alloc (.cells #[.int .i64 R.err, .int .i64 (R.n : Int), .int .i64 R.k, .int .i32 (R.a : Int), .int .i32 0, .int .i64 0, .int .i64 0, .int .u32 0, .int .i32 0] 50)).drewN nq) none := grownBy_trans hg1 (grownBy_trans (World.grownBy_alloc _ _ _) ⟨rfl, rfl, rfl, Nat.le_refl _, fun _ _ _ => rfl⟩)
          exact (ho.out.kept0 k2).bytes
        · exact grownBy_trans hgx.out (grownBy_trans hg1 (grownBy_trans (World.grownBy_alloc _ _ _) ⟨rfl, rfl, rfl, Nat.le_refl _, fun _ _ _ => rfl⟩))
    · obtain rfl : a = L.length := by omega
      have hend : Hid (U = us ∧ N = L.length ∧ E = 0) := by
        refine (?_ : U = us ∧ N = L.length ∧ E = 0)
        have h := hsc.out
        rw [List.drop_length, scanAll_nil, hE.out] at h
        simpa using h
      go_wp2
      obtain ⟨rfl, rfl, rfl⟩ := hend.out
      refine bodyPost_ret (v := .tuple #[.slice ro (ints U).length rc, .int .i64 (L.length : Int), .int .i64 0]) (by simp [results, Try.results16, go_sem]) rfl ?_
      exact ⟨ro, rc, by simp [ints], ho.out.bytes, hgx.out⟩

theorem runes_cell {w : World} {ro : Option Addr} {l : List Int} (h : MemR.Bytes w ro l) (hp : l ≠ []) : ∃ b o, ro = some ⟨b, o, none⟩ ∧ ∀ j (hj : j < l.length), w.cell? ⟨b, o + j, none⟩ = some (.int .i32 (l[j])) := by
  rcases h with ⟨_, h⟩ | ⟨a, rfl, hc⟩
  · exact absurd h hp
  · obtain ⟨b, o, s⟩ := a
    have hlen : 0 < l.length := List.length_pos_iff.2 hp
    have h0 := hc 0 hlen
    have hs : s = none := by simpa [Addr.add] using World.cell?_spot h0
    subst hs
    exact ⟨b, o, rfl, fun j hj => by have := hc j hj; rwa [addr_add] at this⟩
set_option maxRecDepth 100000 in
set_option maxHeartbeats 2000000 in
theorem same_any (ra rb : Option Addr) (ca cb n : Nat) (l : List Int) (hn : l.length = n) (hn2 : n ≤ 100000) (w : World) (ha : MemR.Bytes w ra l) (hb : MemR.Bytes w rb l) :
    Calls Try.prog 14 #[.slice ra n ca, .slice rb n cb] w fun e w' => e = .returned (.bool true) ∧ w.grownBy w' none := by
  have ha0 := Hid.mk' ha
  have hb0 := Hid.mk' hb
  clear ha hb
  go_enter Try.func14, Try.ntmps14
  go_wp2
  go_loopw [5] (fun t5 wx => ∃ i : Nat, i ≤ n ∧ t5 = .int .i64 (i : Int) ∧ Hid (w.grownBy wx none)) (fun t5 _ => n - (intOf t5).toNat)
  case atStart => exact ⟨0, by omega, rfl, grownBy_refl _ _⟩
  case round =>
    obtain ⟨i, hi, rfl, hg⟩ := hrel
    by_cases hlt : i < n
    · have hlt' : (i : Int) < (n : Int) := by omega
      obtain ⟨b1, o1, rfl, q1⟩ := runes_cell ha0.out (List.ne_nil_of_length_pos (by omega))
      obtain ⟨b2, o2, rfl, q2⟩ := runes_cell hb0.out (List.ne_nil_of_length_pos (by omega))
      have x1 : wr.cell? ⟨b1, o1 + i, none⟩ = _ := hg.out.cell (q1 i (by omega)) (by simp)
      have x2 : wr.cell? ⟨b2, o2 + i, none⟩ = _ := hg.out.cell (q2 i (by omega)) (by simp)
      clear q1 q2
      generalize l[i]'(by omega) = z at x1 x2
      go_wp2
      go_quiet (fail)
      go_wp2
      go_roundw
      case rel => exact ⟨i + 1, by omega, by go_num, grownBy_trans hg.out ⟨rfl, rfl, rfl, Nat.le_refl _, fun _ _ _ => rfl⟩⟩
      case measure => simp [intOf]; omega
    · obtain rfl : i = n := by omega
      go_wp2
      go_ret
      exact ⟨rfl, hg.out⟩
end Go.Proofs.Ytjhdepbiakekaaa.U8

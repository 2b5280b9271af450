/- The program's Scalars: a walk. -/
import Derived.Test.YtbbegadpkpdiaaaDoorWorks
import Derived.Test.YtbbegadpkpdiaaaDoorScan
import Derived.Test.YtbbegadpkpdiaaaDoorMemR
import Derived.Deep.QuietTactic
import Derived.BigQuiet
namespace Go.Proofs.YtbbegadpkpdiaaaDoor.U8
open Go.ChangeShapes Go.WideShapes Go.ChangeAt Go.RowKit Go.Proofs.YtbbegadpkpdiaaaDoor.Mem Go.Proofs.YtbbegadpkpdiaaaDoor.Ucs
set_option linter.unusedVariables false

theorem info21 : (Tryd.prog.info? 21).map (fun i => (i.zero, i.size, i.bytes)) = some (some (.int .i32 0), 1, 4) := by kernel_rfl
def ints (l : List Nat) : List Int := l.map fun (u : Nat) => (u : Int)
theorem own_rune (w : World) (z : Int) : MemR.Bytes (w.alloc (.cells #[.int .i32 z] 21)) (some ⟨w.heap.size, 0, none⟩) [z] := by
  refine .inr ⟨_, rfl, fun j hj => ?_⟩
  rw [addr_add, Nat.zero_add]
  have : j = 0 := by simpa using hj
  subst this
  exact cell_at (heap_alloc_new w _) 0 rfl

theorem kept_new {w1 w2 : World} {cs : Array Value} {t : TypeId} {x : Obj} {ro : Option Addr} (hg : ((w1.alloc (.cells cs t)).alloc x).grownBy w2 (blk ro)) (hlt : ∀ g, blk ro = some g → g < w1.heap.size) (i : Nat) {v : Value} (hv : cs[i]? = some v) : w2.cell? ⟨w1.heap.size, i, none⟩ = some v :=
  hg.cell (cell_at (res_alloc (heap_alloc_new w1 (.cells cs t)) x) i hv) (fun e => by have := hlt _ e.symm; simp at this)
theorem own_rune2 (w : World) (o : Obj) (z : Int) : MemR.Bytes ((w.alloc o).alloc (.cells #[.int .i32 z] 21)) (some ⟨w.heap.size + 1, 0, none⟩) [z] := by
  have := own_rune (w.alloc o) z
  have e : (w.alloc o).heap.size = w.heap.size + 1 := by simp
  rwa [e] at this

set_option maxRecDepth 100000 in
set_option maxHeartbeats 2000000 in
theorem scalars_any (ao : Option Addr) (cap : Nat) (L : List UInt8) (w : World) (hF : Forms w) (hB : Bytes w ao L) (hl : L.length ≤ 100000) (hc : L.length ≤ cap) (hcm : cap ≤ 9223372036854775807)
    (E : Int) (U : List Nat) (hE : Hid ((scanAll L).2.2 = E)) (hU : Hid (U = if E = 0 then (scanAll L).1 else [])) :
    Calls Tryd.prog 15 #[.slice ao L.length cap] w fun e w' => ∃ ro rc, e = .returned (.tuple #[.slice ro U.length rc, .int .i64 E]) ∧ MemR.Bytes w' ro (ints U) ∧ w.grownBy w' none := by
  obtain ⟨i0, hi, hz0, hz1, hz2⟩ := info_parts info21
  have hF0 : Hid (Forms w) := hF
  have hB0 : Hid (Bytes w ao L) := hB
  clear hF hB
  go_enter Tryd.func15, Tryd.ntmps15
  go_wp2
  go_loopw [4, 5] (fun t4 t5 wx => ∃ (a rc : Nat) (ro : Option Addr) (us : List Nat), a ≤ L.length ∧ us.length ≤ a ∧ t5 = .int .i64 (a : Int) ∧ t4 = .slice ro (ints us).length rc ∧ Hid (MemR.Own wx ro rc (ints us)) ∧ Hid (∀ g, blk ro = some g → w.heap.size ≤ g) ∧ Hid (scanAll L = (us ++ (scanAll (L.drop a)).1, a + (scanAll (L.drop a)).2.1, (scanAll (L.drop a)).2.2)) ∧ Hid (w.grownBy wx none)) (fun _ t5 _ => L.length - (intOf t5).toNat)
  case atStart => exact ⟨0, 0, none, [], by omega, by simp, rfl, rfl, .inl ⟨rfl, rfl, rfl⟩, (by simp [blk] : ∀ g, blk none = some g → w.heap.size ≤ g), (by simp : scanAll L = _), grownBy_refl _ _⟩
  case round =>
    obtain ⟨a, rc, ro, us, ha, hus, rfl, rfl, ho, hro, hsc, hgx⟩ := hrel
    have hFx : Hid (Forms wr) := hF0.out.kept0 hgx.out
    have hBx : Hid (Bytes wr ao L) := hB0.out.kept0 hgx.out
    have hlr : (ints us).length ≤ 100000 := by simp [ints]; omega
    by_cases hlt : a < L.length
    · have hlt' : (a : Int) < (L.length : Int) := by omega
      have hBd : Hid (Bytes wr (ao.map (·.add a)) (L.drop a)) := by
        have := hBx.out.drop a cap hc
        rwa [if_neg (by omega)] at this
      have hne : L.drop a ≠ [] := List.ne_nil_of_length_pos (by simp; omega)
      obtain ⟨R, hR⟩ : ∃ R, Hid (get (L.drop a) = R) := ⟨_, rfl⟩
      by_cases he : R.err = 0
      · obtain ⟨n, x, rfl⟩ := err_ok he
        have hn := ok_n hR.out
        have hx := sc_le (get_ok hR.out).1
        rw [List.length_drop] at hn
        clear he
        go_wp2_with (first | (go_at_call 9; refine (get_at _ _ _ (L.drop a) _ hFx.out hBd.out (by rw [List.length_drop]) (by omega) _ hR.out).mono ?_; rintro e w1 ⟨rfl, hg1⟩; simp only [Res.err, Res.n, Res.k, Res.a]) | (at_builtin; refine MemR.wpList_append_any _ rfl _ _ 35 35 rfl i0 Tryd.underlying35 hi hz0 hz1 hz2 _ _ (ints us) rfl (((ho.out.kept0 hg1).alloc _).alloc _) _ rfl [(x : Int)] (MemR.src_of (own_rune2 _ _ _) 35 1 Tryd.underlying35) (by simp; omega) (ints (us ++ [x])) (by simp [ints]) ?_; intro ro' rc' w2 ho' hg2 hat; have l1 := kept_new hg2 (fun g e => Nat.lt_of_lt_of_le (ho.out.lt e) hg1.size) 1 (v := .int .i64 (n : Int)) rfl))
        go_roundw
        case rel =>
          have k1 : w.grownBy w1 none := grownBy_trans hgx.out hg1
          refine ⟨a + n, rc', ro', us ++ [x], by omega, by simp; omega, by go_num, rfl, ho', ?_, ?_, ?_⟩
          · refine (?_ : ∀ g, blk ro' = some g → w.heap.size ≤ g)
            intro g e
            rcases hat with rfl | rfl
            · exact hro.out g e
            · have := Option.some.inj e; have := k1.size; simp at *; omega
          · refine (?_ : scanAll L = _)
            rw [hsc.out, scanAll_step hR.out, List.drop_drop]
            simp [Nat.add_assoc]
          · refine (?_ : w.grownBy w2 none)
            exact grownBy_new (grownBy_trans k1 (grownBy_trans (World.grownBy_alloc _ _ _) (World.grownBy_alloc _ _ _))) hg2 (fun g e => hro.out g e)
        case measure => simp [intOf]; omega
      · have hstop : Hid (E = R.err ∧ U = []) := by
          refine (?_ : E = R.err ∧ U = [])
          have h1 : E = R.err := by rw [← hE.out, hsc.out, scanAll_stop hne (by rw [hR.out]; exact he), hR.out]
          refine ⟨h1, ?_⟩
          rw [hU.out, if_neg (by rw [h1]; exact he)]
        have he' : (R.err == 0) = false := by simpa using he
        go_wp2_with (go_at_call 9; refine (get_at _ _ _ (L.drop a) _ hFx.out hBd.out (by rw [List.length_drop]) (by omega) _ hR.out).mono ?_; rintro e w1 ⟨rfl, hg1⟩)
        have l0 := cell_at (heap_alloc_new w1 (.cells #[.int .i64 R.err, .int .i64 (R.n : Int), .int .i64 R.k, .int .i32 (R.a : Int), .int .i32 0, .int .i64 0, .int .i64 0, .int .u32 0, .int .i32 0] 28)) 0 (v := .int .i64 R.err) rfl
        go_quiet (fail)
        go_wp2
        obtain ⟨rfl, rfl⟩ := hstop.out
        refine bodyPost_ret (v := .tuple #[.slice none 0 0, .int .i64 R.err]) (by simp [results, Tryd.results15, go_sem]) rfl ⟨none, 0, rfl, ?_, ?_⟩
        · exact .inl ⟨rfl, rfl⟩
        · exact grownBy_trans hgx.out (grownBy_trans hg1 (grownBy_trans (World.grownBy_alloc _ _ _) ⟨rfl, rfl, rfl, Nat.le_refl _, fun _ _ _ => rfl⟩))
    · obtain rfl : a = L.length := by omega
      have hend : Hid (E = 0 ∧ U = us) := by
        refine (?_ : E = 0 ∧ U = us)
        have h := hsc.out
        rw [List.drop_length, scanAll_nil] at h
        have h1 : E = 0 := by rw [← hE.out, h]
        refine ⟨h1, ?_⟩
        rw [hU.out, if_pos h1, h]
        simp
      go_wp2
      obtain ⟨rfl, rfl⟩ := hend.out
      refine bodyPost_ret (v := .tuple #[.slice ro (ints U).length rc, .int .i64 0]) (by simp [results, Tryd.results15, go_sem]) rfl ?_
      exact ⟨ro, rc, by simp [ints], ho.out.bytes, hgx.out⟩
end Go.Proofs.YtbbegadpkpdiaaaDoor.U8

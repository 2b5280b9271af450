/- WideBack: walks. -/
import Derived.Test.YtkfcciacoplgmaaBack
import Derived.Test.YtkfcciacoplgmaaWGets
import Derived.Test.YtkfcciacoplgmaaWorks
import Derived.Test.YtkfcciacoplgmaaConvApp2
import Derived.Deep.DeepCutAuto
import Derived.Deep.RegionHeld3
import Derived.BigQuiet
namespace Go.Proofs.Ytkfcciacoplgmaa.Wd
open Go.ChangeShapes Go.WideShapes Go.ChangeAt Go.RowKit Go.Proofs.Ytkfcciacoplgmaa.Mem Go.Proofs.Ytkfcciacoplgmaa.Ucs
set_option linter.unusedVariables false
set_option linter.unusedSimpArgs false

theorem blk_keptg {w w' : World} {b g : Nat} {o : Obj} (h : w.heap[b]? = some o) (hg : w.grownBy w' (some g)) (hne : b ≠ g) : w'.heap[b]? = some o := by
  rw [hg.block _ (lt_of_block h) (by simpa using hne)]; exact h
theorem sets9_blk {w : World} {b : Nat} {t : TypeId} {z0 z1 z2 z3 z4 z5 z6 z7 z8 v0 v1 v2 v3 v4 v5 v6 v7 v8 : Value} (h : w.heap[b]? = some (.cells #[z0, z1, z2, z3, z4, z5, z6, z7, z8] t (0, 0))) :
    (((((((((w.setCell ⟨b, 0, none⟩ v0).setCell ⟨b, 1, none⟩ v1).setCell ⟨b, 2, none⟩ v2).setCell ⟨b, 3, none⟩ v3).setCell ⟨b, 4, none⟩ v4).setCell ⟨b, 5, none⟩ v5).setCell ⟨b, 6, none⟩ v6).setCell ⟨b, 7, none⟩ v7).setCell ⟨b, 8, none⟩ v8).heap[b]? = some (.cells #[v0, v1, v2, v3, v4, v5, v6, v7, v8] t (0, 0)) := by
  have h0 := block_set h 0 v0
  have h1 := block_set h0 1 v1
  have h2 := block_set h1 2 v2
  have h3 := block_set h2 3 v3
  have h4 := block_set h3 4 v4
  have h5 := block_set h4 5 v5
  have h6 := block_set h5 6 v6
  have h7 := block_set h6 7 v7
  have h8 := block_set h7 8 v8
  simp only [List.setIfInBounds_toArray, List.set_cons_zero, List.set_cons_succ] at h8
  exact h8
theorem sets9_oth {w : World} {b b' : Nat} {o : Obj} {v0 v1 v2 v3 v4 v5 v6 v7 v8 : Value} (h : w.heap[b]? = some o) (hne : b' ≠ b) :
    (((((((((w.setCell ⟨b', 0, none⟩ v0).setCell ⟨b', 1, none⟩ v1).setCell ⟨b', 2, none⟩ v2).setCell ⟨b', 3, none⟩ v3).setCell ⟨b', 4, none⟩ v4).setCell ⟨b', 5, none⟩ v5).setCell ⟨b', 6, none⟩ v6).setCell ⟨b', 7, none⟩ v7).setCell ⟨b', 8, none⟩ v8).heap[b]? = some o :=
  block_other (block_other (block_other (block_other (block_other (block_other (block_other (block_other (block_other h hne _ _) hne _ _) hne _ _) hne _ _) hne _ _) hne _ _) hne _ _) hne _ _) hne _ _
theorem cutA {w wD wE : World} {o os op : Obj} {bs bp : Nat} (hD : w.grownBy wD none) (hs : wD.heap[bs]? = some os) (hp : wD.heap[bp]? = some op) (hDE : wD.grownBy wE none) :
    ∃ gb, Value.pointer (some ⟨wE.heap.size, 0, none⟩) = Value.pointer (some ⟨gb, 0, none⟩) ∧ Hid ((wE.alloc o).heap[gb]? = some o) ∧ Hid ((wE.alloc o).heap[bs]? = some os) ∧ Hid ((wE.alloc o).heap[bp]? = some op) ∧ Hid (w.grownBy (wE.alloc o) none) :=
  ⟨_, rfl, heap_alloc_new wE o, res_alloc (blk_kept hs hDE) o, res_alloc (blk_kept hp hDE) o, ga (gt hD hDE)⟩
theorem cutB {w wD wE : World} {os op : Obj} {bs bp : Nat} {t : TypeId} {z0 z1 z2 z3 z4 z5 z6 z7 z8 v0 v1 v2 v3 v4 v5 v6 v7 v8 : Value} (hD : w.grownBy wD none) (hs : wD.heap[bs]? = some os) (hp : wD.heap[bp]? = some op) (hDE : wD.grownBy wE none)
    (rc : wE.heap[wD.heap.size]? = some (.cells #[z0, z1, z2, z3, z4, z5, z6, z7, z8] t (0, 0))) (hbs : bs < wD.heap.size) (hbp : bp < wD.heap.size) :
    ∃ gb, Value.pointer (some ⟨wD.heap.size, 0, none⟩) = Value.pointer (some ⟨gb, 0, none⟩) ∧ Hid ((((((((((wE.setCell ⟨wD.heap.size, 0, none⟩ v0).setCell ⟨wD.heap.size, 1, none⟩ v1).setCell ⟨wD.heap.size, 2, none⟩ v2).setCell ⟨wD.heap.size, 3, none⟩ v3).setCell ⟨wD.heap.size, 4, none⟩ v4).setCell ⟨wD.heap.size, 5, none⟩ v5).setCell ⟨wD.heap.size, 6, none⟩ v6).setCell ⟨wD.heap.size, 7, none⟩ v7).setCell ⟨wD.heap.size, 8, none⟩ v8).heap[gb]? = some (.cells #[v0, v1, v2, v3, v4, v5, v6, v7, v8] t (0, 0))) ∧
      Hid ((((((((((wE.setCell ⟨wD.heap.size, 0, none⟩ v0).setCell ⟨wD.heap.size, 1, none⟩ v1).setCell ⟨wD.heap.size, 2, none⟩ v2).setCell ⟨wD.heap.size, 3, none⟩ v3).setCell ⟨wD.heap.size, 4, none⟩ v4).setCell ⟨wD.heap.size, 5, none⟩ v5).setCell ⟨wD.heap.size, 6, none⟩ v6).setCell ⟨wD.heap.size, 7, none⟩ v7).setCell ⟨wD.heap.size, 8, none⟩ v8).heap[bs]? = some os) ∧
      Hid ((((((((((wE.setCell ⟨wD.heap.size, 0, none⟩ v0).setCell ⟨wD.heap.size, 1, none⟩ v1).setCell ⟨wD.heap.size, 2, none⟩ v2).setCell ⟨wD.heap.size, 3, none⟩ v3).setCell ⟨wD.heap.size, 4, none⟩ v4).setCell ⟨wD.heap.size, 5, none⟩ v5).setCell ⟨wD.heap.size, 6, none⟩ v6).setCell ⟨wD.heap.size, 7, none⟩ v7).setCell ⟨wD.heap.size, 8, none⟩ v8).heap[bp]? = some op) ∧
      Hid (w.grownBy (((((((((wE.setCell ⟨wD.heap.size, 0, none⟩ v0).setCell ⟨wD.heap.size, 1, none⟩ v1).setCell ⟨wD.heap.size, 2, none⟩ v2).setCell ⟨wD.heap.size, 3, none⟩ v3).setCell ⟨wD.heap.size, 4, none⟩ v4).setCell ⟨wD.heap.size, 5, none⟩ v5).setCell ⟨wD.heap.size, 6, none⟩ v6).setCell ⟨wD.heap.size, 7, none⟩ v7).setCell ⟨wD.heap.size, 8, none⟩ v8) none) :=
  ⟨_, rfl, sets9_blk rc, sets9_oth (blk_kept hs hDE) (by omega), sets9_oth (blk_kept hp hDE) (by omega), sets_new (gt hD hDE) hD.size (grownBy_sets9 _ _ _ _ _ _ _ _ _ _ _)⟩
theorem scalarB_lit (u : Int) (w : World) (t : Bool) (ht : scB u = t) : Calls Try.prog 16 #[.int .i32 u] w fun e w' => e = .returned (.bool t) ∧ w' = w := by
  subst ht; exact scalar_ref u w

set_option maxRecDepth 100000 in
set_option maxHeartbeats 4000000 in
theorem back0_nosc (a0 a1 u : Int) (r : Nat) (hr : Hid (wrap64 ((IntKind.u64.wrap a0).tmod 8) = (r : Int))) (hr8 : r < 8) (k5 : (3 + (r : Int) == 5) = false) (k8 : (3 + (r : Int) == 8) = false) (ao : Option Addr) (cap : Nat) (L : List UInt8) (w : World) (hB : Hid (Bytes w ao L)) (hLc : L.length ≤ cap) (hcm : cap ≤ 140737488351232) (hS : Hid (setR (3 + (r : Int)) 0 0 0 0 u = ⟨11, [], 0⟩)) (hs : Hid (scB u = false)) : Calls Try.prog 5 #[.int .i64 a0, .int .i64 a1, .int .i32 u, .slice ao L.length cap] w fun e w' => e = .returned (.bool true) ∧ Below w.heap.size w w' := by
  have r' := hr.out
  clear hr
  go_enter Try.func5, Try.ntmps5
  go_wp2_with (first | (go_at_call 15; refine (works_any _).mono ?_; rintro e w1 ⟨rfl, hg1⟩) | (go_at_call 13; refine (set_lit (3 + (r : Int)) 0 0 0 0 u _ 11 [] 0 hS.out ⟨#[]⟩ rfl).mono ?_; rintro e w2 ⟨rfl, hg2⟩) | (go_at_call 16; refine (scalarB_lit _ _ false hs.out).mono ?_; rintro e wq ⟨rfl, hw⟩; obtain rfl := hw))
  go_ret
  refine ⟨rfl, below_g ?_⟩
  (repeat (first | with_reducible exact grownBy_refl _ _ | (with_reducible refine gs ?_ ?_; first | omega | (simp; omega)) | with_reducible refine ga ?_ | with_reducible refine gd ?_ | with_reducible refine gdn ?_ | with_reducible refine gt ?_ (by assumption)))

set_option maxRecDepth 100000 in
set_option maxHeartbeats 4000000 in
theorem back0_nobig (a0 a1 u : Int) (r : Nat) (hr : Hid (wrap64 ((IntKind.u64.wrap a0).tmod 8) = (r : Int))) (hr8 : r < 8) (k5 : (3 + (r : Int) == 5) = false) (k8 : (3 + (r : Int) == 8) = false) (ao : Option Addr) (cap : Nat) (L : List UInt8) (w : World) (hB : Hid (Bytes w ao L)) (hLc : L.length ≤ cap) (hcm : cap ≤ 140737488351232) (hS : Hid (setR (3 + (r : Int)) 0 0 0 0 u = ⟨11, [], 0⟩)) (hs : Hid (scB u = true)) (hu : 65535 < u) (hk9 : 9 ≤ 3 + (r : Int)) : Calls Try.prog 5 #[.int .i64 a0, .int .i64 a1, .int .i32 u, .slice ao L.length cap] w fun e w' => e = .returned (.bool true) ∧ Below w.heap.size w w' := by
  have r' := hr.out
  clear hr
  go_enter Try.func5, Try.ntmps5
  go_wp2_with (first | (go_at_call 15; refine (works_any _).mono ?_; rintro e w1 ⟨rfl, hg1⟩) | (go_at_call 13; refine (set_lit (3 + (r : Int)) 0 0 0 0 u _ 11 [] 0 hS.out ⟨#[]⟩ rfl).mono ?_; rintro e w2 ⟨rfl, hg2⟩) | (go_at_call 16; refine (scalarB_lit _ _ true hs.out).mono ?_; rintro e wq ⟨rfl, hw⟩; obtain rfl := hw))
  go_ret
  refine ⟨rfl, below_g ?_⟩
  (repeat (first | with_reducible exact grownBy_refl _ _ | (with_reducible refine gs ?_ ?_; first | omega | (simp; omega)) | with_reducible refine ga ?_ | with_reducible refine gd ?_ | with_reducible refine gdn ?_ | with_reducible refine gt ?_ (by assumption)))

theorem heldB {wa wx : World} {ra : Int} {N hb bs cap : Nat} {ao : Option Addr} {L : List UInt8} (hN : N ≤ L.length) (h1 : wa.heap[hb]? = some (.cells #[.int .i64 0, .int .i64 (N : Int), .int .i64 1, .int .i32 ra, .int .i32 0, .int .i64 0, .int .i64 0, .int .u32 0, .int .i32 0] 28 (0, 0))) (h2 : wa.heap[bs]? = some (.cells #[.int .i64 0, .int .i64 0, .int .u32 0, .int .i32 0] 24 (0, 0))) (h3 : Bytes wa ao L) (hg : wa.grownBy wx none) :
    wx.cell? ⟨hb, 0, none⟩ = some (.int .i64 0) ∧ wx.cell? ⟨hb, 1, none⟩ = some (.int .i64 (N : Int)) ∧ wx.cell? ⟨hb, 3, none⟩ = some (.int .i32 ra) ∧ wx.cell? ⟨bs, 0, none⟩ = some (.int .i64 0) ∧ wx.cell? ⟨bs, 1, none⟩ = some (.int .i64 0) ∧ wx.cell? ⟨bs, 2, none⟩ = some (.int .u32 0) ∧ wx.cell? ⟨bs, 3, none⟩ = some (.int .i32 0) ∧ (convert 25 9 (.slice ao N cap)).run Try.prog wx = .ok (.string (str (L.take N))) wx := by
  have g1 := blk_kept h1 hg
  have g2 := blk_kept h2 hg
  have h4 := conv (P := Try.prog) ((h3.kept0 hg).take N) 25 9 cap Try.underlying25 Try.underlying5 Try.underlying9
  rw [List.length_take, Nat.min_eq_left hN] at h4
  exact ⟨cell_at g1 0 rfl, cell_at g1 1 rfl, cell_at g1 3 rfl, cell_at g2 0 rfl, cell_at g2 1 rfl, cell_at g2 2 rfl, cell_at g2 3 rfl, h4⟩
end Go.Proofs.Ytkfcciacoplgmaa.Wd

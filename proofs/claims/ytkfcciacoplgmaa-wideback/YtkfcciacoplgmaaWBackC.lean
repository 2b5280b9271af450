/- WideBack: walks. -/
import Derived.Test.YtkfcciacoplgmaaWBackM
import Derived.Deep.RegionHeld3
import Derived.BigQuiet
namespace Go.Proofs.Ytkfcciacoplgmaa.Wd
open Go.ChangeShapes Go.WideShapes Go.ChangeAt Go.RowKit Go.Proofs.Ytkfcciacoplgmaa.Mem Go.Proofs.Ytkfcciacoplgmaa.Ucs
set_option linter.unusedVariables false
set_option linter.unusedSimpArgs false

theorem bytes_ne {w : World} {ao : Option Addr} {L : List UInt8} {bs : Nat} {c0 c1 c2 c3 : Int} {t : TypeId} (h : Bytes w ao L) (hL : 0 < L.length) (hs : w.heap[bs]? = some (.cells #[.int .i64 c0, .int .i64 c1, .int .u32 c2, .int .i32 c3] t (0, 0))) : blk ao ≠ some bs := by
  obtain ⟨b, o, rfl, hc⟩ := h.at (List.length_pos_iff.1 hL)
  intro e
  simp [blk] at e
  subst e
  have h0 := hc 0 hL
  simp only [World.cell?, hs, Nat.add_zero] at h0
  rcases o with _ | _ | _ | _ | o <;> simp at h0
theorem sets4_blk {w : World} {b : Nat} {t : TypeId} {z0 z1 z2 z3 v0 v1 v2 v3 : Value} (h : w.heap[b]? = some (.cells #[z0, z1, z2, z3] t (0, 0))) :
    ((((w.setCell ⟨b, 0, none⟩ v0).setCell ⟨b, 1, none⟩ v1).setCell ⟨b, 2, none⟩ v2).setCell ⟨b, 3, none⟩ v3).heap[b]? = some (.cells #[v0, v1, v2, v3] t (0, 0)) := by
  have h0 := block_set h 0 v0
  have h1 := block_set h0 1 v1
  have h2 := block_set h1 2 v2
  have h3 := block_set h2 3 v3
  simp only [List.setIfInBounds_toArray, List.set_cons_zero, List.set_cons_succ] at h3
  exact h3
theorem cutC {w wC wE : World} {op : Obj} {bs bp : Nat} {aD : Option Addr} {X : List UInt8} (hg : w.grownBy wC none) (hCE : wC.grownBy wE none) (hs : wC.heap[bs]? = some (.cells #[.int .i64 0, .int .i64 0, .int .u32 0, .int .i32 0] 24 (0, 0))) (hp : wC.heap[bp]? = some op) (hw : w.heap.size ≤ bs) (hne : bs ≠ bp) (hB : Bytes wC aD X) (hX : 0 < X.length) :
    Hid (((((wE.setCell ⟨bs, 0, none⟩ (.int .i64 1)).setCell ⟨bs, 1, none⟩ (.int .i64 0)).setCell ⟨bs, 2, none⟩ (.int .u32 0)).setCell ⟨bs, 3, none⟩ (.int .i32 0)).drew.heap[bs]? = some (.cells #[.int .i64 1, .int .i64 0, .int .u32 0, .int .i32 0] 24 (0, 0))) ∧ Hid (((((wE.setCell ⟨bs, 0, none⟩ (.int .i64 1)).setCell ⟨bs, 1, none⟩ (.int .i64 0)).setCell ⟨bs, 2, none⟩ (.int .u32 0)).setCell ⟨bs, 3, none⟩ (.int .i32 0)).drew.heap[bp]? = some op) ∧ Hid (Bytes ((((wE.setCell ⟨bs, 0, none⟩ (.int .i64 1)).setCell ⟨bs, 1, none⟩ (.int .i64 0)).setCell ⟨bs, 2, none⟩ (.int .u32 0)).setCell ⟨bs, 3, none⟩ (.int .i32 0)).drew aD X) ∧ Hid (w.grownBy ((((wE.setCell ⟨bs, 0, none⟩ (.int .i64 1)).setCell ⟨bs, 1, none⟩ (.int .i64 0)).setCell ⟨bs, 2, none⟩ (.int .u32 0)).setCell ⟨bs, 3, none⟩ (.int .i32 0)).drew none) := by
  have g4 := grownBy_sets4 wE bs (.int .i64 1) (.int .i64 0) (.int .u32 0) (.int .i32 0)
  have hB' := hB.kept0 hCE
  have hs' := blk_kept hs hCE
  exact ⟨sets4_blk hs', block_other (block_other (block_other (block_other (blk_kept hp hCE) hne _ _) hne _ _) hne _ _) hne _ _, (hB'.kept g4 (.inr (bytes_ne hB' hX hs'))).drew, gd (sets_new (gt hg hCE) hw g4)⟩
end Go.Proofs.Ytkfcciacoplgmaa.Wd

/- The form of a scalar: a walk. -/
import Derived.Test.YtbbegadpkpdiaaaDoorForms
namespace Go.Proofs.YtbbegadpkpdiaaaDoor.U8
open Go.ChangeShapes Go.WideShapes Go.ChangeAt Go.RowKit Go.Proofs.YtbbegadpkpdiaaaDoor.Mem
set_option linter.unusedVariables false

theorem block_set {w : World} {b : Nat} {cs : Array Value} {t : TypeId} {fr : Nat × Nat} (h : w.heap[b]? = some (.cells cs t fr)) (i : Nat) (v : Value) : (w.setCell ⟨b, i, none⟩ v).heap[b]? = some (.cells (cs.setIfInBounds i v) t fr) := by
  have hlt := lt_of_block h
  have h' : w.heap[b] = .cells cs t fr := by simpa [Array.getElem?_eq_getElem hlt] using h
  show (w.heap.modify b _)[b]? = _
  rw [Array.getElem?_eq_getElem (by simpa using hlt), Array.getElem_modify_self, h']
  rfl
theorem block_other {w : World} {b b' : Nat} {o : Obj} (h : w.heap[b]? = some o) (hne : b' ≠ b) (i : Nat) (v : Value) : (w.setCell ⟨b', i, none⟩ v).heap[b]? = some o := by
  rw [Below.heap_setCell _ _ _ _ (fun e => hne e.symm)]
  exact h

/-- The cells of the form of that number. -/
def formA (k : Nat) : Array Value := #[.int .i64 (fsize k : Int), .int .u8 (fmask k : Int), .int .u8 (fmark k : Int), .int .i32 (fleast k : Int)]
/-- The form that is kept behind k rounds. -/
def kept (u : Int) (k : Nat) : Nat := if k = 0 then 0 else min (k - 1) (ixS u)
theorem ixS_iff (u : Int) : (1 ≤ ixS u ↔ 128 ≤ u) ∧ (2 ≤ ixS u ↔ 2048 ≤ u) ∧ (3 ≤ ixS u ↔ 65536 ≤ u) ∧ ixS u ≤ 3 := by
  unfold ixS
  repeat' split
  all_goals omega

set_option maxHeartbeats 4000000 in
theorem formOfScalar_any (u : Int) (h0 : 0 ≤ u) (w : World) (hF : Forms w) :
    Calls Tryd.prog 24 #[.int .i32 u] w fun e w' => e = .returned (formV (ixS u)) ∧ w.grownBy w' none := by
  have hF' := hF.alloc (.cells #[.int .i64 0, .int .u8 0, .int .u8 0, .int .i32 0] 49)
  have e0 := hF' 0 (by decide); have e1 := hF' 1 (by decide); have e2 := hF' 2 (by decide); have e3 := hF' 3 (by decide)
  have hF'' := hF'.alloc (.cells #[.int .i64 1, .int .u8 128, .int .u8 0, .int .i32 0] 49)
  have d0 := hF'' 0 (by decide); have d1 := hF'' 1 (by decide); have d2 := hF'' 2 (by decide); have d3 := hF'' 3 (by decide); have d4 := hF'' 4 (by decide); have d5 := hF'' 5 (by decide); have d6 := hF'' 6 (by decide); have d7 := hF'' 7 (by decide); have d8 := hF'' 8 (by decide); have d9 := hF'' 9 (by decide); have d10 := hF'' 10 (by decide); have d11 := hF'' 11 (by decide); have d12 := hF'' 12 (by decide); have d13 := hF'' 13 (by decide); have d14 := hF'' 14 (by decide); have d15 := hF'' 15 (by decide)
  clear hF' hF'' hF
  simp only [formCells, List.getElem_cons_zero, List.getElem_cons_succ] at e0 e1 e2 e3 d0 d1 d2 d3 d4 d5 d6 d7 d8 d9 d10 d11 d12 d13 d14 d15
  go_enter Tryd.func24, Tryd.ntmps24
  go_wp2
  go_loopw [9] (fun i wx => ∃ k : Nat, k ≤ 4 ∧ i = .int .i64 (k : Int) ∧ wx.heap[w.heap.size]? = some (.cells #[.int .i64 0, .int .u8 0, .int .u8 0, .int .i32 0] 49 (0, 0)) ∧ wx.heap[w.heap.size + 1]? = some (.cells (formA (kept u k)) 49 (0, 0)) ∧ w.grownBy wx none) (fun i _ => 4 - (intOf i).toNat)
  case atStart => exact ⟨0, by omega, rfl, res_alloc (heap_alloc_new w _) _, by have := heap_alloc_new (w.alloc (.cells #[.int .i64 0, .int .u8 0, .int .u8 0, .int .i32 0] 49)) (.cells #[.int .i64 1, .int .u8 128, .int .u8 0, .int .i32 0] 49); simpa [formA, kept, fsize, fmask, fmark, fleast] using this, grownBy_trans (World.grownBy_alloc _ _ _) (World.grownBy_alloc _ _ _)⟩
  case round =>
    obtain ⟨k, hk, rfl, hr, ho, hg⟩ := hrel
    have hk : k = 0 ∨ k = 1 ∨ k = 2 ∨ k = 3 ∨ k = 4 := by omega
    have hx := ixS_iff u
    rcases hk with rfl | rfl | rfl | rfl | rfl
    · have hi := idx0
      have hB := res_alloc ho (.cells #[.int .i64 1, .int .u8 128, .int .u8 0, .int .i32 0] 49)
      have hR := res_alloc hr (.cells #[.int .i64 1, .int .u8 128, .int .u8 0, .int .i32 0] 49)
      by_cases he : 0 ≤ u
      · have r0 := cell_at hB 0 rfl; have r1 := cell_at hB 1 rfl; have r2 := cell_at hB 2 rfl; have r3 := cell_at hB 3 rfl
        have fz := froz_at hB
        have ek : kept u 1 = 0 := by unfold kept; (repeat rw [if_neg (by omega)]); omega
        go_wp2
        go_roundw
        case rel => exact ⟨1, by omega, rfl, block_other (block_other (block_other (block_other hR (by omega) _ _) (by omega) _ _) (by omega) _ _) (by omega) _ _, by
            rw [block_set (block_set (block_set (block_set hB _ _) _ _) _ _) _ _, ek]
            simp [formA, fsize, fmask, fmark, fleast], sets_new (grownBy_trans hg (World.grownBy_alloc _ _ _)) (b := w.heap.size + 1) (by omega) (grownBy_trans (grownBy_trans (grownBy_trans (grownBy_setCell _ _ _) (grownBy_setCell _ _ _)) (grownBy_setCell _ _ _)) (grownBy_setCell _ _ _))⟩
        case measure => simp [intOf]
      · omega
    · have hi := idx1
      have hB := res_alloc ho (.cells #[.int .i64 2, .int .u8 224, .int .u8 192, .int .i32 128] 49)
      have hR := res_alloc hr (.cells #[.int .i64 2, .int .u8 224, .int .u8 192, .int .i32 128] 49)
      by_cases he : 128 ≤ u
      · have r0 := cell_at hB 0 rfl; have r1 := cell_at hB 1 rfl; have r2 := cell_at hB 2 rfl; have r3 := cell_at hB 3 rfl
        have fz := froz_at hB
        have ek : kept u 2 = 1 := by unfold kept; (repeat rw [if_neg (by omega)]); omega
        go_wp2
        go_roundw
        case rel => exact ⟨2, by omega, rfl, block_other (block_other (block_other (block_other hR (by omega) _ _) (by omega) _ _) (by omega) _ _) (by omega) _ _, by
            rw [block_set (block_set (block_set (block_set hB _ _) _ _) _ _) _ _, ek]
            simp [formA, fsize, fmask, fmark, fleast], sets_new (grownBy_trans hg (World.grownBy_alloc _ _ _)) (b := w.heap.size + 1) (by omega) (grownBy_trans (grownBy_trans (grownBy_trans (grownBy_setCell _ _ _) (grownBy_setCell _ _ _)) (grownBy_setCell _ _ _)) (grownBy_setCell _ _ _))⟩
        case measure => simp [intOf]
      · have ek : kept u 2 = kept u 1 := by unfold kept; (repeat rw [if_neg (by omega)]); omega
        have hlt : u < 128 := by omega
        go_wp2
        go_roundw
        case rel => exact ⟨2, by omega, rfl, hR, by rw [ek]; exact hB, grownBy_trans hg (World.grownBy_alloc _ _ _)⟩
        case measure => simp [intOf]
    · have hi := idx2
      have hB := res_alloc ho (.cells #[.int .i64 3, .int .u8 240, .int .u8 224, .int .i32 2048] 49)
      have hR := res_alloc hr (.cells #[.int .i64 3, .int .u8 240, .int .u8 224, .int .i32 2048] 49)
      by_cases he : 2048 ≤ u
      · have r0 := cell_at hB 0 rfl; have r1 := cell_at hB 1 rfl; have r2 := cell_at hB 2 rfl; have r3 := cell_at hB 3 rfl
        have fz := froz_at hB
        have ek : kept u 3 = 2 := by unfold kept; (repeat rw [if_neg (by omega)]); omega
        go_wp2
        go_roundw
        case rel => exact ⟨3, by omega, rfl, block_other (block_other (block_other (block_other hR (by omega) _ _) (by omega) _ _) (by omega) _ _) (by omega) _ _, by
            rw [block_set (block_set (block_set (block_set hB _ _) _ _) _ _) _ _, ek]
            simp [formA, fsize, fmask, fmark, fleast], sets_new (grownBy_trans hg (World.grownBy_alloc _ _ _)) (b := w.heap.size + 1) (by omega) (grownBy_trans (grownBy_trans (grownBy_trans (grownBy_setCell _ _ _) (grownBy_setCell _ _ _)) (grownBy_setCell _ _ _)) (grownBy_setCell _ _ _))⟩
        case measure => simp [intOf]
      · have ek : kept u 3 = kept u 2 := by unfold kept; (repeat rw [if_neg (by omega)]); omega
        have hlt : u < 2048 := by omega
        go_wp2
        go_roundw
        case rel => exact ⟨3, by omega, rfl, hR, by rw [ek]; exact hB, grownBy_trans hg (World.grownBy_alloc _ _ _)⟩
        case measure => simp [intOf]
    · have hi := idx3
      have hB := res_alloc ho (.cells #[.int .i64 4, .int .u8 248, .int .u8 240, .int .i32 65536] 49)
      have hR := res_alloc hr (.cells #[.int .i64 4, .int .u8 248, .int .u8 240, .int .i32 65536] 49)
      by_cases he : 65536 ≤ u
      · have r0 := cell_at hB 0 rfl; have r1 := cell_at hB 1 rfl; have r2 := cell_at hB 2 rfl; have r3 := cell_at hB 3 rfl
        have fz := froz_at hB
        have ek : kept u 4 = 3 := by unfold kept; (repeat rw [if_neg (by omega)]); omega
        go_wp2
        go_roundw
        case rel => exact ⟨4, by omega, rfl, block_other (block_other (block_other (block_other hR (by omega) _ _) (by omega) _ _) (by omega) _ _) (by omega) _ _, by
            rw [block_set (block_set (block_set (block_set hB _ _) _ _) _ _) _ _, ek]
            simp [formA, fsize, fmask, fmark, fleast], sets_new (grownBy_trans hg (World.grownBy_alloc _ _ _)) (b := w.heap.size + 1) (by omega) (grownBy_trans (grownBy_trans (grownBy_trans (grownBy_setCell _ _ _) (grownBy_setCell _ _ _)) (grownBy_setCell _ _ _)) (grownBy_setCell _ _ _))⟩
        case measure => simp [intOf]
      · have ek : kept u 4 = kept u 3 := by unfold kept; (repeat rw [if_neg (by omega)]); omega
        have hlt : u < 65536 := by omega
        go_wp2
        go_roundw
        case rel => exact ⟨4, by omega, rfl, hR, by rw [ek]; exact hB, grownBy_trans hg (World.grownBy_alloc _ _ _)⟩
        case measure => simp [intOf]
    · have ek : kept u 4 = ixS u := by unfold kept; (repeat rw [if_neg (by omega)]); omega
      rw [ek] at ho
      have r0 := cell_at hr 0 rfl; have r1 := cell_at hr 1 rfl; have r2 := cell_at hr 2 rfl; have r3 := cell_at hr 3 rfl
      have o0 : wr.cell? ⟨w.heap.size + 1, 0, none⟩ = some (.int .i64 (fsize (ixS u) : Int)) := cell_at ho 0 rfl
      have o1 : wr.cell? ⟨w.heap.size + 1, 1, none⟩ = some (.int .u8 (fmask (ixS u) : Int)) := cell_at ho 1 rfl
      have o2 : wr.cell? ⟨w.heap.size + 1, 2, none⟩ = some (.int .u8 (fmark (ixS u) : Int)) := cell_at ho 2 rfl
      have o3 : wr.cell? ⟨w.heap.size + 1, 3, none⟩ = some (.int .i32 (fleast (ixS u) : Int)) := cell_at ho 3 rfl
      have fz := froz_at hr
      go_wp2
      refine bodyPost_ret (v := formV (ixS u)) (by simp [results, Tryd.results24, go_sem, formV, r0, r1, r2, r3]) rfl ⟨rfl, ?_⟩
      exact sets_new hg (Nat.le_refl _) (grownBy_trans (grownBy_trans (grownBy_trans (grownBy_setCell _ _ _) (grownBy_setCell _ _ _)) (grownBy_setCell _ _ _)) (grownBy_setCell _ _ _))
end Go.Proofs.YtbbegadpkpdiaaaDoor.U8

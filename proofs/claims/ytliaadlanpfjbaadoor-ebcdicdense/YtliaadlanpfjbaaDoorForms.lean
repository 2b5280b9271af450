/- The forms of units: which form a first byte has, and which a scalar: walks. -/
import Derived.Test.YtliaadlanpfjbaaDoorRows
import Derived.WalkKit
import Derived.ProofKit
import Derived.OpenShut
import Derived.WalkSpells
import Derived.WalkLawsBesides
import Derived.Test.YtliaadlanpfjbaaDoorTells
import Derived.Test.YtliaadlanpfjbaaDoorLaid
namespace Go.Proofs.YtliaadlanpfjbaaDoor.U8
open Go.ChangeShapes Go.WideShapes Go.ChangeAt Go.RowKit Go.Proofs.YtliaadlanpfjbaaDoor.Mem
set_option linter.unusedVariables false

def fsize : Nat → Nat | 0 => 1 | 1 => 2 | 2 => 3 | 3 => 4 | _ => 0
def fmask : Nat → Nat | 0 => 128 | 1 => 224 | 2 => 240 | 3 => 248 | _ => 0
def fmark : Nat → Nat | 0 => 0 | 1 => 192 | 2 => 224 | 3 => 240 | _ => 0
def fleast : Nat → Nat | 0 => 0 | 1 => 128 | 2 => 2048 | 3 => 65536 | _ => 0
/-- The form of that number, as a value. -/
def formV (k : Nat) : Value := .agg #[.int .i64 (fsize k : Int), .int .u8 (fmask k : Int), .int .u8 (fmark k : Int), .int .i32 (fleast k : Int)]
/-- Which form a first byte has. -/
def ix (b : Nat) : Nat := if b < 128 then 0 else if b < 192 then 4 else if b < 224 then 1 else if b < 240 then 2 else if b < 248 then 3 else 4
/-- Which form a scalar has. -/
def ixS (u : Int) : Nat := if u < 128 then 0 else if u < 2048 then 1 else if u < 65536 then 2 else 3

abbrev formsV : Value := .agg #[.int .i64 1, .int .u8 128, .int .u8 0, .int .i32 0, .int .i64 2, .int .u8 224, .int .u8 192, .int .i32 128, .int .i64 3, .int .u8 240, .int .u8 224, .int .i32 2048, .int .i64 4, .int .u8 248, .int .u8 240, .int .i32 65536]
theorem idx0 (w : World) : (Instr.index 70 formsV (.int .i64 0)).run Tryd.prog w = .ok (.agg #[.int .i64 1, .int .u8 128, .int .u8 0, .int .i32 0]) w := by kernel_rfl
theorem idx1 (w : World) : (Instr.index 70 formsV (.int .i64 1)).run Tryd.prog w = .ok (.agg #[.int .i64 2, .int .u8 224, .int .u8 192, .int .i32 128]) w := by kernel_rfl
theorem idx2 (w : World) : (Instr.index 70 formsV (.int .i64 2)).run Tryd.prog w = .ok (.agg #[.int .i64 3, .int .u8 240, .int .u8 224, .int .i32 2048]) w := by kernel_rfl
theorem idx3 (w : World) : (Instr.index 70 formsV (.int .i64 3)).run Tryd.prog w = .ok (.agg #[.int .i64 4, .int .u8 248, .int .u8 240, .int .i32 65536]) w := by kernel_rfl

/-- The result's block, and what is written to it. -/
theorem res_cells {w wr : World} {cs : Array Value} {t : TypeId} (hg : (w.alloc (.cells cs t)).grownBy wr none) : wr.heap[w.heap.size]? = some (.cells cs t (0, 0)) := by
  rw [hg.block _ (by simp) (by simp)]
  exact heap_alloc_new w _
theorem res_alloc {w : World} {b : Nat} {o : Obj} (h : w.heap[b]? = some o) (x : Obj) : (w.alloc x).heap[b]? = some o := by
  rw [Below.heap_alloc w x b (lt_of_block h)]
  exact h
theorem cell_at {w : World} {b : Nat} {cs : Array Value} {t : TypeId} {fr : Nat × Nat} (h : w.heap[b]? = some (.cells cs t fr)) (i : Nat) {v : Value} (hv : cs[i]? = some v) : w.cell? ⟨b, i, none⟩ = some v := by
  simp [World.cell?, h, hv]
theorem froz_at {w : World} {b : Nat} {cs : Array Value} {t : TypeId} (h : w.heap[b]? = some (.cells cs t (0, 0))) (i : Nat) : w.frozen? ⟨b, i, none⟩ = false := by
  simp [World.frozen?, h]
theorem sets_new {w w1 w2 : World} (h : w.grownBy w1 none) {b : Nat} (hb : w.heap.size ≤ b) (k : w1.grownBy w2 (some b)) : w.grownBy w2 none :=
  grownBy_new h k (fun g e => by cases e; exact hb)
theorem wrote4' {w wr : World} {o : Obj} (hg : (w.alloc o).grownBy wr none) (a b c d : Value) :
    w.grownBy ((((wr.setCell ⟨w.heap.size, 0, none⟩ a).setCell ⟨w.heap.size, 1, none⟩ b).setCell ⟨w.heap.size, 2, none⟩ c).setCell ⟨w.heap.size, 3, none⟩ d) none :=
  sets_new (grownBy_trans (World.grownBy_alloc w o none) hg) (Nat.le_refl _) (grownBy_trans (grownBy_trans (grownBy_trans (grownBy_setCell _ _ _) (grownBy_setCell _ _ _)) (grownBy_setCell _ _ _)) (grownBy_setCell _ _ _))
theorem wrote4 {w wr : World} {o : Obj} (hg : (w.alloc o).grownBy wr none) (x : Obj) (a b c d : Value) :
    w.grownBy (((((wr.alloc x).setCell ⟨w.heap.size, 0, none⟩ a).setCell ⟨w.heap.size, 1, none⟩ b).setCell ⟨w.heap.size, 2, none⟩ c).setCell ⟨w.heap.size, 3, none⟩ d) none :=
  wrote4' (grownBy_trans hg (World.grownBy_alloc _ _ _)) a b c d

theorem ix_iff (b : Nat) (hb : b < 256) : (ix b = 0 ↔ b < 128) ∧ (ix b = 1 ↔ 192 ≤ b ∧ b < 224) ∧ (ix b = 2 ↔ 224 ≤ b ∧ b < 240) ∧ (ix b = 3 ↔ 240 ≤ b ∧ b < 248) ∧ ix b ≤ 4 := by
  unfold ix
  repeat' split
  all_goals omega
theorem mask0 (b : Nat) (hb : b < 256) : (bits .and .u8 (b : Int) 128 == 0) = decide (b < 128) := (show ∀ b : Fin 256, (bits .and .u8 ((b : Nat) : Int) 128 == 0) = decide ((b : Nat) < 128) by decide +kernel) ⟨b, hb⟩
theorem mask1 (b : Nat) (hb : b < 256) : (bits .and .u8 (b : Int) 224 == 192) = decide (192 ≤ b ∧ b < 224) := (show ∀ b : Fin 256, (bits .and .u8 ((b : Nat) : Int) 224 == 192) = decide (192 ≤ (b : Nat) ∧ (b : Nat) < 224) by decide +kernel) ⟨b, hb⟩
theorem mask2 (b : Nat) (hb : b < 256) : (bits .and .u8 (b : Int) 240 == 224) = decide (224 ≤ b ∧ b < 240) := (show ∀ b : Fin 256, (bits .and .u8 ((b : Nat) : Int) 240 == 224) = decide (224 ≤ (b : Nat) ∧ (b : Nat) < 240) by decide +kernel) ⟨b, hb⟩
theorem mask3 (b : Nat) (hb : b < 256) : (bits .and .u8 (b : Int) 248 == 240) = decide (240 ≤ b ∧ b < 248) := (show ∀ b : Fin 256, (bits .and .u8 ((b : Nat) : Int) 248 == 240) = decide (240 ≤ (b : Nat) ∧ (b : Nat) < 248) by decide +kernel) ⟨b, hb⟩

set_option maxHeartbeats 4000000 in
theorem formOfByte_any (b : Nat) (hb : b < 256) (w : World) (hF : Forms w) :
    Calls Tryd.prog 24 #[.int .u8 (b : Int)] w fun e w' => e = .returned (.tuple #[formV (ix b), .bool (decide (ix b < 4))]) ∧ w.grownBy w' none := by
  have hF' := hF.alloc (.cells #[.int .i64 0, .int .u8 0, .int .u8 0, .int .i32 0] 64)
  have d0 := hF' 0 (by decide); have d1 := hF' 1 (by decide); have d2 := hF' 2 (by decide); have d3 := hF' 3 (by decide)
  have d4 := hF' 4 (by decide); have d5 := hF' 5 (by decide); have d6 := hF' 6 (by decide); have d7 := hF' 7 (by decide)
  have d8 := hF' 8 (by decide); have d9 := hF' 9 (by decide); have d10 := hF' 10 (by decide); have d11 := hF' 11 (by decide)
  have d12 := hF' 12 (by decide); have d13 := hF' 13 (by decide); have d14 := hF' 14 (by decide); have d15 := hF' 15 (by decide)
  clear hF' hF
  simp only [formCells, List.getElem_cons_zero, List.getElem_cons_succ] at d0 d1 d2 d3 d4 d5 d6 d7 d8 d9 d10 d11 d12 d13 d14 d15
  go_enter Tryd.func24, Tryd.ntmps24
  go_wp2
  go_loopw [7] (fun i wx => ∃ k : Nat, k ≤ 4 ∧ i = .int .i64 (k : Int) ∧ (∀ j, j < k → ix b ≠ j) ∧ (w.alloc (.cells #[.int .i64 0, .int .u8 0, .int .u8 0, .int .i32 0] 64)).grownBy wx none) (fun i _ => 4 - (intOf i).toNat)
  case atStart => exact ⟨0, by omega, rfl, by simp, grownBy_refl _ _⟩
  case round =>
    obtain ⟨k, hk, rfl, hj, hg⟩ := hrel
    have hk : k = 0 ∨ k = 1 ∨ k = 2 ∨ k = 3 ∨ k = 4 := by omega
    have hres := res_cells hg
    rcases hk with rfl | rfl | rfl | rfl | rfl
    · have hi := idx0
      by_cases he : ix b = 0
      · have q : (bits .and .u8 (b : Int) 128 == 0) = true := by rw [mask0 b hb]; exact decide_eq_true (by have := ix_iff b hb; omega)
        have hB := res_alloc hres (.cells #[.int .i64 1, .int .u8 128, .int .u8 0, .int .i32 0] 64)
        have r0 := cell_at hB 0 rfl; have r1 := cell_at hB 1 rfl; have r2 := cell_at hB 2 rfl; have r3 := cell_at hB 3 rfl
        have fz := froz_at hB
        go_wp2
        refine bodyPost_ret (v := .tuple #[formV 0, .bool true]) (by simp [results, Tryd.results24, go_sem, formV, fsize, fmask, fmark, fleast, r0, r1, r2, r3]) rfl ⟨by rw [he]; rfl, ?_⟩
        exact wrote4 hg _ _ _ _ _
      · have q : (bits .and .u8 (b : Int) 128 == 0) = false := by rw [mask0 b hb]; exact decide_eq_false (by have := ix_iff b hb; have := hj; omega)
        go_wp2
        go_roundw
        case rel => exact ⟨1, by omega, rfl, fun j hj' => by
          by_cases e : j = 0
          · rw [e]; exact he
          · exact hj j (by omega), grownBy_trans hg (World.grownBy_alloc _ _ _)⟩
        case measure => simp [intOf]
    · have hi := idx1
      by_cases he : ix b = 1
      · have q : (bits .and .u8 (b : Int) 224 == 192) = true := by rw [mask1 b hb]; exact decide_eq_true (by have := ix_iff b hb; omega)
        have hB := res_alloc hres (.cells #[.int .i64 2, .int .u8 224, .int .u8 192, .int .i32 128] 64)
        have r0 := cell_at hB 0 rfl; have r1 := cell_at hB 1 rfl; have r2 := cell_at hB 2 rfl; have r3 := cell_at hB 3 rfl
        have fz := froz_at hB
        go_wp2
        refine bodyPost_ret (v := .tuple #[formV 1, .bool true]) (by simp [results, Tryd.results24, go_sem, formV, fsize, fmask, fmark, fleast, r0, r1, r2, r3]) rfl ⟨by rw [he]; rfl, ?_⟩
        exact wrote4 hg _ _ _ _ _
      · have q : (bits .and .u8 (b : Int) 224 == 192) = false := by rw [mask1 b hb]; exact decide_eq_false (by have := ix_iff b hb; have := hj; have h0 := this 0 (by omega);  omega)
        go_wp2
        go_roundw
        case rel => exact ⟨2, by omega, rfl, fun j hj' => by
          by_cases e : j = 1
          · rw [e]; exact he
          · exact hj j (by omega), grownBy_trans hg (World.grownBy_alloc _ _ _)⟩
        case measure => simp [intOf]
    · have hi := idx2
      by_cases he : ix b = 2
      · have q : (bits .and .u8 (b : Int) 240 == 224) = true := by rw [mask2 b hb]; exact decide_eq_true (by have := ix_iff b hb; omega)
        have hB := res_alloc hres (.cells #[.int .i64 3, .int .u8 240, .int .u8 224, .int .i32 2048] 64)
        have r0 := cell_at hB 0 rfl; have r1 := cell_at hB 1 rfl; have r2 := cell_at hB 2 rfl; have r3 := cell_at hB 3 rfl
        have fz := froz_at hB
        go_wp2
        refine bodyPost_ret (v := .tuple #[formV 2, .bool true]) (by simp [results, Tryd.results24, go_sem, formV, fsize, fmask, fmark, fleast, r0, r1, r2, r3]) rfl ⟨by rw [he]; rfl, ?_⟩
        exact wrote4 hg _ _ _ _ _
      · have q : (bits .and .u8 (b : Int) 240 == 224) = false := by rw [mask2 b hb]; exact decide_eq_false (by have := ix_iff b hb; have := hj; have h0 := this 0 (by omega); have h1 := this 1 (by omega); omega)
        go_wp2
        go_roundw
        case rel => exact ⟨3, by omega, rfl, fun j hj' => by
          by_cases e : j = 2
          · rw [e]; exact he
          · exact hj j (by omega), grownBy_trans hg (World.grownBy_alloc _ _ _)⟩
        case measure => simp [intOf]
    · have hi := idx3
      by_cases he : ix b = 3
      · have q : (bits .and .u8 (b : Int) 248 == 240) = true := by rw [mask3 b hb]; exact decide_eq_true (by have := ix_iff b hb; omega)
        have hB := res_alloc hres (.cells #[.int .i64 4, .int .u8 248, .int .u8 240, .int .i32 65536] 64)
        have r0 := cell_at hB 0 rfl; have r1 := cell_at hB 1 rfl; have r2 := cell_at hB 2 rfl; have r3 := cell_at hB 3 rfl
        have fz := froz_at hB
        go_wp2
        refine bodyPost_ret (v := .tuple #[formV 3, .bool true]) (by simp [results, Tryd.results24, go_sem, formV, fsize, fmask, fmark, fleast, r0, r1, r2, r3]) rfl ⟨by rw [he]; rfl, ?_⟩
        exact wrote4 hg _ _ _ _ _
      · have q : (bits .and .u8 (b : Int) 248 == 240) = false := by rw [mask3 b hb]; exact decide_eq_false (by have := ix_iff b hb; have := hj; have h0 := this 0 (by omega); have h1 := this 1 (by omega); have h2 := this 2 (by omega); omega)
        go_wp2
        go_roundw
        case rel => exact ⟨4, by omega, rfl, fun j hj' => by
          by_cases e : j = 3
          · rw [e]; exact he
          · exact hj j (by omega), grownBy_trans hg (World.grownBy_alloc _ _ _)⟩
        case measure => simp [intOf]
    · have r0 := cell_at hres 0 rfl; have r1 := cell_at hres 1 rfl; have r2 := cell_at hres 2 rfl; have r3 := cell_at hres 3 rfl
      have fz := froz_at hres
      have he : ix b = 4 := by
        have h0 := hj 0 (by omega); have h1 := hj 1 (by omega); have h2 := hj 2 (by omega); have h3 := hj 3 (by omega)
        have := ix_iff b hb
        omega
      go_wp2
      refine bodyPost_ret (v := .tuple #[formV 4, .bool false]) (by simp [results, Tryd.results24, go_sem, formV, fsize, fmask, fmark, fleast, r0, r1, r2, r3]) rfl ⟨by rw [he]; rfl, ?_⟩
      exact wrote4' hg _ _ _ _
end Go.Proofs.YtliaadlanpfjbaaDoor.U8

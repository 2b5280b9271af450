/- The forms of units: which form a first byte has, and which a scalar: walks. -/
import Derived.Test.YtjhdepbiakekaaaRows
import Derived.WalkKit
import Derived.ProofKit
import Derived.OpenShut
import Derived.WalkSpells
import Derived.WalkLawsBesides
import Derived.Test.YtjhdepbiakekaaaTells
import Derived.Test.YtjhdepbiakekaaaMem
namespace Go.Proofs.Ytjhdepbiakekaaa.U8
open Go.ChangeShapes Go.WideShapes Go.ChangeAt Go.RowKit Go.Proofs.Ytjhdepbiakekaaa.Mem
set_option linter.unusedVariables false

def fsize : Nat → Nat | 0 => 1 | 1 => 2 | 2 => 3 | 3 => 4 | _ => 0
def fmask : Nat → Nat | 0 => 128 | 1 => 224 | 2 => 240 | 3 => 248 | _ => 0
def fmark : Nat → Nat | 0 => 0 | 1 => 192 | 2 => 224 | 3 => 240 | _ => 0
def fleast : Nat → Nat | 0 => 0 | 1 => 128 | 2 => 2048 | 3 => 65536 | _ => 0
/-- The form of that number, as a value. -/
def formV (k : Nat) : Value := .agg #[.int .i64 (fsize k : Int), .int .u8 (fmask k : Int), .int .u8 (fmark k : Int), .int .i32 (fleast k : Int)]
/-- Which form a first byte has. -/
def ix (b : Nat) : Nat := if b < 128 then 0 else if b < 192 then 4 else if b < 224 then 1 else if b < 240 then 2 else if b < 248 then 3 else 4
/-- Which form a scalar has. -/
def ixS (u : Int) : Nat := if u < 128 then 0 else if u < 2048 then 1 else if u < 65536 then 2 else 3

/-- The result's block, and what is written to it. -/
theorem res_cells {w wr : World} {cs : Array Value} {t : TypeId} (hg : (w.alloc (.cells cs t)).grownBy wr none) : wr.heap[w.heap.size]? = some (.cells cs t (0, 0)) := by
  rw [hg.block _ (by simp) (by simp)]
  exact heap_alloc_new w _
theorem res_alloc {w : World} {b : Nat} {o : Obj} (h : w.heap[b]? = some o) (x : Obj) : (w.alloc x).heap[b]? = some o := by
  rw [Below.heap_alloc w x b (lt_of_block h)]
  exact h
theorem cell_at {w : World} {b : Nat} {cs : Array Value} {t : TypeId} {fr : Nat × Nat} (h : w.heap[b]? = some (.cells cs t fr)) (i : Nat) {v : Value} (hv : cs[i]? = some v) : w.cell? ⟨b, i, none⟩ = some v := by
  simp [World.cell?, h, hv]
theorem froz_at {w : World} {b : Nat} {cs : Array Value} {t : TypeId} (h : w.heap[b]? = some (.cells cs t (0, 0))) (i : Nat) : w.frozen? ⟨b, i, none⟩ = false := by
  simp [World.frozen?, h]
theorem sets_new {w w1 w2 : World} (h : w.grownBy w1 none) {b : Nat} (hb : w.heap.size ≤ b) (k : w1.grownBy w2 (some b)) : w.grownBy w2 none :=
  grownBy_new h k (fun g e => by cases e; exact hb)
theorem wrote4' {w wr : World} {o : Obj} (hg : (w.alloc o).grownBy wr none) (a b c d : Value) :
    w.grownBy ((((wr.setCell ⟨w.heap.size, 0, none⟩ a).setCell ⟨w.heap.size, 1, none⟩ b).setCell ⟨w.heap.size, 2, none⟩ c).setCell ⟨w.heap.size, 3, none⟩ d) none :=
  sets_new (grownBy_trans (World.grownBy_alloc w o none) hg) (Nat.le_refl _) (grownBy_trans (grownBy_trans (grownBy_trans (grownBy_setCell _ _ _) (grownBy_setCell _ _ _)) (grownBy_setCell _ _ _)) (grownBy_setCell _ _ _))
theorem wrote4 {w wr : World} {o : Obj} (hg : (w.alloc o).grownBy wr none) (x : Obj) (a b c d : Value) :
    w.grownBy (((((wr.alloc x).setCell ⟨w.heap.size, 0, none⟩ a).setCell ⟨w.heap.size, 1, none⟩ b).setCell ⟨w.heap.size, 2, none⟩ c).setCell ⟨w.heap.size, 3, none⟩ d) none :=
  wrote4' (grownBy_trans hg (World.grownBy_alloc _ _ _)) a b c d

theorem ix_iff (b : Nat) (hb : b < 256) : (ix b = 0 ↔ b < 128) ∧ (ix b = 1 ↔ 192 ≤ b ∧ b < 224) ∧ (ix b = 2 ↔ 224 ≤ b ∧ b < 240) ∧ (ix b = 3 ↔ 240 ≤ b ∧ b < 248) ∧ ix b ≤ 4 := by
  unfold ix
  repeat' split
  all_goals omega
theorem mask0 (b : Nat) (hb : b < 256) : (bits .and .u8 (b : Int) 128 == 0) = decide (b < 128) := (show ∀ b : Fin 256, (bits .and .u8 ((b : Nat) : Int) 128 == 0) = decide ((b : Nat) < 128) by decide +kernel) ⟨b, hb⟩
theorem mask1 (b : Nat) (hb : b < 256) : (bits .and .u8 (b : Int) 224 == 192) = decide (192 ≤ b ∧ b < 224) := (show ∀ b : Fin 256, (bits .and .u8 ((b : Nat) : Int) 224 == 192) = decide (192 ≤ (b : Nat) ∧ (b : Nat) < 224) by decide +kernel) ⟨b, hb⟩
theorem mask2 (b : Nat) (hb : b < 256) : (bits .and .u8 (b : Int) 240 == 224) = decide (224 ≤ b ∧ b < 240) := (show ∀ b : Fin 256, (bits .and .u8 ((b : Nat) : Int) 240 == 224) = decide (224 ≤ (b : Nat) ∧ (b : Nat) < 240) by decide +kernel) ⟨b, hb⟩
theorem mask3 (b : Nat) (hb : b < 256) : (bits .and .u8 (b : Int) 248 == 240) = decide (240 ≤ b ∧ b < 248) := (show ∀ b : Fin 256, (bits .and .u8 ((b : Nat) : Int) 248 == 240) = decide (240 ≤ (b : Nat) ∧ (b : Nat) < 248) by decide +kernel) ⟨b, hb⟩

end Go.Proofs.Ytjhdepbiakekaaa.U8

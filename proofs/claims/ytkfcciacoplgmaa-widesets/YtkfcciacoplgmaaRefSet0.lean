/- The document's step that puts out a scalar: walks. -/
import Derived.Test.YtkfcciacoplgmaaRefUnit
import Derived.Test.YtkfcciacoplgmaaRefSmall
import Derived.Test.YtkfcciacoplgmaaSet
import Derived.Deep.RegionHeld3
import Derived.BigQuiet
namespace Go.Proofs.Ytkfcciacoplgmaa.Wd
open Go.ChangeShapes Go.WideShapes Go.ChangeAt Go.RowKit Go.Proofs.Ytkfcciacoplgmaa.Mem Go.Proofs.Ytkfcciacoplgmaa.Ucs
set_option linter.unusedVariables false
set_option linter.unusedSimpArgs false

theorem splitR_lit (u : Int) (w : World) (a b : Int) (t : Bool) (ha : splitH u = a) (hb : splitL u = b) (hc : splitB u = t) : Calls Try.prog 32 #[.int .i32 u] w fun e w' => e = .returned (.tuple #[.int .i32 a, .int .i32 b, .bool t]) ∧ w' = w := by
  subst ha hb hc; exact split_ref u w
theorem wrapu (x : Nat) (h : x ≤ 4294967295) : IntKind.u32.wrap (x : Int) = (x : Int) := by rw [IntKind.wrap_u32]; omega
theorem wrapi (a : Int) (x : Nat) (e : a = (x : Int)) (h : x ≤ 65535) : IntKind.u32.wrap a = (x : Int) := by rw [e]; exact wrapu x (by omega)
theorem scalarR_is (u : Int) (w : World) (t : Bool) (ht : scB u = t) : Calls Try.prog 16 #[.int .i32 u] w fun e w' => e = .returned (.bool t) ∧ w' = w := by
  subst ht; exact scalar_ref u w
/-- Where the step stands: the state's block, and its result's. -/
structure SR (w : World) (md : Int) (wx : World) : Prop where
  g : w.grownBy wx none
  st : wx.heap[w.heap.size]? = some (.cells #[.int .i64 md, .int .i64 0, .int .u32 0, .int .i32 0] 24 (0, 0))
  res : wx.heap[w.heap.size + 1]? = some (.cells #[.int .i64 0, .string ⟨#[]⟩, .int .i64 0, .int .i64 0, .int .u32 0, .int .i32 0] 33 (0, 0))
theorem SR.next {w wx wy : World} {md : Int} (h : SR w md wx) (hg : wx.grownBy wy none) : SR w md wy := ⟨grownBy_trans h.g hg, blk_kept h.st hg, blk_kept h.res hg⟩
theorem SR.one {w wx : World} {md : Int} (h : SR w md wx) : SR w 1 (wx.setCell ⟨w.heap.size, 0, none⟩ (.int .i64 1)) :=
  ⟨gs (Nat.le_refl _) h.g, block_set h.st 0 _, block_other h.res (by omega) _ _⟩
theorem SR.drew {w wx : World} {md : Int} (h : SR w md wx) : SR w md wx.drew := ⟨gd h.g, h.st, h.res⟩
theorem SR.mk1 {w w1 : World} {md : Int} (hg : ((w.alloc (.cells #[.int .i64 md, .int .i64 0, .int .u32 0, .int .i32 0] 24)).alloc (.cells #[.int .i64 0, .string ⟨#[]⟩, .int .i64 0, .int .i64 0, .int .u32 0, .int .i32 0] 33)).grownBy w1 none) : SR w md w1 := ⟨gt (ga (ga (grownBy_refl _ _))) hg, two_first hg, two_second hg⟩
theorem SR.cells {w wx : World} {md : Int} (h : SR w md wx) : wx.cell? ⟨w.heap.size, 0, none⟩ = some (.int .i64 md) ∧ wx.cell? ⟨w.heap.size, 1, none⟩ = some (.int .i64 0) ∧ wx.cell? ⟨w.heap.size, 2, none⟩ = some (.int .u32 0) ∧ wx.cell? ⟨w.heap.size, 3, none⟩ = some (.int .i32 0) :=
  ⟨cell_at h.st 0 rfl, cell_at h.st 1 rfl, cell_at h.st 2 rfl, cell_at h.st 3 rfl⟩
theorem kind_ucs {k : Int} {n : Nat} {p m low : Bool} (h : fm k = some (n, p, m, low)) (hp : p = true ∨ n = 4) : (k == 9) = false ∧ (k == 10) = false := by
  rcases fm_some h with ⟨rfl, e⟩ | ⟨rfl, e⟩ | ⟨rfl, e⟩ | ⟨rfl, e⟩ | ⟨rfl, e⟩ | ⟨rfl, e⟩ | ⟨rfl, e⟩ | ⟨rfl, e⟩ <;> (simp only [Prod.mk.injEq] at e; obtain ⟨rfl, rfl, rfl, rfl⟩ := e; simp at hp ⊢)
theorem kind_is {k : Int} {m low : Bool} (h : fm k = some (2, false, m, low)) : k = 9 ∨ k = 10 := by
  rcases fm_some h with ⟨rfl, e⟩ | ⟨rfl, e⟩ | ⟨rfl, e⟩ | ⟨rfl, e⟩ | ⟨rfl, e⟩ | ⟨rfl, e⟩ | ⟨rfl, e⟩ | ⟨rfl, e⟩ <;> simp at e ⊢
end Go.Proofs.Ytkfcciacoplgmaa.Wd

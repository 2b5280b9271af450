/- The variable 'forms', off the row's condition: its sixteen cells, and that they stay where only new blocks come. -/
import Derived.Test.YtliaadlanpfjbaaDoorRows
import Derived.ProofKit
import Derived.LaidMore
import Derived.OpenShut
import Derived.Stop.Joined
import Derived.Test.YtliaadlanpfjbaaDoorMem
namespace Go.Proofs.YtliaadlanpfjbaaDoor.U8
open Go.ChangeShapes Go.WideShapes Go.ChangeAt Go.RowKit Go.Proofs.YtliaadlanpfjbaaDoor.Mem
set_option linter.unusedVariables false

abbrev laid1 : List (String × DataW Unit) := [("dragoman/utf8.forms", Rows.laid_dragoman_utf8_forms)]
theorem gForms : Tryd.prog.globalNamed "dragoman/utf8.forms" = some 0 := by kernel_rfl
theorem tForms : (Tryd.prog.globals[0]?).map (·.type) = some 70 := by kernel_rfl

theorem door_met (os : Os) (args : Array Value) : laidMetH Tryd.prog laid1 ((World.doorLaid Tryd.prog 400 os).forCall (fun _ _ => 0) ⟨#[], args, []⟩).memory :=
  laidMetH_of_parts3 (fuel := 8) (laidMet_of_run' 8 (by kernel_rfl) (by kernel_rfl)) (by kernel_rfl) (by kernel_rfl)

/-- The cells of the four forms. -/
def formCells : List Value := [.int .i64 1, .int .u8 128, .int .u8 0, .int .i32 0, .int .i64 2, .int .u8 224, .int .u8 192, .int .i32 128, .int .i64 3, .int .u8 240, .int .u8 224, .int .i32 2048, .int .i64 4, .int .u8 248, .int .u8 240, .int .i32 65536]
def Forms (w : World) : Prop := ∀ i (h : i < 16), w.cell? ⟨0, i, none⟩ = some (formCells[i]'h)

theorem Forms.kept {w w' : World} {row : Option Nat} (h : Forms w) (hg : w.grownBy w' row) (hr : row ≠ some 0) : Forms w' := fun i hi =>
  hg.cell (h i hi) (fun e => hr e.symm)
theorem Forms.kept0 {w w' : World} (h : Forms w) (hg : w.grownBy w' none) : Forms w' := h.kept hg (by simp)
theorem Forms.alloc {w : World} (h : Forms w) (o : Obj) : Forms (w.alloc o) := h.kept0 (World.grownBy_alloc w o none)
theorem Forms.drew {w : World} (h : Forms w) : Forms w.drew := h
theorem Forms.pos {w : World} (h : Forms w) : 0 < w.heap.size := World.block_lt_of_cell? w _ (h 0 (by decide))

theorem c3 : Tryd.prog.cellsOf 3 = 1 := by kernel_rfl
theorem c5 : Tryd.prog.cellsOf 5 = 1 := by kernel_rfl
theorem c21 : Tryd.prog.cellsOf 21 = 1 := by kernel_rfl
theorem c49 : Tryd.prog.cellsOf 64 = 4 := by kernel_rfl
theorem c59 : Tryd.prog.cellsOf 70 = 16 := by kernel_rfl

theorem form_of_trod {W : World} {base : Nat} {sp : Nat → Bool} {held : Bool} {fuel : Nat} {H : Type} {enc : TypeId × Value → H} {cs : List Value} {x : DataW H × List MemPlace} {a m k l : Int} (h : DataW.trod enc Tryd.prog W base sp held fuel 64 cs = some x)
    (hx : x.1 = .agg [.lit (.int .i64 a), .lit (.int .u8 m), .lit (.int .u8 k), .lit (.int .i32 l)]) : cs = [.int .i64 a, .int .u8 m, .int .u8 k, .int .i32 l] := by
  obtain ⟨xs, n, _, rfl, hl, hlen, hf⟩ := DataW.trod_struct Tryd.underlying64 h
  rw [c49] at hl
  match cs, hl with
  | [v0, v1, v2, v3], _ =>
  match xs, hlen with
  | [y0, y1, y2, y3], _ =>
    have f0 : DataW.trod enc Tryd.prog W base sp held n 3 (([v0, v1, v2, v3].drop 0).take (Tryd.prog.cellsOf 3)) = some y0 := hf 0 _ rfl
    have f1 : DataW.trod enc Tryd.prog W base sp held n 5 (([v0, v1, v2, v3].drop 1).take (Tryd.prog.cellsOf 5)) = some y1 := hf 1 _ rfl
    have f2 : DataW.trod enc Tryd.prog W base sp held n 5 (([v0, v1, v2, v3].drop 2).take (Tryd.prog.cellsOf 5)) = some y2 := hf 2 _ rfl
    have f3 : DataW.trod enc Tryd.prog W base sp held n 21 (([v0, v1, v2, v3].drop 3).take (Tryd.prog.cellsOf 21)) = some y3 := hf 3 _ rfl
    rw [c3] at f0
    rw [c5] at f1 f2
    rw [c21] at f3
    obtain ⟨n0, e0, rfl, _⟩ := DataW.trod_int Tryd.underlying3 f0
    obtain ⟨n1, e1, rfl, _⟩ := DataW.trod_int Tryd.underlying5 f1
    obtain ⟨n2, e2, rfl, _⟩ := DataW.trod_int Tryd.underlying5 f2
    obtain ⟨n3, e3, rfl, _⟩ := DataW.trod_int Tryd.underlying21 f3
    simp at e0 e1 e2 e3 hx
    obtain ⟨rfl, rfl, rfl, rfl⟩ := hx
    simp [e0, e1, e2, e3]

theorem forms_of_laid {W : World} (h : laidMetH Tryd.prog laid1 W) : Forms W := by
  rw [MakeChecks.laidMetH_plain _ _ _ (by kernel_rfl)] at h
  obtain ⟨ps, ⟨g0, t0, cs0, f0, p0, q0, hg0, ht0, hv0, hd0, _, _⟩, _⟩ := h
  obtain rfl := Option.some.inj (gForms.symm.trans hg0)
  obtain rfl := Option.some.inj (tForms.symm.trans ht0)
  have key : cs0.toList = formCells := by
    obtain ⟨xs, m, rfl, hx, hl, hn, hel⟩ := DataW.trod_array Tryd.underlying70 hd0
    rw [c59] at hl
    simp only [c49] at hel
    match xs, hn with
    | [y0, y1, y2, y3], _ =>
      have hx := (Prod.mk.inj hx).1
      simp only [Rows.laid_dragoman_utf8_forms, List.map_cons, List.map_nil, DataW.agg.injEq, List.cons.injEq, and_true] at hx
      obtain ⟨x0, x1, x2, x3⟩ := hx
      have g0 := form_of_trod ((hel 0 (by decide)).trans rfl) x0.symm
      have g1 := form_of_trod ((hel 1 (by decide)).trans rfl) x1.symm
      have g2 := form_of_trod ((hel 2 (by decide)).trans rfl) x2.symm
      have g3 := form_of_trod ((hel 3 (by decide)).trans rfl) x3.symm
      have e : cs0.toList = (cs0.toList.drop (0 * 4)).take 4 ++ ((cs0.toList.drop (1 * 4)).take 4 ++ ((cs0.toList.drop (2 * 4)).take 4 ++ (cs0.toList.drop (3 * 4)).take 4)) := by
        have h3 : (cs0.toList.drop 12).take 4 = cs0.toList.drop 12 := List.take_of_length_le (by simp; simp at hl; omega)
        have h2 : (cs0.toList.drop 8).take 4 ++ cs0.toList.drop 12 = cs0.toList.drop 8 := by
          have := List.take_append_drop 4 (cs0.toList.drop 8)
          rwa [List.drop_drop] at this
        have h1 : (cs0.toList.drop 4).take 4 ++ cs0.toList.drop 8 = cs0.toList.drop 4 := by
          have := List.take_append_drop 4 (cs0.toList.drop 4)
          rwa [List.drop_drop] at this
        show _ = (cs0.toList.drop 0).take 4 ++ ((cs0.toList.drop 4).take 4 ++ ((cs0.toList.drop 8).take 4 ++ (cs0.toList.drop 12).take 4))
        rw [h3, h2, h1, List.drop_zero, List.take_append_drop]
      rw [e, g0, g1, g2, g3]
      rfl
  intro i hi
  have := World.var?_cell hg0 hv0 i
  rw [this, ← Array.getElem?_toList, key]
  exact List.getElem?_eq_getElem hi
end Go.Proofs.YtliaadlanpfjbaaDoor.U8

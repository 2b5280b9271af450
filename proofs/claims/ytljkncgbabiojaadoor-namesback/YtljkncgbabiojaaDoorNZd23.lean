/- The laws of layer 23 over the program's contracts (text NC23: con). -/
import Derived.Test.YtljkncgbabiojaaDoorPD23
import Derived.Test.YtljkncgbabiojaaDoorNB23
import Derived.Test.YtljkncgbabiojaaDoorNG23
import Derived.Test.YtljkncgbabiojaaDoorArgs
import Derived.Below
import Derived.OpenShut
import Derived.Lib.SmallJoins
import Derived.SizedLaws
namespace Go.Proofs.YtljkncgbabiojaaDoor.C23
open Go.ChangeShapes Go.WideShapes Go.ChangeAt Go.RowKit Go.Proofs.YtljkncgbabiojaaDoor.Mem Go.Proofs.YtljkncgbabiojaaDoor.El Go.Proofs.YtljkncgbabiojaaDoor.St Go.Proofs.YtljkncgbabiojaaDoor.Ri Go.Proofs.YtljkncgbabiojaaDoor.Sx Go.Proofs.YtljkncgbabiojaaDoor.Cb Go.Proofs.YtljkncgbabiojaaDoor.Ar
set_option linter.unusedVariables false
set_option linter.unusedSimpArgs false

theorem below_g {w w' : World} (h : w.grownBy w' none) : Below w.heap.size w w' := ⟨h.os, h.tape, h.output, h.size, fun k hk => h.block k hk (by simp)⟩
theorem wf64 {n : Int} (h : (Lit.int .i64 n).wf = true) : I64 n := by
  rw [Lit.wf_int_iff] at h
  exact h
theorem cells_wish : Tryd.prog.cellsOf 23 = 3 := by kernel_rfl
theorem wish_open {H : Type} {enc : TypeId × Value → H} {w : World} {r : Reach} {b0 base : Nat} {spare : Nat → Bool} {held : Bool} {v : Value} {d : DataW H} {p : List MemPlace} (hv : Value.okWide Tryd.prog w r b0 23 v) (h : DataW.Trod enc Tryd.prog w base spare held 23 v d p) :
    ∃ (k : Int) (t i : Bool), v = .agg #[.int .i64 k, .bool t, .bool i] ∧ d = .agg [.lit (.int .i64 k), .lit (.bool t), .lit (.bool i)] ∧ p = [] ∧ (Lit.int .i64 k).wf = true := by
  obtain ⟨c0, c1, c2, y0, y1, y2, m, rfl, rfl, rfl, hy0, hy1, hy2⟩ := Go.Joins.open_agg3 Tryd.underlying23 (by kernel_rfl) cells_wish hv h
  obtain ⟨a, e0, rfl, wa⟩ := DataW.trod_int Tryd.underlying3 hy0
  obtain ⟨b, e1, rfl⟩ := DataW.trod_bool Tryd.underlying4 hy1
  obtain ⟨c, e2, rfl⟩ := DataW.trod_bool Tryd.underlying4 hy2
  simp at e0 e1 e2
  subst e0 e1 e2
  exact ⟨a, b, c, rfl, rfl, rfl, wa⟩
theorem wish_shut {H : Type} {enc : TypeId × Value → H} {w : World} {base : Nat} {spare : Nat → Bool} {held : Bool} {k : Int} {t i : Bool} (wa : (Lit.int .i64 k).wf = true) :
    DataW.Trod enc Tryd.prog w base spare held 23 (.agg #[.int .i64 k, .bool t, .bool i]) (.agg [.lit (.int .i64 k), .lit (.bool t), .lit (.bool i)]) [] :=
  Go.Joins.shut_agg3 (y0 := (.lit (.int .i64 k), [])) (y1 := (.lit (.bool t), [])) (y2 := (.lit (.bool i), [])) Tryd.underlying23 (by kernel_rfl) cells_wish
    ⟨1, by simp [DataW.trod, Tryd.underlying3, wa]⟩ ⟨1, by simp [DataW.trod, Tryd.underlying4]⟩ ⟨1, by simp [DataW.trod, Tryd.underlying4]⟩
theorem ii_cells (L : List Int) : IiE.cells L = L.map (fun z => Value.int .i64 z) := by
  unfold Elem.cells
  induction L with
  | nil => rfl
  | cons a L ih => rw [List.flatMap_cons, ih]; rfl
theorem bo_cells (L : List Bool) : BoE.cells L = L.map (fun z => Value.bool z) := by
  unfold Elem.cells
  induction L with
  | nil => rfl
  | cons a L ih => rw [List.flatMap_cons, ih]; rfl
theorem ints_of_row {w : World} {a : Option Addr} {len cap : Nat} {z : List Int}
    (h : (a = none ∧ len = 0 ∧ cap = 0 ∧ z = []) ∨ ∃ x, a = some x ∧ len ≤ cap ∧ cap ≤ 140737488351232 ∧ z.length = cap ∧ (∀ i, i < z.length → w.cell? (x.add i) = some (.int .i64 (z.getD i 0))) ∧ ∀ n ∈ z, (Lit.int .i64 n).wf = true) :
    ∃ L : List Int, L.length = len ∧ IiE.Rd w a L ∧ len ≤ cap ∧ cap ≤ 140737488351232 := by
  rcases h with ⟨rfl, rfl, rfl, rfl⟩ | ⟨x, rfl, h1, h2, h3, hc, hw⟩
  · exact ⟨[], rfl, .inl ⟨rfl, rfl⟩, by omega, by omega⟩
  · refine ⟨z.take len, by simp; omega, .inr ⟨x, rfl, fun j u hu => ?_⟩, h1, h2⟩
    rw [ii_cells, List.getElem?_map] at hu
    cases hj : (z.take len)[j]? with
    | none => rw [hj] at hu; cases hu
    | some y =>
      rw [hj] at hu
      cases hu
      have hjz : z[j]? = some y := by
        rw [List.getElem?_take] at hj
        split at hj
        · exact hj
        · cases hj
      obtain ⟨hjl, e⟩ := List.getElem?_eq_some_iff.1 hjz
      rw [hc j hjl, List.getD_eq_getElem?_getD, hjz]
      rfl
theorem bools_of_row {w : World} {a : Option Addr} {len cap : Nat} {B : Nat → Bool}
    (h : (a = none ∧ len = 0 ∧ cap = 0) ∨ ∃ x, a = some x ∧ len ≤ cap ∧ cap ≤ 9223372036854775807 ∧ ∀ i, i < cap → w.cell? (x.add i) = some (.bool (B i))) :
    ∃ L : List Bool, L.length = len ∧ BoE.Rd w a L ∧ len ≤ cap ∧ cap ≤ 9223372036854775807 := by
  rcases h with ⟨rfl, rfl, rfl⟩ | ⟨x, rfl, h1, h2, hc⟩
  · exact ⟨[], rfl, .inl ⟨rfl, rfl⟩, by omega, by omega⟩
  · refine ⟨(List.range len).map B, by simp, .inr ⟨x, rfl, fun j u hu => ?_⟩, h1, h2⟩
    rw [bo_cells, List.getElem?_map, List.getElem?_map] at hu
    cases hj : (List.range len)[j]? with
    | none => rw [hj] at hu; cases hu
    | some y =>
      rw [hj] at hu
      cases hu
      obtain ⟨hjl, e⟩ := List.getElem?_eq_some_iff.1 hj
      rw [List.length_range] at hjl
      rw [List.getElem_range] at e
      subst e
      exact hc j (by omega)
theorem parts_law (s : ByteArray) (k : Int) (t i : Bool) (w : World) (hs : s.data.toList.length ≤ 140737488351232) (hk : (Lit.int .i64 k).wf = true) (hw : VM w) : Calls Tryd.prog 3 #[.string s, .agg #[.int .i64 k, .bool t, .bool i]] w fun e w' => e = .returned (.bool true) ∧ Below w.heap.size w w' := by
  have h := parts_walk conD s.data.toList hs k (wf64 hk) t i w hw
  rw [str_of] at h
  exact h.mono (fun e w' h => ⟨h.1, below_g h.2⟩)
theorem back_law (a : Int) (t i : Bool) (ao : Option Addr) (len cap : Nat) (B : Nat → Bool) (w : World) (ha : (Lit.int .i64 a).wf = true) (h : (ao = none ∧ len = 0 ∧ cap = 0) ∨ ∃ x, ao = some x ∧ len ≤ cap ∧ cap ≤ 9223372036854775807 ∧ ∀ i, i < cap → w.cell? (x.add i) = some (.bool (B i))) (hw : VM w) : Calls Tryd.prog 4 #[.int .i64 a, .bool t, .bool i, .slice ao len cap] w fun e w' => e = .returned (.bool true) ∧ Below w.heap.size w w' := by
  obtain ⟨L, rfl, hR, h1, h2⟩ := bools_of_row h
  exact (back_walk conD a (wf64 ha) t i ao cap L w hw hR h1 h2).mono (fun e w' h => ⟨h.1, below_g h.2⟩)
theorem flags_law (a : Int) (ao : Option Addr) (len cap : Nat) (z : List Int) (w : World) (ha : (Lit.int .i64 a).wf = true) (h : (ao = none ∧ len = 0 ∧ cap = 0 ∧ z = []) ∨ ∃ x, ao = some x ∧ len ≤ cap ∧ cap ≤ 140737488351232 ∧ z.length = cap ∧ (∀ i, i < z.length → w.cell? (x.add i) = some (.int .i64 (z.getD i 0))) ∧ ∀ n ∈ z, (Lit.int .i64 n).wf = true) (hw : VM w) : Calls Tryd.prog 5 #[.int .i64 a, .slice ao len cap] w fun e w' => e = .returned (.bool true) ∧ Below w.heap.size w w' := by
  obtain ⟨L, rfl, hR, h1, h2⟩ := ints_of_row h
  exact (flags_walk conD a (wf64 ha) ao cap L w hw hR h1 (by omega)).mono (fun e w' h => ⟨h.1, below_g h.2⟩)
end Go.Proofs.YtljkncgbabiojaaDoor.C23

/- VietBack as a law over the program's contracts. -/
import Derived.Test.YtfehmbicolllkaaWK13
import Derived.Test.YtfehmbicolllkaaVZ13
namespace Go.Proofs.Ytfehmbicolllkaa.C13
open Go.RowKit Go.Proofs.Ytfehmbicolllkaa.Mem Go.Proofs.Ytfehmbicolllkaa.El Go.Proofs.Ytfehmbicolllkaa.Ru
set_option linter.unusedVariables false
theorem ru_cells (L : List Int) : RuE.cells L = L.map (Value.int .i32) := by
  induction L with
  | nil => rfl
  | cons x L ih => rw [cells_cons, ih]; rfl
theorem runes_of_row {w : World} {a : Option Addr} {len cap : Nat} {z : List Int}
    (h : (a = none ∧ len = 0 ∧ cap = 0 ∧ z = []) ∨ ∃ x, a = some x ∧ len ≤ cap ∧ cap ≤ 140737488351232 ∧ z.length = cap ∧ (∀ i, i < z.length → w.cell? (x.add i) = some (.int .i32 (z.getD i 0))) ∧ ∀ n ∈ z, (Lit.int .i32 n).wf = true) :
    ∃ L : List Int, L.length = len ∧ RuE.Rd w a L ∧ (∀ u ∈ L, I32 u) ∧ len ≤ cap ∧ cap ≤ 140737488351232 := by
  rcases h with ⟨rfl, rfl, rfl, rfl⟩ | ⟨x, rfl, h1, h2, h3, hc, hw⟩
  · exact ⟨[], rfl, .inl ⟨rfl, rfl⟩, by simp, by omega, by omega⟩
  · refine ⟨z.take len, by simp; omega, .inr ⟨x, rfl, fun j u hu => ?_⟩, fun u hu => i32_wf (hw u (List.mem_of_mem_take hu)), h1, h2⟩
    rw [ru_cells, List.getElem?_map] at hu
    cases hj : (z.take len)[j]? with
    | none => rw [hj] at hu; cases hu
    | some y =>
      rw [hj] at hu
      cases hu
      have hjz : z[j]? = some y := by
        rw [List.getElem?_take] at hj
        split at hj
        · exact hj
        · cases hj
      obtain ⟨hjl, e⟩ := List.getElem?_eq_some_iff.1 hjz
      rw [hc j hjl, List.getD_eq_getElem?_getD, hjz]
      rfl
theorem back_law (a : Option Addr) (len cap : Nat) (z : List Int) (w : World) (h : (a = none ∧ len = 0 ∧ cap = 0 ∧ z = []) ∨ ∃ x, a = some x ∧ len ≤ cap ∧ cap ≤ 140737488351232 ∧ z.length = cap ∧ (∀ i, i < z.length → w.cell? (x.add i) = some (.int .i32 (z.getD i 0))) ∧ ∀ n ∈ z, (Lit.int .i32 n).wf = true) : Calls Try.prog 6 #[.slice a len cap] w fun e w' => e = .returned (.bool true) ∧ Below w.heap.size w w' := by
  obtain ⟨L, hl, hR, hI, h1, h2⟩ := runes_of_row h
  exact (back_walk con a cap L len hl w trivial hR hI h1 h2).mono (fun e w' h => ⟨h.1, below_g h.2⟩)
end Go.Proofs.Ytfehmbicolllkaa.C13

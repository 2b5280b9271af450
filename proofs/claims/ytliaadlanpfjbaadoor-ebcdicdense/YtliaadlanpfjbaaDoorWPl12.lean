/- EbcdicPlain: the walk. -/
import Derived.Test.YtliaadlanpfjbaaDoorWk12
import Derived.Test.YtliaadlanpfjbaaDoorArgs
namespace Go.Proofs.YtliaadlanpfjbaaDoor.C12
open Go.ChangeShapes Go.WideShapes Go.ChangeAt Go.RowKit Go.Proofs.YtliaadlanpfjbaaDoor.Mem Go.Proofs.YtliaadlanpfjbaaDoor.El Go.Proofs.YtliaadlanpfjbaaDoor.Ru
set_option linter.unusedVariables false
set_option linter.unusedSimpArgs false

theorem kinds_at (r : Nat) (h : r < 3) : ∃ k, kinds[r]? = some k ∧ k ∈ kinds ∧ I64 k := by
  have hl : r < kinds.length := by simpa [kinds] using h
  refine ⟨kinds[r], List.getElem?_eq_getElem hl, List.getElem_mem hl, ?_⟩
  have : ∀ k ∈ kinds, I64 k := by unfold I64; decide
  exact this _ (List.getElem_mem hl)
theorem kinds_row (w : World) : Calls Tryd.prog 5 #[] w fun e w' => ∃ g, e = .returned (.slice (some ⟨g, 0, none⟩) 3 3) ∧ (∀ (i : Nat) (k : Int), kinds[i]? = some k → w'.cell? ⟨g, i, none⟩ = some (.int .i64 k)) ∧ w.grownBy w' none :=
  (kinds_any w).mono (by
    rintro e w' ⟨rfl, rfl⟩
    refine ⟨_, rfl, ?_, World.grownBy_alloc _ _ _⟩
    intro i k h
    have hb : (w.alloc (.cells (kinds.map (Value.int .i64)).toArray 3)).heap[w.heap.size]? = some (.cells (kinds.map (Value.int .i64)).toArray 3 (0, 0)) := heap_alloc_new w _
    rw [cell_at hb]
    simp [h])
end Go.Proofs.YtliaadlanpfjbaaDoor.C12

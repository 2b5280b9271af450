/- DosPlain: the walk. -/
import Derived.Test.YtjmpdlkckpediaaDoorWk11
import Derived.Test.YtjmpdlkckpediaaDoorArgs
namespace Go.Proofs.YtjmpdlkckpediaaDoor.C11
open Go.ChangeShapes Go.WideShapes Go.ChangeAt Go.RowKit Go.Proofs.YtjmpdlkckpediaaDoor.Mem Go.Proofs.YtjmpdlkckpediaaDoor.El Go.Proofs.YtjmpdlkckpediaaDoor.Ru
set_option linter.unusedVariables false
set_option linter.unusedSimpArgs false

theorem kinds_at (r : Nat) (h : r < 7) : ∃ k, kinds[r]? = some k ∧ k ∈ kinds ∧ I64 k := by
  have hl : r < kinds.length := by simpa [kinds] using h
  refine ⟨kinds[r], List.getElem?_eq_getElem hl, List.getElem_mem hl, ?_⟩
  have : ∀ k ∈ kinds, I64 k := by unfold I64; decide
  exact this _ (List.getElem_mem hl)
theorem kinds_row (w : World) : Calls Tryd.prog 5 #[] w fun e w' => ∃ g, e = .returned (.slice (some ⟨g, 0, none⟩) 7 7) ∧ (∀ (i : Nat) (k : Int), kinds[i]? = some k → w'.cell? ⟨g, i, none⟩ = some (.int .i64 k)) ∧ w.grownBy w' none :=
  (kinds_any w).mono (by
    rintro e w' ⟨rfl, rfl⟩
    refine ⟨_, rfl, ?_, World.grownBy_alloc _ _ _⟩
    intro i k h
    have hb : (w.alloc (.cells (kinds.map (Value.int .i64)).toArray 3)).heap[w.heap.size]? = some (.cells (kinds.map (Value.int .i64)).toArray 3 (0, 0)) := heap_alloc_new w _
    rw [cell_at hb]
    simp [h])
theorem scI_low {k : Int} {b : Nat} (hk : k ∈ kinds) (h : b < 128) : scI k b = some b := scI_of hk (by rw [atR, if_pos h]) (by omega)
theorem byI_low {k : Int} {b : Nat} (hk : k ∈ kinds) (h : b < 128) : byI k (b : Int) = some b := by
  obtain ⟨c, h1, h2, h3⟩ := scI_back (by omega) (scI_low hk h)
  rw [scI_low hk (by omega)] at h3
  rw [h1, h3]

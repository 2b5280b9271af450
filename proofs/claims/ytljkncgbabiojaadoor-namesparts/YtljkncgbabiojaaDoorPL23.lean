/- The program's list of layer 23: a row of entries, made by one region: a walk. -/
import Derived.Test.YtljkncgbabiojaaDoorPM23
import Derived.Test.YtljkncgbabiojaaDoorCb
import Derived.Laws.Tables
import Derived.Great.BuildSlice
import Derived.Deep.Cut
namespace Go.Proofs.YtljkncgbabiojaaDoor.C23
open Go.ChangeShapes Go.WideShapes Go.ChangeAt Go.RowKit Go.Proofs.YtljkncgbabiojaaDoor.Mem Go.Proofs.YtljkncgbabiojaaDoor.El Go.Proofs.YtljkncgbabiojaaDoor.St Go.Proofs.YtljkncgbabiojaaDoor.Cb
set_option linter.unusedVariables false
set_option linter.unusedSimpArgs false

theorem wpList_brun2 {P : Program} {ops : Array Oper} {Q : Exit → Act → World → Prop} {N : Nat} (L : List Oper) (a : Act) (w : World) (hN : w.heap.size = N) (v : Value) (bs : List (Array Value × TypeId)) (h : (brun P N L a 0).map (fun q => (q.1.tmps.getD 0 undef, q.1.defers, q.2)) = some (v, [], bs))
    (hK : ∀ b : Act, b.tmps.getD 0 undef = v → b.defers = [] → wpList P ops Q [] b (allocs w bs)) : wpList P ops Q L a w := by
  obtain ⟨⟨b, bs'⟩, h1, h2⟩ := Option.map_eq_some_iff.1 h
  simp only [Prod.mk.injEq] at h2
  obtain ⟨h2, h3, h4⟩ := h2
  subst h4
  exact wpList_brun L a 0 w b _ hN h1 (hK b h2 h3)
set_option maxRecDepth 100000 in
set_option maxHeartbeats 1000000 in
theorem list_any (w : World) : Calls Tryd.prog 22 #[] w fun e w' => ∃ (G : Nat) (A : Nat → Nat), e = .returned (.slice (some ⟨G, 0, none⟩) 56 56) ∧ Hid (LS G A w') ∧ w.grownBy w' none ∧ Hid (∀ i, w.heap.size ≤ A i) := by
  have hS := ls_made w
  have hG := allocs_grown (blks w.heap.size) w
  generalize hN : w.heap.size = N at hS
  go_enter Tryd.func22, Tryd.ntmps22
  go_upto_region 1 with fail
  refine wp_region_lit ?_
  refine wpList_brun2 _ _ w hN (.slice (some ⟨N + 56, 0, none⟩) 56 56) (blks N) (by kernel_rfl) ?_
  intro b hx hd
  refine wpList_nil ?_
  rw [hN] at hG
  generalize allocs w (blks N) = w2 at *
  go_wp2
  refine bodyPost_ret (v := .slice (some ⟨N + 56, 0, none⟩) 56 56) (by simp [results, Tryd.results22, go_sem]; rw [← Array.getD_eq_getD_getElem?]; exact hx) hd ⟨N + 56, fun i => N + i, rfl, Hid.mk' hS, hG, Hid.mk' (fun i => Nat.le_add_right _ _)⟩
end Go.Proofs.YtljkncgbabiojaaDoor.C23

/- Regions that build values and rows alone, as one step. -/
import Derived.Test.YtljkncgbabiojaaDoorNA23
import Derived.Test.YtljkncgbabiojaaDoorCb
import Derived.Laws.Tables
import Derived.Great.BuildSlice
import Derived.Deep.Cut
namespace Go.Proofs.YtljkncgbabiojaaDoor.C23
open Go.ChangeShapes Go.WideShapes Go.ChangeAt Go.RowKit Go.Proofs.YtljkncgbabiojaaDoor.Mem Go.Proofs.YtljkncgbabiojaaDoor.El Go.Proofs.YtljkncgbabiojaaDoor.St Go.Proofs.YtljkncgbabiojaaDoor.Cb
set_option linter.unusedVariables false
set_option linter.unusedSimpArgs false

/-- The cells of a slice literal. -/
def mkS (P : Program) (t : TypeId) (len : Nat) (parts : Array (Nat × Value)) : Option (Array Value × TypeId) :=
  match P.underlying t with
  | some (.slice e) =>
    match P.info? e with
    | some ie =>
      match ie.zero with
      | some z => if len * ie.size > 2 ^ 24 then none else if len * ie.size = 0 then none else
          (Instr.fill (fun i => some (i * ie.size, ie.size)) ((Array.range (len * ie.size)).map (z.cells[· % z.cells.size]!)) parts.toList).map (fun c => (c, e))
      | none => none
    | none => none
  | _ => none
theorem run_mkS {P : Program} {t : TypeId} {len : Nat} {parts : Array (Nat × Value)} {cs : Array Value} {e : TypeId} (h : mkS P t len parts = some (cs, e)) (w : World) : (Instr.buildSlice t len parts).run P w = .ok (.slice (some ⟨w.heap.size, 0, none⟩) len len) (w.alloc (.cells cs e)) := by
  unfold mkS at h
  split at h
  · rename_i e' hu
    split at h
    · rename_i ie hie
      split at h
      · rename_i z hz
        by_cases h1 : len * ie.size > 2 ^ 24
        · rw [if_pos h1] at h; cases h
        · rw [if_neg h1] at h
          by_cases h2 : len * ie.size = 0
          · rw [if_pos h2] at h; cases h
          · rw [if_neg h2] at h
            obtain ⟨c, hc, h3⟩ := Option.map_eq_some_iff.1 h
            cases h3
            exact run_buildSlice w t e len parts cs ie z hu hie hz h1 h2 hc
      · cases h
    · cases h
  · cases h
/-- Operations that build values and rows alone, run one behind the other: N blocks lie there, k have been made. -/
def brun (P : Program) (N : Nat) : List Oper → Act → Nat → Option (Act × List (Array Value × TypeId))
  | [], a, _ => some (a, [])
  | o :: r, a, k =>
    match o.guard, o.op with
    | none, .build T parts =>
      match P.built T (parts.map fun p => (p.1, a.eval p.2)).toList with
      | some cs => brun P N r (a.put o.dst (.agg cs)) k
      | none => none
    | none, .assign x => brun P N r (a.put o.dst (a.eval x)) k
    | none, .buildSlice t len parts =>
      match mkS P t len (parts.map fun p => (p.1, a.eval p.2)) with
      | some q => (brun P N r (a.put o.dst (.slice (some ⟨N + k, 0, none⟩) len len)) (k + 1)).map (fun z => (z.1, q :: z.2))
      | none => none
    | _, _ => none
theorem hsz_alloc (w : World) (o : Obj) : (w.alloc o).heap.size = w.heap.size + 1 := by simp
def allocs (w : World) (bs : List (Array Value × TypeId)) : World := bs.foldl (fun w x => w.alloc (.cells x.1 x.2)) w
theorem wpList_brun {P : Program} {ops : Array Oper} {Q : Exit → Act → World → Prop} {N : Nat} : ∀ (L : List Oper) (a : Act) (k : Nat) (w : World) (b : Act) (bs : List (Array Value × TypeId)), w.heap.size = N + k → brun P N L a k = some (b, bs) → wpList P ops Q [] b (allocs w bs) → wpList P ops Q L a w
  | [], a, k, w, b, bs, hN, h, hK => by
    unfold brun at h
    cases h
    exact hK
  | o :: r, a, k, w, b, bs, hN, h, hK => by
    unfold brun at h
    split at h
    · rename_i T parts hg ho
      split at h
      · rename_i cs hc
        refine wpList_plain hg fun K' hK' => ?_
        have hr := run_build (P := P) w T (parts.map fun p => (p.1, a.eval p.2)) cs hc
        unfold Oper.wp execOp
        simp only [ho, Sem.run_bind, Sem.run_pure, Result.andThen_ok, hr]
        exact hK' _ _ (wpList_brun r _ k w b bs hN h hK)
      · cases h
    · rename_i x hg ho
      refine wpList_plain hg fun K' hK' => ?_
      unfold Oper.wp execOp
      simp only [ho, Sem.run_bind, Sem.run_pure, Result.andThen_ok]
      exact hK' _ _ (wpList_brun r _ k w b bs hN h hK)
    · rename_i t len parts hg ho
      split at h
      · rename_i q hq
        obtain ⟨z, hz, h2⟩ := Option.map_eq_some_iff.1 h
        cases h2
        refine wpList_plain hg fun K' hK' => ?_
        have hr := run_mkS (cs := q.1) (e := q.2) hq w
        rw [hN] at hr
        unfold Oper.wp execOp
        simp only [ho, Sem.run_bind, Sem.run_pure, Result.andThen_ok, hr]
        exact hK' _ _ (wpList_brun r _ (k + 1) _ _ _ (by rw [hsz_alloc, hN]; rfl) hz hK)
      · cases h
    · cases h
end Go.Proofs.YtljkncgbabiojaaDoor.C23

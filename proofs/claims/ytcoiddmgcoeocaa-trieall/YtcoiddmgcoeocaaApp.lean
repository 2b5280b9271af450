/- append of pairs and of ranges onto rows that a call owns, in this program. -/
import Derived.Test.YtcoiddmgcoeocaaSmall
namespace Go.Proofs.Ytcoiddmgcoeocaa.Rn
open Go.ChangeShapes Go.WideShapes Go.ChangeAt Go.RowKit Go.Proofs.Ytcoiddmgcoeocaa.Mem Go.Proofs.Ytcoiddmgcoeocaa.Ucs Go.Proofs.Ytcoiddmgcoeocaa.El
set_option linter.unusedVariables false
set_option linter.unusedSimpArgs false

theorem infoP : (Try.prog.info? 30).map (fun i => (i.zero, i.size, i.bytes)) = some (some (.agg #[.int .i64 0, .int .i32 0]), 2, 16) := by kernel_rfl
theorem infoR : (Try.prog.info? 71).map (fun i => (i.zero, i.size, i.bytes)) = some (some (.agg #[.int .i64 0, .int .i64 0, .int .i32 0]), 3, 24) := by kernel_rfl
theorem info_parts {o : Option TypeInfo} {z : Option Value} {a b : Nat} (h : o.map (fun i => (i.zero, i.size, i.bytes)) = some (z, a, b)) : ∃ i, o = some i ∧ i.zero = z ∧ i.size = a ∧ i.bytes = b := by
  cases o with
  | none => simp at h
  | some i =>
    simp only [Option.map_some, Option.some.injEq, Prod.mk.injEq] at h
    exact ⟨i, rfl, h.1, h.2.1, h.2.2⟩
theorem zP : (Value.agg #[.int .i64 0, .int .i32 0]).cells.size = 2 := by first | rfl | decide | simp [Value.cells]
theorem zR : (Value.agg #[.int .i64 0, .int .i64 0, .int .i32 0]).cells.size = 3 := by first | rfl | decide | simp [Value.cells]

theorem wpList_pair (w : World) {ops : Array Oper} {rest : List Oper} {o : Oper} {a : Act} {Q : Exit → Act → World → Prop} (hgd : o.guard = none) (s x : Operand)
    (ho : o.op = .call { callee := .builtin .append, args := #[s, x], argTypes := #[22, 22] })
    (ao : Option Addr) (cap : Nat) (L : List Pr) (hs : a.eval s = .slice ao L.length cap) (h : PE.Own w ao cap L) (xv : Value) (hx : a.eval x = xv) (M : List Pr) (hsrc : Src Try.prog 2 22 xv M.length (PE.cells M) w) (hb : L.length + M.length ≤ 8796093022208)
    (R : List Pr) (hR : L ++ M = R)
    (hK : ∀ ao' cap' w', PE.Own w' ao' cap' R → w.grownBy w' (blk ao) → (ao' = ao ∨ ao' = some ⟨w.heap.size, 0, none⟩) → wpList Try.prog ops Q rest (a.put o.dst (.slice ao' R.length cap')) w') : wpList Try.prog ops Q (o :: rest) a w := by
  obtain ⟨i0, hi, hz0, hz1, hz2⟩ := info_parts infoP
  exact wpList_append_any (E := PE) w hgd s x _ _ ho i0 _ 16 Try.underlying22 hi hz0 hz1 hz2 zP ao cap L hs h xv hx M hsrc (by omega) (by simp only [maxLen]; omega) R hR hK
theorem wpList_range (w : World) {ops : Array Oper} {rest : List Oper} {o : Oper} {a : Act} {Q : Exit → Act → World → Prop} (hgd : o.guard = none) (s x : Operand)
    (ho : o.op = .call { callee := .builtin .append, args := #[s, x], argTypes := #[43, 43] })
    (ao : Option Addr) (cap : Nat) (L : List Rg) (hs : a.eval s = .slice ao L.length cap) (h : RE.Own w ao cap L) (xv : Value) (hx : a.eval x = xv) (M : List Rg) (hsrc : Src Try.prog 3 43 xv M.length (RE.cells M) w) (hb : L.length + M.length ≤ 5864062014805)
    (R : List Rg) (hR : L ++ M = R)
    (hK : ∀ ao' cap' w', RE.Own w' ao' cap' R → w.grownBy w' (blk ao) → (ao' = ao ∨ ao' = some ⟨w.heap.size, 0, none⟩) → wpList Try.prog ops Q rest (a.put o.dst (.slice ao' R.length cap')) w') : wpList Try.prog ops Q (o :: rest) a w := by
  obtain ⟨i0, hi, hz0, hz1, hz2⟩ := info_parts infoR
  exact wpList_append_any (E := RE) w hgd s x _ _ ho i0 _ 24 Try.underlying43 hi hz0 hz1 hz2 zR ao cap L hs h xv hx M hsrc (by omega) (by simp only [maxLen]; omega) R hR hK
theorem src_pair {w : World} {ao : Option Addr} {M : List Pr} (h : PE.Rd w ao M) (c : Nat) : Src Try.prog 2 22 (.slice ao M.length c) M.length (PE.cells M) w := src_of (E := PE) h 22 c Try.underlying22
theorem src_range {w : World} {ao : Option Addr} {M : List Rg} (h : RE.Rd w ao M) (c : Nat) : Src Try.prog 3 43 (.slice ao M.length c) M.length (RE.cells M) w := src_of (E := RE) h 43 c Try.underlying43
theorem new_pair (w : World) (c u : Int) : PE.Rd (w.alloc (.cells #[.int .i64 c, .int .i32 u] 30)) (some ⟨w.heap.size, 0, none⟩) [(c, u)] := rd_new w _ _ _ rfl
theorem new_range (w : World) (f t a : Int) : RE.Rd (w.alloc (.cells #[.int .i64 f, .int .i64 t, .int .i32 a] 71)) (some ⟨w.heap.size, 0, none⟩) [(f, t, a)] := rd_new w _ _ _ rfl
theorem src_pair1 (w : World) (c u : Int) : Src Try.prog 2 22 (.slice (some ⟨w.heap.size, 0, none⟩) 1 1) 1 (PE.cells [(c, u)]) (w.alloc (.cells #[.int .i64 c, .int .i32 u] 30)) := src_pair (new_pair w c u) 1
theorem src_range1 (w : World) (f t a : Int) : Src Try.prog 3 43 (.slice (some ⟨w.heap.size, 0, none⟩) 1 1) 1 (RE.cells [(f, t, a)]) (w.alloc (.cells #[.int .i64 f, .int .i64 t, .int .i32 a] 71)) := src_range (new_range w f t a) 1
end Go.Proofs.Ytcoiddmgcoeocaa.Rn

/- Rows of ints in memory; a list that is filtered step by step. -/
import Derived.Test.YtljkncgbabiojaaDoorRows
import Derived.WalkKit
import Derived.ProofKit
import Derived.Test.YtljkncgbabiojaaDoorEl
namespace Go.Proofs.YtljkncgbabiojaaDoor.Ri
open Go.ChangeShapes Go.WideShapes Go.ChangeAt Go.RowKit Go.Proofs.YtljkncgbabiojaaDoor.Mem Go.Proofs.YtljkncgbabiojaaDoor.El
set_option linter.unusedVariables false
set_option linter.unusedSimpArgs false

/-- Rows of ints. -/
def IiE : Elem Int where
  ty := 3
  size := 1
  enc z := [.int .i64 z]
  len _ := rfl
  one := by intro a u hu; simp at hu; rw [hu]; rfl
theorem infoI : (Tryd.prog.info? 3).map (fun i => (i.zero, i.size, i.bytes)) = some (some (.int .i64 0), 1, 8) := by kernel_rfl
theorem iparts {o : Option TypeInfo} {z : Option Value} {a b : Nat} (h : o.map (fun i => (i.zero, i.size, i.bytes)) = some (z, a, b)) : ∃ i, o = some i ∧ i.zero = z ∧ i.size = a ∧ i.bytes = b := by
  cases o with
  | none => simp at h
  | some i =>
    simp only [Option.map_some, Option.some.injEq, Prod.mk.injEq] at h
    exact ⟨i, rfl, h.1, h.2.1, h.2.2⟩
theorem wpList_ints (w : World) {ops : Array Oper} {rest : List Oper} {o : Oper} {a : Act} {Q : Exit → Act → World → Prop} (hgd : o.guard = none) (s x : Operand)
    (ho : o.op = .call { callee := .builtin .append, args := #[s, x], argTypes := #[35, 35] })
    (ao : Option Addr) (cap : Nat) (L : List Int) (hs : a.eval s = .slice ao L.length cap) (h : IiE.Own w ao cap L) (xv : Value) (hx : a.eval x = xv) (M : List Int) (hsrc : Src Tryd.prog 1 35 xv M.length (IiE.cells M) w) (hb : L.length + M.length ≤ 1000000)
    (R : List Int) (hR : L ++ M = R)
    (hK : ∀ ao' cap' w', IiE.Own w' ao' cap' R → w.grownBy w' (blk ao) → (ao' = ao ∨ ao' = some ⟨w.heap.size, 0, none⟩) → wpList Tryd.prog ops Q rest (a.put o.dst (.slice ao' R.length cap')) w') : wpList Tryd.prog ops Q (o :: rest) a w := by
  obtain ⟨i0, hi, hz0, hz1, hz2⟩ := iparts infoI
  exact wpList_append_any (E := IiE) w hgd s x _ _ ho i0 _ 8 Tryd.underlying35 hi hz0 hz1 hz2 (by rfl) ao cap L hs h xv hx M hsrc (by omega) (by simp only [maxLen]; omega) R hR hK
theorem src_int1 (w : World) (z : Int) : Src Tryd.prog 1 35 (.slice (some ⟨w.heap.size, 0, none⟩) 1 1) 1 (IiE.cells [z]) (w.alloc (.cells #[.int .i64 z] 3)) :=
  src_of (E := IiE) (rd_new w _ _ [z] rfl) 35 1 Tryd.underlying35
theorem icell {w : World} {ao : Option Addr} {L : List Int} (h : IiE.Rd w ao L) {i : Nat} (hi : i < L.length) : ∃ b o, ao = some ⟨b, o, none⟩ ∧ b < w.heap.size ∧ w.cell? ⟨b, o + i, none⟩ = some (.int .i64 L[i]) := by
  obtain ⟨b, o, rfl, hb, hc⟩ := h.at (List.ne_nil_of_length_pos (by omega)) (by decide)
  refine ⟨b, o, rfl, hb, ?_⟩
  have := hc i hi 0 (.int .i64 L[i]) rfl
  have e : i * IiE.size + 0 = i := Nat.mul_one i
  rwa [e] at this
theorem filt_step : ∀ (L : List Nat) (i : Nat), L.Pairwise (· < ·) → L.filter (fun n => decide (n < i + 1)) = L.filter (fun n => decide (n < i)) ++ (if i ∈ L then [i] else [])
  | [], i, _ => by simp
  | a :: L, i, h => by
    obtain ⟨h1, h2⟩ := List.pairwise_cons.1 h
    have ih := filt_step L i h2
    by_cases ha : a < i
    · rw [List.filter_cons_of_pos (by simp; omega), List.filter_cons_of_pos (by simpa using ha), ih]
      by_cases hi : i ∈ L
      · rw [if_pos hi, if_pos (List.mem_cons_of_mem _ hi)]; rfl
      · rw [if_neg hi, if_neg (by intro h; rcases List.mem_cons.1 h with rfl | h; omega; exact hi h)]; rfl
    · have hn : ∀ j, j ≤ i + 1 → j ≤ a + 1 → L.filter (fun n => decide (n < j)) = [] := by
        intro j hj hj2
        rw [List.filter_eq_nil_iff]
        intro n hn2
        have := h1 n hn2
        simp; omega
      by_cases e : a = i
      · subst e
        rw [List.filter_cons_of_pos (by simp), List.filter_cons_of_neg (by simp), if_pos (by simp), hn a (by omega) (by omega), hn (a + 1) (by omega) (by omega)]
        rfl
      · rw [List.filter_cons_of_neg (by simp; omega), List.filter_cons_of_neg (by simpa using ha), hn i (by omega) (by omega), hn (i + 1) (by omega) (by omega), if_neg (by
          intro h
          rcases List.mem_cons.1 h with h | h
          · exact e h.symm
          · have := h1 i h; omega)]
        rfl
end Go.Proofs.YtljkncgbabiojaaDoor.Ri

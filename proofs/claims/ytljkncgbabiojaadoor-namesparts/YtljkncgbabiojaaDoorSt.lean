/- Rows of texts in memory: what a call reads, rows that a call owns, append onto them. -/
import Derived.Test.YtljkncgbabiojaaDoorRows
import Derived.WalkKit
import Derived.ProofKit
import Derived.Test.YtljkncgbabiojaaDoorEl
namespace Go.Proofs.YtljkncgbabiojaaDoor.St
open Go.ChangeShapes Go.WideShapes Go.ChangeAt Go.RowKit Go.Proofs.YtljkncgbabiojaaDoor.Mem Go.Proofs.YtljkncgbabiojaaDoor.El
set_option linter.unusedVariables false
set_option linter.unusedSimpArgs false

/-- Rows of texts. -/
def StE : Elem (List UInt8) where
  ty := 9
  size := 1
  enc s := [.string (str s)]
  len _ := rfl
  one := by intro a u hu; simp at hu; rw [hu]; rfl
theorem infoSt : (Tryd.prog.info? 9).map (fun i => (i.zero, i.size, i.bytes)) = some (some (.string ⟨#[]⟩), 1, 16) := by kernel_rfl
theorem iparts {o : Option TypeInfo} {z : Option Value} {a b : Nat} (h : o.map (fun i => (i.zero, i.size, i.bytes)) = some (z, a, b)) : ∃ i, o = some i ∧ i.zero = z ∧ i.size = a ∧ i.bytes = b := by
  cases o with
  | none => simp at h
  | some i =>
    simp only [Option.map_some, Option.some.injEq, Prod.mk.injEq] at h
    exact ⟨i, rfl, h.1, h.2.1, h.2.2⟩
theorem wpList_strs (w : World) {ops : Array Oper} {rest : List Oper} {o : Oper} {a : Act} {Q : Exit → Act → World → Prop} (hgd : o.guard = none) (s x : Operand)
    (ho : o.op = .call { callee := .builtin .append, args := #[s, x], argTypes := #[38, 38] })
    (ao : Option Addr) (cap : Nat) (L : List (List UInt8)) (hs : a.eval s = .slice ao L.length cap) (h : StE.Own w ao cap L) (xv : Value) (hx : a.eval x = xv) (M : List (List UInt8)) (hsrc : Src Tryd.prog 1 38 xv M.length (StE.cells M) w) (hb : L.length + M.length ≤ 1000000)
    (R : List (List UInt8)) (hR : L ++ M = R)
    (hK : ∀ ao' cap' w', StE.Own w' ao' cap' R → w.grownBy w' (blk ao) → (ao' = ao ∨ ao' = some ⟨w.heap.size, 0, none⟩) → wpList Tryd.prog ops Q rest (a.put o.dst (.slice ao' R.length cap')) w') : wpList Tryd.prog ops Q (o :: rest) a w := by
  obtain ⟨i0, hi, hz0, hz1, hz2⟩ := iparts infoSt
  exact wpList_append_any (E := StE) w hgd s x _ _ ho i0 _ 16 Tryd.underlying38 hi hz0 hz1 hz2 (by rfl) ao cap L hs h xv hx M hsrc (by omega) (by simp only [maxLen]; omega) R hR hK
theorem src_strs {w : World} {ao : Option Addr} {M : List (List UInt8)} (h : StE.Rd w ao M) (c : Nat) : Src Tryd.prog 1 38 (.slice ao M.length c) M.length (StE.cells M) w := src_of (E := StE) h 38 c Tryd.underlying38
/-- A literal of texts that the walk has just made. -/
theorem own_lit (w : World) (cs : Array Value) (L : List (List UInt8)) (h : cs.toList = StE.cells L) (hm : L.length ≤ 1000000) : StE.Own (w.alloc (.cells cs 9)) (some ⟨w.heap.size, 0, none⟩) L.length L := by
  refine .inr ⟨w.heap.size, cs, rfl, heap_alloc_new w _, Nat.le_refl _, by simp only [maxLen]; omega, ?_, ?_⟩
  · rw [← Array.length_toList, h, cells_length]
  · rw [h]
    exact List.take_of_length_le (by rw [cells_length]; exact Nat.le_refl _)
theorem stcell {w : World} {ao : Option Addr} {L : List (List UInt8)} (h : StE.Rd w ao L) {i : Nat} (hi : i < L.length) : ∃ b o, ao = some ⟨b, o, none⟩ ∧ b < w.heap.size ∧ w.cell? ⟨b, o + i, none⟩ = some (.string (str L[i])) := by
  obtain ⟨b, o, rfl, hb, hc⟩ := h.at (List.ne_nil_of_length_pos (by omega)) (by decide)
  refine ⟨b, o, rfl, hb, ?_⟩
  have := hc i hi 0 (.string (str L[i])) rfl
  have e : i * StE.size + 0 = i := Nat.mul_one i
  rwa [e] at this
/-- What a call answers: a row of texts that is the caller's own. -/
def STold (w : World) (L : List (List UInt8)) (e : Ending) (w' : World) : Prop := ∃ ao cap, e = .returned (.slice ao L.length cap) ∧ StE.Own w' ao cap L ∧ w.grownBy w' none ∧ ∀ g, blk ao = some g → w.heap.size ≤ g
theorem told_nil (w : World) : STold w [] (.returned (.slice none 0 0)) w := ⟨none, 0, rfl, .inl ⟨rfl, rfl, rfl⟩, grownBy_refl _ _, by simp [blk]⟩
theorem told_lit (w : World) (cs : Array Value) (L : List (List UInt8)) (n : Nat) (hn : L.length = n) (h : cs.toList = StE.cells L) (hm : L.length ≤ 1000000) : STold w L (.returned (.slice (some ⟨w.heap.size, 0, none⟩) n n)) (w.alloc (.cells cs 9)) := by
  subst hn
  exact ⟨_, _, rfl, own_lit w cs L h hm, World.grownBy_alloc _ _ _, fun g hg => by simp [blk] at hg; omega⟩
end Go.Proofs.YtljkncgbabiojaaDoor.St

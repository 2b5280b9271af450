/- Rows of runes, and the document's SameRunes of the same rows: a walk. -/
import Derived.Test.YtjhdepbiakekaaaRows
import Derived.WalkKit
import Derived.ProofKit
import Derived.Test.YtjhdepbiakekaaaEl
import Derived.BigQuiet
import Derived.Deep.QuietTactic
namespace Go.Proofs.Ytjhdepbiakekaaa.Ru
open Go.ChangeShapes Go.WideShapes Go.ChangeAt Go.RowKit Go.Proofs.Ytjhdepbiakekaaa.Mem Go.Proofs.Ytjhdepbiakekaaa.El
set_option linter.unusedVariables false
set_option linter.unusedSimpArgs false

/-- Rows of runes. -/
def RuE : Elem Int where
  ty := 21
  size := 1
  enc z := [.int .i32 z]
  len _ := rfl
  one := by intro a u hu; simp at hu; rw [hu]; rfl
theorem infoRu : (Try.prog.info? 21).map (fun i => (i.zero, i.size, i.bytes)) = some (some (.int .i32 0), 1, 4) := by kernel_rfl
theorem iparts {o : Option TypeInfo} {z : Option Value} {a b : Nat} (h : o.map (fun i => (i.zero, i.size, i.bytes)) = some (z, a, b)) : ∃ i, o = some i ∧ i.zero = z ∧ i.size = a ∧ i.bytes = b := by
  cases o with
  | none => simp at h
  | some i =>
    simp only [Option.map_some, Option.some.injEq, Prod.mk.injEq] at h
    exact ⟨i, rfl, h.1, h.2.1, h.2.2⟩
theorem wpList_rune (w : World) {ops : Array Oper} {rest : List Oper} {o : Oper} {a : Act} {Q : Exit → Act → World → Prop} (hgd : o.guard = none) (s x : Operand)
    (ho : o.op = .call { callee := .builtin .append, args := #[s, x], argTypes := #[29, 29] })
    (ao : Option Addr) (cap : Nat) (L : List Int) (hs : a.eval s = .slice ao L.length cap) (h : RuE.Own w ao cap L) (xv : Value) (hx : a.eval x = xv) (M : List Int) (hsrc : Src Try.prog 1 29 xv M.length (RuE.cells M) w) (hb : L.length + M.length ≤ 35184372088832)
    (R : List Int) (hR : L ++ M = R)
    (hK : ∀ ao' cap' w', RuE.Own w' ao' cap' R → w.grownBy w' (blk ao) → (ao' = ao ∨ ao' = some ⟨w.heap.size, 0, none⟩) → wpList Try.prog ops Q rest (a.put o.dst (.slice ao' R.length cap')) w') : wpList Try.prog ops Q (o :: rest) a w := by
  obtain ⟨i0, hi, hz0, hz1, hz2⟩ := iparts infoRu
  exact wpList_append_any (E := RuE) w hgd s x _ _ ho i0 _ 4 Try.underlying29 hi hz0 hz1 hz2 (by rfl) ao cap L hs h xv hx M hsrc (by omega) (by simp only [maxLen]; omega) R hR hK
theorem src_rune1 (w : World) (z : Int) : Src Try.prog 1 29 (.slice (some ⟨w.heap.size, 0, none⟩) 1 1) 1 (RuE.cells [z]) (w.alloc (.cells #[.int .i32 z] 21)) :=
  src_of (E := RuE) (rd_new w _ _ [z] rfl) 29 1 Try.underlying29
theorem rucell {w : World} {ao : Option Addr} {L : List Int} (h : RuE.Rd w ao L) {i : Nat} (hi : i < L.length) : ∃ b o, ao = some ⟨b, o, none⟩ ∧ b < w.heap.size ∧ w.cell? ⟨b, o + i, none⟩ = some (.int .i32 L[i]) := by
  obtain ⟨b, o, rfl, hb, hc⟩ := h.at (List.ne_nil_of_length_pos (by omega)) (by decide)
  refine ⟨b, o, rfl, hb, ?_⟩
  have := hc i hi 0 (.int .i32 L[i]) rfl
  have e : i * RuE.size + 0 = i := Nat.mul_one i
  rwa [e] at this

set_option maxRecDepth 100000 in
set_option maxHeartbeats 1000000 in
theorem same_runes (ao bo : Option Addr) (ca cb : Nat) (L : List Int) (n : Nat) (hn : L.length = n) (w : World) (hA : RuE.Rd w ao L) (hB : RuE.Rd w bo L) (h1 : n ≤ ca) (h2 : ca ≤ 9223372036854775807) (h3 : n ≤ cb) (h4 : cb ≤ 9223372036854775807) :
    Calls Try.prog 14 #[.slice ao n ca, .slice bo n cb] w fun e w' => e = .returned (.bool true) ∧ w.grownBy w' none := by
  have hA0 := Hid.mk' hA
  have hB0 := Hid.mk' hB
  have hn0 := Hid.mk' hn
  clear hA hB hn
  go_enter Try.func14, Try.ntmps14
  go_wp2
  go_loopw [5] (fun t5 wx => ∃ i : Nat, i ≤ n ∧ t5 = .int .i64 (i : Int) ∧ Hid (w.grownBy wx none)) (fun t5 _ => n - (intOf t5).toNat)
  case atStart => exact ⟨0, by omega, rfl, grownBy_refl _ _⟩
  case round =>
    obtain ⟨i, hi, rfl, hgx⟩ := hrel
    by_cases hlt : i < n
    · have hiL : i < L.length := by rw [hn0.out]; exact hlt
      obtain ⟨b, o, rfl, hb, x0⟩ := rucell (hA0.out.kept0 hgx.out) hiL
      obtain ⟨b', o', rfl, hb', y0⟩ := rucell (hB0.out.kept0 hgx.out) hiL
      have hlt' : (i : Int) < (n : Int) := by omega
      have hi0 : (0 : Int) ≤ (i : Int) := by omega
      generalize L[i] = z at x0 y0
      clear hiL
      go_wp2
      go_quiet (fail)
      go_wp2
      go_roundw
      case rel => exact ⟨i + 1, by omega, by go_num, Hid.mk' (grownBy_trans hgx.out ⟨rfl, rfl, rfl, Nat.le_refl _, fun _ _ _ => rfl⟩)⟩
      case measure => simp [intOf]; omega
    · obtain rfl : i = n := by omega
      go_wp2
      go_ret
      exact ⟨rfl, hgx.out⟩
end Go.Proofs.Ytjhdepbiakekaaa.Ru

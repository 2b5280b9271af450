/- Sets of numbers that a call makes, as maps to bool. -/
import Derived.Test.YtliaadlanpfjbaaRows
import Derived.Test.YtliaadlanpfjbaaEl
import Derived.WalkSmall
import Derived.Maps.OwnSet
import Derived.WalkKit
import Derived.ProofKit
import Derived.OpenShut
import Derived.WalkSpells
import Derived.WalkLawsBesides
namespace Go.Proofs.Ytliaadlanpfjbaa.Mq
open Go.ChangeShapes Go.WideShapes Go.ChangeAt Go.RowKit Go.Maps Go.Proofs.Ytliaadlanpfjbaa.Mem
set_option linter.unusedVariables false

def MF (w : World) (kt et : TypeId) (b : Nat) (zd : DataW Unit) (F : Lit → DataW Unit) (N : Nat) : Prop :=
  ∃ n D, w.ownsMap Try.prog kt (plainElem (H := Unit) Try.prog et) b n D ∧ n ≤ N ∧ ∀ kl, WideAt.IsKeyLit kl → D.atKey kl zd = F kl
section
variable {w w' : World} {kt et b : Nat} {zd : DataW Unit} {F : Lit → DataW Unit} {N : Nat}
theorem ownsMap_same {H : Type} {P : Program} {t : TypeId} {R : Value → Option (DataW H × List MemPlace)} {w w' : World} {b n : Nat} {D : DataW H} (h : w.ownsMap P t R b n D) (e : w'.heap[b]? = w.heap[b]?) : w'.ownsMap P t R b n D := by
  obtain ⟨es, clock, hb, r⟩ := h
  exact ⟨es, clock, e.trans hb, r⟩
theorem MF.lt (h : MF w kt et b zd F N) : b < w.heap.size := by obtain ⟨n, D, h, _⟩ := h; exact h.lt
theorem MF.isMap (h : MF w kt et b zd F N) : ∃ es clock, w.heap[b]? = some (.map es clock) := by obtain ⟨n, D, ⟨es, clock, hb, _⟩, _⟩ := h; exact ⟨es, clock, hb⟩
theorem MF.same (h : MF w kt et b zd F N) (e : w'.heap[b]? = w.heap[b]?) : MF w' kt et b zd F N := by
  obtain ⟨n, D, h, r⟩ := h
  exact ⟨n, D, ownsMap_same h e, r⟩
theorem MF.kept {row : Option Nat} (h : MF w kt et b zd F N) (hg : w.grownBy w' row) (hne : some b ≠ row) : MF w' kt et b zd F N := h.same (hg.block b h.lt hne)
theorem MF.kept0 (h : MF w kt et b zd F N) (hg : w.grownBy w' none) : MF w' kt et b zd F N := h.kept hg (by simp)
theorem MF.made (w : World) (kt et : TypeId) (zd : DataW Unit) : MF (w.alloc (.map #[] 0)) kt et w.heap.size zd (fun _ => zd) 0 :=
  ⟨0, .map [], World.ownsMap_made w Try.prog kt _, Nat.le_refl _, fun _ _ => rfl⟩
theorem MF.mono (h : MF w kt et b zd F N) {M : Nat} (hM : N ≤ M) {G : Lit → DataW Unit} (hG : ∀ kl, WideAt.IsKeyLit kl → F kl = G kl) : MF w kt et b zd G M := by
  obtain ⟨n, D, h, hn, r⟩ := h
  exact ⟨n, D, h, Nat.le_trans hn hM, fun kl hk => (r kl hk).trans (hG kl hk)⟩
/-- A row of cells is no map. -/
theorem MF.ne_cells (h : MF w kt et b zd F N) {g : Nat} {cs : Array Value} {t : TypeId} {fr : Nat × Nat} (hg : w.heap[g]? = some (.cells cs t fr)) : b ≠ g := by
  intro e
  obtain ⟨es, clock, hb⟩ := h.isMap
  rw [e, hg] at hb
  cases hb
theorem MF.look {t : TypeId} (h : MF w kt et b zd F N) (K : Keyed Try.prog kt) (ht : Try.prog.underlying t = some (.map kt et)) {z : Value} {zp : List MemPlace} (hz : (zeroValue et).run Try.prog w = .ok z w) (hzd : plainElem (H := Unit) Try.prog et z = some (zd, zp))
    {key : Value} {kl : Lit} (hkey : keyOf Try.prog kt key = some kl) (hk : WideAt.IsKeyLit kl) : ∃ v ps, (Instr.lookup t (.map (some b)) key false).run Try.prog w = .ok v w ∧ plainElem (H := Unit) Try.prog et v = some (F kl, ps) := by
  obtain ⟨n, D, ho, _, hF⟩ := h
  obtain ⟨v, ps, h1, h2⟩ := ho.lookup K ht hz hzd hkey
  exact ⟨v, ps, h1, by rw [h2, hF kl hk]⟩
theorem MF.put {t : TypeId} (h : MF w kt et b zd F N) (K : Keyed Try.prog kt) (ht : Try.prog.underlying t = some (.map kt et)) (hN : N < maxLen) {key val : Value} {kl : Lit} {d : DataW Unit} {ps : List MemPlace}
    (hkey : keyOf Try.prog kt key = some kl) (hk : WideAt.IsKeyLit kl) (hv : plainElem (H := Unit) Try.prog et val = some (d, ps)) (G : Lit → DataW Unit) (hG : G kl = d) (hG' : ∀ x, WideAt.IsKeyLit x → x ≠ kl → G x = F x) :
    ∃ w', (Instr.mapUpdate t (.map (some b)) key val).run Try.prog w = .ok () w' ∧ MF w' kt et b zd G (N + 1) ∧ w.grownBy w' (some b) := by
  obtain ⟨n, D, ho, hn, hF⟩ := h
  obtain ⟨w', h1, h2, h3⟩ := ho.update K ht (Nat.lt_of_le_of_lt hn hN) hkey hv
  refine ⟨w', h1, ⟨n + 1, _, h2, by omega, fun x hx => ?_⟩, h3⟩
  by_cases e : x = kl
  · subst e
    rw [atKey_put_same ho.isMap hk, hG]
  · rw [atKey_put_other e, hF x hx, hG' x hx e]
end
theorem wpList_put (w : World) {ops : Array Oper} {rest : List Oper} {o : Oper} {a : Act} {Q : Exit → Act → World → Prop} (hg : o.guard = none) (m x v : Operand) (t : TypeId) (hop : o.op = Op.mapUpdate t m x v)
    (kt et : TypeId) (K : Keyed Try.prog kt) (ht : Try.prog.underlying t = some (.map kt et)) (b N : Nat) (zd : DataW Unit) (F : Lit → DataW Unit) (hm : a.eval m = .map (some b)) (h : MF w kt et b zd F N) (hN : N < maxLen)
    (key val : Value) (kl : Lit) (hx : a.eval x = key) (hv : a.eval v = val) (hkey : keyOf Try.prog kt key = some kl) (hk : WideAt.IsKeyLit kl) (d : DataW Unit) (ps : List MemPlace) (hval : plainElem (H := Unit) Try.prog et val = some (d, ps))
    (G : Lit → DataW Unit) (hG : G kl = d) (hG' : ∀ x, WideAt.IsKeyLit x → x ≠ kl → G x = F x)
    (hK : ∀ w', MF w' kt et b zd G (N + 1) → w.grownBy w' (some b) → wpList Try.prog ops Q rest (a.put o.dst undef) w') : wpList Try.prog ops Q (o :: rest) a w := by
  refine wpList_plain hg fun K' hK' => ?_
  obtain ⟨w', hrun, r1, r2⟩ := h.put K ht hN hkey hk hval G hG hG'
  unfold Oper.wp
  simp [execOp, hop, hm, hx, hv, hrun, Result.andThen]
  exact hK' _ _ (hK w' r1 r2)
theorem kRune : Keyed Try.prog 21 := int_keyed Try.underlying21
theorem zBool (w : World) : (zeroValue 4).run Try.prog w = .ok (.bool false) w := by kernel_rfl
abbrev eBool : DataW Unit := .lit (.bool false)
def FR (S : List Int) : Lit → DataW Unit | .int .i32 k => .lit (.bool (decide (k ∈ S))) | _ => eBool
theorem wf32 {z : Int} (h0 : -2147483648 ≤ z) (h1 : z ≤ 2147483647) : (Lit.int .i32 z).wf = true := by
  simp only [Lit.wf, Bool.and_eq_true, decide_eq_true_eq]
  exact ⟨h0, h1⟩
theorem plainElem_bool_inv {v : Value} {z : DataW Unit × List MemPlace} (h : plainElem (H := Unit) Try.prog 4 v = some z) : ∃ x, v = .bool x ∧ z = (.lit (.bool x), []) := by
  unfold plainElem at h
  rw [Try.underlying4] at h
  cases v <;> simp at h
  exact ⟨_, rfl, h.symm⟩
theorem look_rune {w : World} {b N : Nat} {S : List Int} (h : MF w 21 4 b eBool (FR S) N) (k : Int) (h0 : -2147483648 ≤ k) (h1 : k ≤ 2147483647) :
    (Instr.lookup 36 (.map (some b)) (.int .i32 k) false).run Try.prog w = .ok (.bool (decide (k ∈ S))) w := by
  obtain ⟨v, ps, hr, hv⟩ := h.look kRune Try.underlying36 (zBool w) (plainElem_bool Try.underlying4 false) (keyOf_int_mk Try.underlying21 (wf32 h0 h1)) trivial
  obtain ⟨x, rfl, e⟩ := plainElem_bool_inv hv
  simp only [FR, Prod.mk.injEq, DataW.lit.injEq, Lit.bool.injEq] at e
  rw [hr, e.1]
end Go.Proofs.Ytliaadlanpfjbaa.Mq

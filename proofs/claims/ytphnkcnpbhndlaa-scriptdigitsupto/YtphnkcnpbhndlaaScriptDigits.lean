/- For every input of bulk at most 1048576 ScriptDigits returns true and leaves its arguments as they were: the condition is the size alone. -/
import Derived.Test.YtphnkcnpbhndlaaRows
import Derived.WalkKit
import Derived.ProofKit
import Derived.OpenShut
import Derived.ShutString
import Derived.ChangeOld
import Derived.Below
import Derived.JoinedCond
import Derived.ChangeMaps5
import Derived.Test.YtphnkcnpbhndlaaSZ26
namespace Go.Proofs.Ytphnkcnpbhndlaa.scriptDigits
open Go.ChangeShapes Go.WideShapes Go.ChangeAt Go.RowKit
set_option linter.unusedVariables false

theorem own : ownKnob Try.prog.godebug = none := by kernel_rfl
theorem laidOut : laidOutB Try.prog = true := by kernel_rfl
def IsRow (k : IntKind) (w : World) (a : Option Addr) (len cap : Nat) (zs : List Int) : Prop :=
  (a = none ∧ len = 0 ∧ cap = 0 ∧ zs = []) ∨
  ∃ x, a = some x ∧ len ≤ cap ∧ cap ≤ 1048576 ∧ zs.length = cap ∧ (∀ i, i < zs.length → w.cell? (x.add i) = some (.int k (zs.getD i 0))) ∧ ∀ n ∈ zs, (Lit.int k n).wf = true
theorem row_small {k : IntKind} {w : World} {a : Option Addr} {len cap : Nat} {z : List Int} (h : IsRow k w a len cap z) : len ≤ 1048576 := by
  rcases h with ⟨_, rfl, _⟩ | ⟨x, _, h1, h2, _⟩ <;> omega
theorem row_wide {k : IntKind} {w : World} {a : Option Addr} {len cap : Nat} {z : List Int} (h : IsRow k w a len cap z) :
    (a = none ∧ len = 0 ∧ cap = 0 ∧ z = []) ∨ ∃ x, a = some x ∧ len ≤ cap ∧ cap ≤ 140737488351232 ∧ z.length = cap ∧ (∀ i, i < z.length → w.cell? (x.add i) = some (.int k (z.getD i 0))) ∧ ∀ n ∈ z, (Lit.int k n).wf = true := by
  rcases h with h | ⟨x, h0, h1, h2, h3⟩
  · exact .inl h
  · exact .inr ⟨x, h0, h1, by omega, h3⟩
theorem bulk_one {H : Type} (l : List (DataW H)) : ∀ x ∈ l, Rows.uptoBulk x ≤ Rows.uptoBulkAll l := by
  induction l with
  | nil => intro x hx; cases hx
  | cons y r ih =>
    intro x hx
    simp only [Rows.uptoBulkAll]
    rcases List.mem_cons.1 hx with rfl | hx
    · omega
    · have := ih x hx; omega
theorem bulk_count {H : Type} (l : List (DataW H)) (h : ∀ x ∈ l, 1 ≤ Rows.uptoBulk x) : l.length ≤ Rows.uptoBulkAll l := by
  induction l with
  | nil => simp [Rows.uptoBulkAll]
  | cons y r ih =>
    have h1 := h y (by simp)
    have h2 := ih (fun x hx => h x (by simp [hx]))
    simp only [Rows.uptoBulkAll, List.length_cons]
    omega
theorem lits_one {H : Type} {k : IntKind} (l : List Int) : ∀ x ∈ (lits k l : List (DataW H)), 1 ≤ Rows.uptoBulk x := by
  intro x hx
  simp only [lits, List.mem_map] at hx
  obtain ⟨i, _, rfl⟩ := hx
  simp [Rows.uptoBulk]

theorem contract (H : Type) (enc : TypeId × Value → H) (W : World) (base : Nat) (args : Array Value) (ds gs : List (DataW H)) (before : List MemPlace)
    (hval : ∀ (j : Nat) t v, Try.f3.params[j]? = some t → args[j]? = some v → Value.okWide Try.prog W .any base t v)
    (hW : DataW.Whole enc Try.prog Try.f3.params.toList Rows.scriptDigitsSpec.vars false W args.toList ds gs before) (hk : Rows.uptoSmall H (ds ++ gs) = true) :
    Calls Try.prog 3 args W fun e W' => ∃ v, e = .returned v ∧ Rows.scriptDigitsSpec.post enc Try.prog Try.f3 false true false false W args v W' := by
  have hW' := hW
  obtain ⟨p, q, hA0, hV, rfl, hfz, hnd⟩ := hW
  have hA : DataW.TrodAll enc Try.prog W 0 (fun _ => true) true Try.f3.params.toList args.toList ds p := hA0
  rw [Try.params3] at hA hval
  obtain ⟨v0, vs0, d0, ds0, p0, q0, hargs, rfl, rfl, h0, r0⟩ := trodAll_cons hA
  obtain ⟨v1, vs1, d1, ds1, p1, q1, rfl, rfl, rfl, h1, r1⟩ := trodAll_cons r0
  obtain ⟨rfl, rfl, rfl⟩ := trodAll_nil r1
  obtain rfl : args = #[v0, v1] := by cases args; simp_all
  obtain ⟨rfl, rfl⟩ := trodVars_none hV
  have hk2 : Rows.uptoBulkAll [d0, d1] ≤ 1048576 := of_decide_eq_true hk
  have hb0 : Rows.uptoBulk d0 ≤ 1048576 := Nat.le_trans (bulk_one _ d0 (by simp)) hk2
  have hb1 : Rows.uptoBulk d1 ≤ 1048576 := Nat.le_trans (bulk_one _ d1 (by simp)) hk2
  obtain ⟨a0, len0, cap0, rfl⟩ := okWide_slice Try.underlying22 (hval 0 22 v0 rfl rfl)
  have k0 := h0
  have lt0 : ∀ x ∈ p0, x.block < W.heap.size := by obtain ⟨m, hm⟩ := k0; exact DataW.trod_lt m _ _ _ hm
  obtain ⟨z0, w0⟩ : ∃ zs, IsRow .u8 W a0 len0 cap0 zs := by
    obtain ⟨fuel, hf⟩ := h0
    rcases open_ints Try.underlying22 Try.underlying5 (by kernel_rfl) hf with ⟨hcs, _⟩ | ⟨x, l, c, zs, hcs, _, hl, hm, hz, hx, hcell, hwz⟩
    · simp [Value.cells] at hcs
      obtain ⟨rfl, rfl, rfl⟩ := hcs
      exact ⟨[], .inl ⟨rfl, rfl, rfl, rfl⟩⟩
    · simp [Value.cells] at hcs
      obtain ⟨rfl, rfl, rfl⟩ := hcs
      simp only [Prod.mk.injEq] at hx
      simp only [if_true] at hz
      have hb := hb0
      rw [hx.1] at hb
      simp only [Rows.uptoBulk] at hb
      have hb1 := bulk_count (H := H) (lits .u8 (zs.take len0)) (lits_one _)
      have hb2 := bulk_count (H := H) (lits .u8 (zs.drop len0)) (lits_one _)
      simp only [lits, List.length_map, List.length_take, List.length_drop] at hb hb1 hb2
      exact ⟨zs, .inr ⟨_, rfl, hl, by omega, hz, hcell, hwz⟩⟩
  obtain ⟨L0, rfl, hB0, hLc0, hcm0⟩ := Mem.bytes_of_row (row_wide w0)
  have hq0 := row_small w0
  obtain ⟨a1, rfl, rfl, rfl, w1⟩ := Go.ChangeMaps.open_string Try.underlying9 (hval 1 9 v1 rfl rfl) h1
  have s1 : a1.data.toList.length ≤ 1048576 := by have := hb1; simp only [Rows.uptoBulk] at this; omega
  clear hA0
  refine (C26.digits_law a0 cap0 L0 a1 W hB0 hLc0 hcm0 hq0 s1).mono fun e W' ⟨he, bel⟩ => ?_
  subst he
  exact ⟨_, rfl, _, _, _, [], _, [], hW', trodAll_mk1 (shut_bool Try.underlying4 _), (trodAll_cons_mk (Below.trod laidOut (by kernel_rfl) (of_decide_eq_true (by kernel_rfl)) k0 bel lt0) (trodAll_cons_mk (Go.ChangeMaps.shut_string Try.underlying9 w1) trodAll_mk0)), rfl, bel.frame _, fun h => by cases h⟩

set_option maxRecDepth 100000 in
theorem lifted (os : Os) (started : os.Started) (H : Type) (enc : TypeId × Value → H) (F : Stop.Interp) :
    ReturnsInHanded {} Try.checked os 3 .any ((Rows.OpenSpec.upto Rows.scriptDigitsSpec).pre6 enc Try.prog Try.f3 Rows.scriptDigitsUptoRow.domain false) (((Rows.OpenSpec.upto Rows.scriptDigitsSpec).at F).post enc Try.prog Try.f3 false true false false) := by
  refine returnsInHanded_of_cond (C := Try.checked) (s := Rows.OpenSpec.upto Rows.scriptDigitsSpec) (k := Rows.uptoSmall) rfl own started (by kernel_rfl) Try.func3
    (OpenSpec.witness (enc := enc) (C := Try.checked) (s := Rows.OpenSpec.upto Rows.scriptDigitsSpec) (k := Rows.uptoSmall) rfl false ⟨#[], #[.slice none 0 0, .string ⟨#[]⟩], []⟩ 8 (by kernel_rfl) (by kernel_rfl) (by kernel_rfl)
      (x := ([.nil, .lit (.string [])], [], [])) (by kernel_rfl) rfl (by kernel_rfl)) ?_
  intro W base args ds gs before hval hW _ hk _
  exact contract H enc W base args ds gs before hval hW hk

theorem proved : Rows.ScriptDigitsUptoSaid :=
  OpenClaim.holds_of_cond 3 Try.f3 rfl rfl rfl rfl rfl rfl rfl ⟨rfl, rfl, rfl, rfl, rfl⟩ rfl rfl rfl rfl rfl (by kernel_rfl) Try.func3 (by kernel_rfl)
    (of_decide_eq_true (by kernel_rfl)) (by unfold Func.isWrapper; first | (rw [if_pos (by decide +kernel)]; kernel_rfl) | (rw [if_neg (by decide +kernel)]; exact ⟨rfl, rfl⟩))
    (fun os started H enc _ F => lifted os started H enc F)
end Go.Proofs.Ytphnkcnpbhndlaa.scriptDigits
namespace Go.Proofs.Ytphnkcnpbhndlaa
theorem scriptDigits_holds : Rows.ScriptDigitsUptoSaid := scriptDigits.proved
#print axioms scriptDigits_holds
end Go.Proofs.Ytphnkcnpbhndlaa

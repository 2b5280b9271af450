/- Opens, Opp, joined. -/
import Derived.Test.YtcoiddmgcoeocaaRows
import Derived.Test.YtcoiddmgcoeocaaEl
import Derived.WalkKit
import Derived.ProofKit
import Derived.OpenShut
import Derived.Lib.SmallJoins
import Derived.Deep.Slices
import Derived.SizedLaws
/- Ranges and lists of pairs and ranges that came in: how they are opened and shut. -/
namespace Go.Proofs.Ytcoiddmgcoeocaa.Rn
open Go.ChangeShapes Go.WideShapes Go.ChangeAt Go.RowKit Go.Joins Go.Proofs.Ytcoiddmgcoeocaa.El

theorem cellsR : Try.prog.cellsOf 71 = 3 := by kernel_rfl
theorem cellsP : Try.prog.cellsOf 30 = 2 := by kernel_rfl
theorem bytesR : Try.prog.bytesOf 71 = 24 := by kernel_rfl
theorem bytesP : Try.prog.bytesOf 30 = 16 := by kernel_rfl

theorem range_open {H : Type} {enc : TypeId × Value → H} {w : World} {r : Reach} {b0 base : Nat} {spare : Nat → Bool} {held : Bool} {v : Value} {d : DataW H} {p : List MemPlace} (hv : Value.okWide Try.prog w r b0 71 v) (h : DataW.Trod enc Try.prog w base spare held 71 v d p) :
    ∃ f t a : Int, v = .agg #[.int .i64 f, .int .i64 t, .int .i32 a] ∧ d = .agg [.lit (.int .i64 f), .lit (.int .i64 t), .lit (.int .i32 a)] ∧ p = [] ∧
      (Lit.int .i64 f).wf = true ∧ (Lit.int .i64 t).wf = true ∧ (Lit.int .i32 a).wf = true := by
  obtain ⟨c0, c1, c2, y0, y1, y2, m, rfl, rfl, rfl, hy0, hy1, hy2⟩ := open_agg3 Try.underlying71 (by kernel_rfl) cellsR hv h
  obtain ⟨a, e0, rfl, wa⟩ := DataW.trod_int Try.underlying3 hy0
  obtain ⟨b, e1, rfl, wb⟩ := DataW.trod_int Try.underlying3 hy1
  obtain ⟨c, e2, rfl, wc⟩ := DataW.trod_int Try.underlying21 hy2
  simp at e0 e1 e2
  subst e0 e1 e2
  exact ⟨a, b, c, rfl, rfl, rfl, wa, wb, wc⟩
theorem range_shut {H : Type} {enc : TypeId × Value → H} {w : World} {base : Nat} {spare : Nat → Bool} {held : Bool} {f t a : Int} (wa : (Lit.int .i64 f).wf = true) (wb : (Lit.int .i64 t).wf = true) (wc : (Lit.int .i32 a).wf = true) :
    DataW.Trod enc Try.prog w base spare held 71 (.agg #[.int .i64 f, .int .i64 t, .int .i32 a]) (.agg [.lit (.int .i64 f), .lit (.int .i64 t), .lit (.int .i32 a)]) [] :=
  shut_agg3 (y0 := (.lit (.int .i64 f), [])) (y1 := (.lit (.int .i64 t), [])) (y2 := (.lit (.int .i32 a), [])) Try.underlying71 (by kernel_rfl) cellsR
    ⟨1, by simp [DataW.trod, Try.underlying3, wa]⟩ ⟨1, by simp [DataW.trod, Try.underlying3, wb]⟩ ⟨1, by simp [DataW.trod, Try.underlying21, wc]⟩

theorem dec_range {H : Type} {enc : TypeId × Value → H} {w : World} {base : Nat} {spare : Nat → Bool} {held : Bool} (n : Nat) (cs : List Value) (x : DataW H × List MemPlace) (h : DataW.trod enc Try.prog w base spare held n 71 cs = some x) : ∃ r : Rg, cs = RE.enc r := by
  obtain ⟨y0, y1, y2, m, rfl, hl, hy0, hy1, hy2⟩ := Deep.trod_struct3 Try.underlying71 h
  rw [cellsR] at hl
  match cs, hl with
  | [c0, c1, c2], _ =>
    obtain ⟨a, e0, rfl, wa⟩ := DataW.trod_int Try.underlying3 hy0
    obtain ⟨b, e1, rfl, wb⟩ := DataW.trod_int Try.underlying3 hy1
    obtain ⟨c, e2, rfl, wc⟩ := DataW.trod_int Try.underlying21 hy2
    have k3 : Try.prog.cellsOf 3 = 1 := by kernel_rfl
    have k21 : Try.prog.cellsOf 21 = 1 := by kernel_rfl
    simp [k3, k21] at e0 e1 e2
    subst e0 e1 e2
    exact ⟨(a, b, c), rfl⟩
theorem dec_pair {H : Type} {enc : TypeId × Value → H} {w : World} {base : Nat} {spare : Nat → Bool} {held : Bool} (n : Nat) (cs : List Value) (x : DataW H × List MemPlace) (h : DataW.trod enc Try.prog w base spare held n 30 cs = some x) : ∃ r : Pr, cs = PE.enc r := by
  obtain ⟨y0, y1, m, rfl, hl, hy0, hy1⟩ := trod_struct2 Try.underlying30 h
  rw [cellsP] at hl
  match cs, hl with
  | [c0, c1], _ =>
    obtain ⟨a, e0, rfl, wa⟩ := DataW.trod_int Try.underlying3 hy0
    obtain ⟨b, e1, rfl, wb⟩ := DataW.trod_int Try.underlying21 hy1
    have k3 : Try.prog.cellsOf 3 = 1 := by kernel_rfl
    have k21 : Try.prog.cellsOf 21 = 1 := by kernel_rfl
    simp [k3, k21] at e0 e1
    subst e0 e1
    exact ⟨(a, b), rfl⟩

/-- A slice of structs, opened. -/
theorem elems_open {α : Type} [Inhabited α] (E : Elem α) (hs : 0 < E.size) {H : Type} {enc : TypeId × Value → H} {w : World} {held : Bool} {t e : TypeId} (ht : Try.prog.underlying t = some (.slice e)) (hce : Try.prog.cellsOf e = E.size)
    (dec : ∀ (n : Nat) (cs : List Value) (x : DataW H × List MemPlace), DataW.trod enc Try.prog w 0 (fun _ => true) held n e cs = some x → ∃ r, cs = E.enc r)
    {ao : Option Addr} {len cap : Nat} {d : DataW H} {p : List MemPlace} (h : DataW.Trod enc Try.prog w 0 (fun _ => true) held t (.slice ao len cap) d p) :
    ∃ L : List α, L.length = len ∧ E.Rd w ao L ∧ len ≤ cap ∧ ((cap = 0) ∨ ∃ es sp : List (DataW H), d = .slice es sp ∧ es.length + sp.length = cap) := by
  obtain ⟨fuel, hf⟩ := h
  rcases Deep.open_slice ht hf with ⟨hcs, _⟩ | ⟨a, l, c, m, n, D, Pl, hcs, hb, hl, hm, hmm, hx, hel⟩
  · simp [Value.cells] at hcs
    obtain ⟨rfl, rfl, rfl⟩ := hcs
    exact ⟨[], rfl, .inl ⟨rfl, rfl⟩, by simp, .inl rfl⟩
  · simp [Value.cells] at hcs
    obtain ⟨rfl, rfl, rfl⟩ := hcs
    simp only [if_true] at hmm
    subst hmm
    obtain ⟨F, hF⟩ := Deep.choose_lt (α := α) (p := fun i r => w.cells? 0 (a.add (i * E.size)) E.size = some (E.enc r)) (fun i (hi : i < m) => by
      obtain ⟨cs', h1, h2⟩ := hel i hi
      obtain ⟨r, rfl⟩ := dec _ _ _ h2
      rw [hce] at h1
      exact ⟨r, h1⟩)
    refine ⟨(List.range len).map F, by simp, .inr ⟨a, rfl, fun j u hu => ?_⟩, hl, .inr ⟨_, _, (Prod.mk.inj hx).1, by simp; omega⟩⟩
    have hj : j < len * E.size := by
      have := (List.getElem?_eq_some_iff.1 hu).1
      rwa [cells_length, List.length_map, List.length_range] at this
    have h1 : j / E.size < len := Nat.div_lt_of_lt_mul (by rw [Nat.mul_comm]; exact hj)
    have h2 : j % E.size < E.size := Nat.mod_lt _ hs
    have e : j / E.size * E.size + j % E.size = j := by rw [Nat.mul_comm]; exact Nat.div_add_mod j E.size
    have h3 := cells_at E ((List.range len).map F) (j / E.size) (by simpa using h1) (j % E.size) h2
    rw [e, hu] at h3
    obtain ⟨_, _, h5⟩ := World.cells?_some (hF (j / E.size) (by omega))
    have h6 := h5 (j % E.size) h2
    rw [Deep.add_add, e] at h6
    rw [h6, h3]
    simp

theorem ranges_open {H : Type} {enc : TypeId × Value → H} {w : World} {held : Bool} {ao : Option Addr} {len cap : Nat} {d : DataW H} {p : List MemPlace} (h : DataW.Trod enc Try.prog w 0 (fun _ => true) held 43 (.slice ao len cap) d p) :
    ∃ L : List Rg, L.length = len ∧ RE.Rd w ao L ∧ len ≤ cap ∧ ((cap = 0) ∨ ∃ es sp : List (DataW H), d = .slice es sp ∧ es.length + sp.length = cap) :=
  elems_open RE (by decide) Try.underlying43 cellsR dec_range h
theorem pairs_open {H : Type} {enc : TypeId × Value → H} {w : World} {held : Bool} {ao : Option Addr} {len cap : Nat} {d : DataW H} {p : List MemPlace} (h : DataW.Trod enc Try.prog w 0 (fun _ => true) held 22 (.slice ao len cap) d p) :
    ∃ L : List Pr, L.length = len ∧ PE.Rd w ao L ∧ len ≤ cap ∧ ((cap = 0) ∨ ∃ es sp : List (DataW H), d = .slice es sp ∧ es.length + sp.length = cap) :=
  elems_open PE (by decide) Try.underlying22 cellsP dec_pair h
end Go.Proofs.Ytcoiddmgcoeocaa.Rn

/- A pair that came in: how it is opened and shut. -/
namespace Go.Proofs.Ytcoiddmgcoeocaa.Tr
open Go.ChangeShapes Go.WideShapes Go.ChangeAt Go.RowKit Go.Joins Go.Proofs.Ytcoiddmgcoeocaa.El Go.Proofs.Ytcoiddmgcoeocaa.Rn

theorem pair_open {H : Type} {enc : TypeId × Value → H} {w : World} {r : Reach} {b0 base : Nat} {spare : Nat → Bool} {held : Bool} {v : Value} {d : DataW H} {p : List MemPlace} (hv : Value.okWide Try.prog w r b0 30 v) (h : DataW.Trod enc Try.prog w base spare held 30 v d p) :
    ∃ f a : Int, v = .agg #[.int .i64 f, .int .i32 a] ∧ d = .agg [.lit (.int .i64 f), .lit (.int .i32 a)] ∧ p = [] ∧ (Lit.int .i64 f).wf = true ∧ (Lit.int .i32 a).wf = true := by
  obtain ⟨c0, c1, y0, y1, m, rfl, rfl, rfl, hy0, hy1⟩ := open_agg2 Try.underlying30 (by kernel_rfl) cellsP hv h
  obtain ⟨a, e0, rfl, wa⟩ := DataW.trod_int Try.underlying3 hy0
  obtain ⟨c, e2, rfl, wc⟩ := DataW.trod_int Try.underlying21 hy1
  simp at e0 e2
  subst e0 e2
  exact ⟨a, c, rfl, rfl, rfl, wa, wc⟩
theorem pair_shut {H : Type} {enc : TypeId × Value → H} {w : World} {base : Nat} {spare : Nat → Bool} {held : Bool} {f a : Int} (wa : (Lit.int .i64 f).wf = true) (wc : (Lit.int .i32 a).wf = true) :
    DataW.Trod enc Try.prog w base spare held 30 (.agg #[.int .i64 f, .int .i32 a]) (.agg [.lit (.int .i64 f), .lit (.int .i32 a)]) [] :=
  shut_agg2 (y0 := (.lit (.int .i64 f), [])) (y1 := (.lit (.int .i32 a), [])) Try.underlying30 (by kernel_rfl) cellsP
    ⟨1, by simp [DataW.trod, Try.underlying3, wa]⟩ ⟨1, by simp [DataW.trod, Try.underlying21, wc]⟩
end Go.Proofs.Ytcoiddmgcoeocaa.Tr

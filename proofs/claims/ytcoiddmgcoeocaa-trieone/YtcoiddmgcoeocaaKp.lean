/- Rows of blocks, the map of known ones, and what changes. -/
import Derived.Test.YtcoiddmgcoeocaaOne
import Derived.Test.YtcoiddmgcoeocaaRegion
import Derived.Test.YtcoiddmgcoeocaaConvApp
namespace Go.Proofs.Ytcoiddmgcoeocaa.Tr
open Go.ChangeShapes Go.WideShapes Go.ChangeAt Go.RowKit Go.Maps Go.Proofs.Ytcoiddmgcoeocaa.Mem Go.Proofs.Ytcoiddmgcoeocaa.El Go.Sort Go.Proofs.Ytcoiddmgcoeocaa.Rn
set_option linter.unusedVariables false
set_option linter.unusedSimpArgs false

/-- A block's content. -/
abbrev BL := { zs : List Int // zs.length = 64 }
def BE : Elem BL where
  ty := 81
  size := 64
  enc z := z.1.map (Value.int .i32)
  len z := by rw [List.length_map, z.2]
  one := by intro a u hu; obtain ⟨z, _, rfl⟩ := List.mem_map.1 hu; rfl
def zB : BL := ⟨List.replicate 64 0, by simp⟩
/-- Nothing but what P names has changed. -/
structure Chg (w w' : World) (P : Nat → Prop) : Prop where
  os : w'.os = w.os
  tape : w'.tape = w.tape
  output : w'.output = w.output
  size : w.heap.size ≤ w'.heap.size
  block : ∀ k, k < w.heap.size → ¬ P k → w'.heap[k]? = w.heap[k]?
theorem Chg.refl (w : World) (P : Nat → Prop) : Chg w w P := ⟨rfl, rfl, rfl, Nat.le_refl _, fun _ _ _ => rfl⟩
theorem Chg.of {w w' : World} {row : Option Nat} {P : Nat → Prop} (h : w.grownBy w' row) (hp : ∀ k, row = some k → P k) : Chg w w' P :=
  ⟨h.os, h.tape, h.output, h.size, fun k hk hn => h.block k hk (fun e => hn (hp k e.symm))⟩
theorem Chg.trans {a b c : World} {P : Nat → Prop} (h : Chg a b P) (k : Chg b c P) : Chg a c P :=
  ⟨k.os.trans h.os, k.tape.trans h.tape, k.output.trans h.output, Nat.le_trans h.size k.size, fun i hi hn => (k.block i (Nat.lt_of_lt_of_le hi h.size) hn).trans (h.block i hi hn)⟩
theorem Chg.mono {a b : World} {P P' : Nat → Prop} (h : Chg a b P) (hp : ∀ k, k < a.heap.size → P k → P' k) : Chg a b P' := ⟨h.os, h.tape, h.output, h.size, fun i hi hn => h.block i hi (fun e => hn (hp i hi e))⟩
theorem Chg.grown {a b c : World} {P : Nat → Prop} (h : a.grownBy b none) (k : Chg b c P) (hp : ∀ i, P i → a.heap.size ≤ i) : a.grownBy c none :=
  ⟨k.os.trans h.os, k.tape.trans h.tape, k.output.trans h.output, Nat.le_trans h.size k.size, fun i hi _ => (k.block i (Nat.lt_of_lt_of_le hi h.size) (fun e => by have := hp i e; omega)).trans (h.block i hi (by simp))⟩
theorem own_same {α : Type} {E : Elem α} {w w' : World} {ao : Option Addr} {cap : Nat} {L : List α} (h : E.Own w ao cap L) (he : ∀ g, blk ao = some g → w'.heap[g]? = w.heap[g]?) : E.Own w' ao cap L := by
  rcases h with h | ⟨g, cur, rfl, hh, r⟩
  · exact .inl h
  · exact .inr ⟨g, cur, rfl, by rw [he g rfl]; exact hh, r⟩

theorem exec_loadA {P : Program} {w : World} {o : Oper} {a : Act} {q : IntKind} (T : TypeId) (x : Operand) (hop : o.op = Op.load T x) (n e : Nat) (hu : P.underlying T = some (.array n e)) (hi : (P.info? T).map (·.size) = some n) (b : Nat) (zs : List Int) (hl : zs.length = n)
    (hx : a.eval x = .pointer (some ⟨b, 0, none⟩)) (h : ArrAt w b T q zs) : (execOp a.eval o).run P w = .ok (.value (arrV q zs)) w := by
  unfold execOp
  simp only [hop, hx, Instr.loadAt, Instr.sureAddr, Sem.run_bind, Sem.run_pure, Result.andThen_ok, run_loadA hu hi hl h]
theorem infoB : (Try.prog.info? 81).map (fun i => (i.zero, i.size, i.bytes)) = some (some (arrV .i32 (List.replicate 64 0)), 64, 256) := by kernel_rfl
theorem zBc : (arrV .i32 (List.replicate 64 0)).cells.size = 64 := by simp [arrV, Value.cells]
theorem zBe : (arrV .i32 (List.replicate 64 0)).cells.toList = BE.enc zB := by simp [arrV, Value.cells, BE, zB]
theorem exec_oneB {w : World} {o : Oper} {a : Act} (TS : TypeId) (x : Operand) (hop : o.op = Op.buildSlice 53 1 #[(0, x)]) (zs : List Int) (hl : zs.length = 64) (hx : a.eval x = arrV .i32 zs) :
    (execOp a.eval o).run Try.prog w = .ok (.value (.slice (some ⟨w.heap.size, 0, none⟩) 1 1)) (w.alloc (.cells (zs.map (Value.int .i32)).toArray 81)) := by
  obtain ⟨i0, hi, hz0, hz1, hz2⟩ := info_parts' infoB
  unfold execOp
  simp only [hop, List.map_toArray, List.map_cons, List.map_nil, hx, Sem.run_bind, Sem.run_pure, Result.andThen_ok, run_oneA w Try.underlying53 i0 hi hz1 (by omega) (by omega) _ hz0 zBc hl]
theorem app_block {w : World} {bo : Option Addr} {cap : Nat} {Bs : List BL} (h : BE.Own w bo cap Bs) (z : BL) (g : Nat) (hg : w.heap[g]? = some (.cells (z.1.map (Value.int .i32)).toArray 81 (0, 0))) (hb : Bs.length ≤ 1000000) (ty : TypeId) :
    ∃ bo' cap' w', (Builtin.append_ #[53, 53] ty #[.slice bo Bs.length cap, .slice (some ⟨g, 0, none⟩) 1 1]).run Try.prog w = .ok (.slice bo' (Bs ++ [z]).length cap') w' ∧ BE.Own w' bo' cap' (Bs ++ [z]) ∧ w.grownBy w' (blk bo) ∧ (bo' = bo ∨ bo' = some ⟨w.heap.size, 0, none⟩) := by
  obtain ⟨i0, hi, hz0, hz1, hz2⟩ := info_parts' infoB
  have hrd : BE.Rd w (some ⟨g, 0, none⟩) [z] := .inr ⟨_, rfl, fun j u hu => by
    rw [addr_add, Nat.zero_add]
    refine cell_at hg j ?_
    have e : BE.cells [z] = z.1.map (Value.int .i32) := by simp [cells_cons, cells_nil, BE]
    rw [e] at hu
    rw [List.getElem?_toArray]
    exact hu⟩
  exact run_append_any (E := BE) w 53 53 ty i0 _ 256 Try.underlying53 hi hz0 hz1 hz2 zBc bo cap Bs h _ [z] (src_of (E := BE) hrd 53 1 Try.underlying53) (by simp only [List.length_cons, List.length_nil]; omega) (by simp only [List.length_cons, List.length_nil, maxLen]; omega)

/-- Elements that are integers of one kind. -/
def intR (q : IntKind) : Rdr := fun v => (litOf q v).map (fun d => (d, []))
theorem intR_mk (q : IntKind) (z : Int) : intR q (.int q z) = some (.lit (.int q z), []) := by simp [intR, litOf]
theorem intR_inv {q : IntKind} {v : Value} {z : Int} {ps : List MemPlace} (h : intR q v = some (.lit (.int q z), ps)) : v = .int q z := by
  unfold intR at h
  obtain ⟨d, hd, e⟩ := Option.map_eq_some_iff.1 h
  simp only [Prod.mk.injEq] at e
  cases v <;> simp [litOf] at hd
  obtain ⟨rfl, rfl⟩ := hd
  have := e.1
  injection this with h1
  injection h1 with _ h2
  rw [h2]
/-- The known blocks: where each is. -/
def kb (z : BL) : (List UInt8) := keyBytes (z.1.map (Lit.int .i32))
theorem arrK_kb (z : BL) : arrK .i32 z.1 = .string (kb z) := rfl
def keysB (N : List BL) : List (List UInt8) := N.map kb
def idxB (N : List BL) (s : (List UInt8)) : Int := if s ∈ keysB N then ((keysB N).idxOf s : Int) + 1 else 0
def KF (N : List BL) : Lit → DataW Unit
  | .string s => .lit (.int .i32 (idxB N s))
  | _ => .lit (.int .i32 0)
def KH (N : List BL) : Lit → Bool
  | .string s => decide (s ∈ keysB N)
  | _ => false
def zD : DataW Unit := .lit (.int .i32 0)
def Known (w : World) (M : Nat) (N : List BL) (n : Nat) : Prop := MG w 81 (intR .i32) M zD (KF N) (KH N) n
theorem known_made (w : World) : Known (w.alloc (.map #[] 0)) w.heap.size [] 0 := by
  obtain ⟨n, D, h1, h2, h3⟩ := MG.made w 81 (intR .i32) zD
  refine ⟨n, D, h1, h2, fun kl hk => ?_⟩
  obtain ⟨a, b⟩ := h3 kl hk
  rw [a, b]
  cases kl <;> simp [KF, KH, zD, idxB, keysB]
theorem zeroI (w : World) : (zeroValue 21).run Try.prog w = .ok (.int .i32 0) w := by kernel_rfl
def wfB (z : BL) : Prop := ∀ x ∈ z.1, (Lit.int .i32 x).wf = true
theorem keyB_inj {z y : BL} (hz : wfB z) (hy : wfB y) (h : kb z = kb y) : z = y := Subtype.ext (arrK_inj z.1 y.1 (by rw [z.2, y.2]) hz hy (by rw [arrK_kb, arrK_kb, h]))
theorem mem_keys {N : List BL} (hN : ∀ y ∈ N, wfB y) {z : BL} (hz : wfB z) : kb z ∈ keysB N ↔ z ∈ N := by
  constructor
  · intro h
    obtain ⟨y, hy, e⟩ := List.mem_map.1 h
    rw [keyB_inj hz (hN y hy) e.symm]
    exact hy
  · intro h
    exact List.mem_map.2 ⟨z, h, rfl⟩
theorem idx_keys {N : List BL} (hN : ∀ y ∈ N, wfB y) {z : BL} (hz : wfB z) : (keysB N).idxOf (kb z) = N.idxOf z := by
  induction N with
  | nil => rfl
  | cons y N ih =>
    unfold keysB
    rw [List.map_cons, List.idxOf_cons, List.idxOf_cons]
    by_cases h : y = z
    · subst h; simp
    · have h1 : (y == z) = false := beq_eq_false_iff_ne.2 h
      have h2 : (kb y == kb z) = false := by
        rw [beq_eq_false_iff_ne]
        intro e
        exact h (keyB_inj (hN y (by simp)) hz e)
      rw [h1, h2]
      have := ih (fun x hx => hN x (by simp [hx]))
      unfold keysB at this
      simp [this]
/-- Where a block is among the known ones. -/
theorem idxB_mem {N : List BL} (hN : ∀ y ∈ N, wfB y) {z : BL} (hz : wfB z) (hm : z ∈ N) : idxB N (kb z) = (N.idxOf z : Int) + 1 := by
  unfold idxB
  rw [if_pos ((mem_keys hN hz).2 hm), idx_keys hN hz]
theorem idxB_snoc_other {N : List BL} {z : BL} {s : (List UInt8)} (h : s ≠ kb z) : idxB (N ++ [z]) s = idxB N s ∧ decide (s ∈ keysB (N ++ [z])) = decide (s ∈ keysB N) := by
  have e : keysB (N ++ [z]) = keysB N ++ [kb z] := by simp [keysB]
  have hiff : s ∈ keysB N ++ [kb z] ↔ s ∈ keysB N := by simp [h]
  unfold idxB
  rw [e]
  by_cases hm : s ∈ keysB N
  · rw [if_pos (hiff.2 hm), if_pos hm, List.idxOf_append, if_pos hm]
    simp [hm]
  · rw [if_neg (fun x => hm (hiff.1 x)), if_neg hm]
    simp [hm, h]
theorem known_put {w : World} {M : Nat} {N : List BL} {n : Nat} (h : Known w M N n) (hn : n ≤ 1000000) (hN : ∀ y ∈ N, wfB y) (z : BL) (hz : wfB z) (hm : z ∉ N) (v : Int) (hv : v = (N.length : Int) + 1) :
    ∃ w', (Instr.mapUpdate 77 (.map (some M)) (arrV .i32 z.1) (.int .i32 v)).run Try.prog w = .ok () w' ∧ Known w' M (N ++ [z]) (n + 1) ∧ w.grownBy w' (some M) := by
  subst hv
  refine h.put kBlk Try.underlying77 (by simp only [maxLen]; omega) (keyBlk z.1 z.2 hz) trivial (intR_mk .i32 _) (KF (N ++ [z])) (KH (N ++ [z])) ?_ ?_ ?_
  · rw [arrK_kb]
    show DataW.lit (Lit.int .i32 (idxB (N ++ [z]) (kb z))) = _
    rw [idxB_mem (fun y hy => by rcases List.mem_append.1 hy with h | h; exact hN y h; rw [List.mem_singleton.1 h]; exact hz) hz (by simp), List.idxOf_append, if_neg hm]
    simp
  · rw [arrK_kb]
    simp [KH, keysB]
  · intro x hx hne
    cases x with
    | string s =>
      have hs : s ≠ kb z := fun e => hne (by rw [arrK_kb, e])
      obtain ⟨a, b⟩ := idxB_snoc_other (N := N) hs
      simp only [KF, KH, a, b]
      exact ⟨trivial, trivial⟩
    | _ => exact ⟨rfl, rfl⟩
theorem known_look {w : World} {M : Nat} {N : List BL} {n : Nat} (h : Known w M N n) (hN : ∀ y ∈ N, wfB y) (z : BL) (hz : wfB z) :
    ∃ v, (Instr.lookup 77 (.map (some M)) (arrV .i32 z.1) true).run Try.prog w = .ok (.tuple #[.int .i32 v, .bool (decide (z ∈ N))]) w ∧ (z ∈ N → v = (N.idxOf z : Int) + 1) := by
  obtain ⟨v, ps, h1, h2⟩ := h.look_ok kBlk Try.underlying77 (zeroI w) (intR_mk .i32 0) (keyBlk z.1 z.2 hz) trivial
  rw [arrK_kb] at h1 h2
  have hv := intR_inv h2
  subst hv
  refine ⟨_, ?_, fun hm => idxB_mem hN hz hm⟩
  rw [h1]
  have : KH N (.string (kb z)) = decide (z ∈ N) := by
    unfold KH
    simp only [mem_keys hN hz]
  rw [this]
end Go.Proofs.Ytcoiddmgcoeocaa.Tr

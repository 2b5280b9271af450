/- Kp, Keep, joined. -/
import Derived.Test.YtcoiddmgcoeocaaGc
import Derived.Test.YtcoiddmgcoeocaaGg
/- Rows of blocks, the map of known ones, and what changes. -/
namespace Go.Proofs.Ytcoiddmgcoeocaa.Tr
open Go.ChangeShapes Go.WideShapes Go.ChangeAt Go.RowKit Go.Maps Go.Proofs.Ytcoiddmgcoeocaa.Mem Go.Proofs.Ytcoiddmgcoeocaa.El Go.Sort Go.Proofs.Ytcoiddmgcoeocaa.Rn
set_option linter.unusedVariables false
set_option linter.unusedSimpArgs false

/-- A block's content. -/
abbrev BL := { zs : List Int // zs.length = 64 }
def BE : Elem BL where
  ty := 81
  size := 64
  enc z := z.1.map (Value.int .i32)
  len z := by rw [List.length_map, z.2]
  one := by intro a u hu; obtain ⟨z, _, rfl⟩ := List.mem_map.1 hu; rfl
def zB : BL := ⟨List.replicate 64 0, by simp⟩
/-- Nothing but what P names has changed. -/
structure Chg (w w' : World) (P : Nat → Prop) : Prop where
  os : w'.os = w.os
  tape : w'.tape = w.tape
  output : w'.output = w.output
  size : w.heap.size ≤ w'.heap.size
  block : ∀ k, k < w.heap.size → ¬ P k → w'.heap[k]? = w.heap[k]?
theorem Chg.refl (w : World) (P : Nat → Prop) : Chg w w P := ⟨rfl, rfl, rfl, Nat.le_refl _, fun _ _ _ => rfl⟩
theorem Chg.of {w w' : World} {row : Option Nat} {P : Nat → Prop} (h : w.grownBy w' row) (hp : ∀ k, row = some k → P k) : Chg w w' P :=
  ⟨h.os, h.tape, h.output, h.size, fun k hk hn => h.block k hk (fun e => hn (hp k e.symm))⟩
theorem Chg.trans {a b c : World} {P : Nat → Prop} (h : Chg a b P) (k : Chg b c P) : Chg a c P :=
  ⟨k.os.trans h.os, k.tape.trans h.tape, k.output.trans h.output, Nat.le_trans h.size k.size, fun i hi hn => (k.block i (Nat.lt_of_lt_of_le hi h.size) hn).trans (h.block i hi hn)⟩
theorem Chg.mono {a b : World} {P P' : Nat → Prop} (h : Chg a b P) (hp : ∀ k, k < a.heap.size → P k → P' k) : Chg a b P' := ⟨h.os, h.tape, h.output, h.size, fun i hi hn => h.block i hi (fun e => hn (hp i hi e))⟩
theorem Chg.grown {a b c : World} {P : Nat → Prop} (h : a.grownBy b none) (k : Chg b c P) (hp : ∀ i, P i → a.heap.size ≤ i) : a.grownBy c none :=
  ⟨k.os.trans h.os, k.tape.trans h.tape, k.output.trans h.output, Nat.le_trans h.size k.size, fun i hi _ => (k.block i (Nat.lt_of_lt_of_le hi h.size) (fun e => by have := hp i e; omega)).trans (h.block i hi (by simp))⟩
theorem own_same {α : Type} {E : Elem α} {w w' : World} {ao : Option Addr} {cap : Nat} {L : List α} (h : E.Own w ao cap L) (he : ∀ g, blk ao = some g → w'.heap[g]? = w.heap[g]?) : E.Own w' ao cap L := by
  rcases h with h | ⟨g, cur, rfl, hh, r⟩
  · exact .inl h
  · exact .inr ⟨g, cur, rfl, by rw [he g rfl]; exact hh, r⟩

theorem exec_loadA {P : Program} {w : World} {o : Oper} {a : Act} {q : IntKind} (T : TypeId) (x : Operand) (hop : o.op = Op.load T x) (n e : Nat) (hu : P.underlying T = some (.array n e)) (hi : (P.info? T).map (·.size) = some n) (b : Nat) (zs : List Int) (hl : zs.length = n)
    (hx : a.eval x = .pointer (some ⟨b, 0, none⟩)) (h : ArrAt w b T q zs) : (execOp a.eval o).run P w = .ok (.value (arrV q zs)) w := by
  unfold execOp
  simp only [hop, hx, Instr.loadAt, Instr.sureAddr, Sem.run_bind, Sem.run_pure, Result.andThen_ok, run_loadA hu hi hl h]
theorem infoB : (Try.prog.info? 81).map (fun i => (i.zero, i.size, i.bytes)) = some (some (arrV .i32 (List.replicate 64 0)), 64, 256) := by kernel_rfl
theorem zBc : (arrV .i32 (List.replicate 64 0)).cells.size = 64 := by simp [arrV, Value.cells]
theorem zBe : (arrV .i32 (List.replicate 64 0)).cells.toList = BE.enc zB := by simp [arrV, Value.cells, BE, zB]
theorem exec_oneB {w : World} {o : Oper} {a : Act} (TS : TypeId) (x : Operand) (hop : o.op = Op.buildSlice 53 1 #[(0, x)]) (zs : List Int) (hl : zs.length = 64) (hx : a.eval x = arrV .i32 zs) :
    (execOp a.eval o).run Try.prog w = .ok (.value (.slice (some ⟨w.heap.size, 0, none⟩) 1 1)) (w.alloc (.cells (zs.map (Value.int .i32)).toArray 81)) := by
  obtain ⟨i0, hi, hz0, hz1, hz2⟩ := info_parts' infoB
  unfold execOp
  simp only [hop, List.map_toArray, List.map_cons, List.map_nil, hx, Sem.run_bind, Sem.run_pure, Result.andThen_ok, run_oneA w Try.underlying53 i0 hi hz1 (by omega) (by omega) _ hz0 zBc hl]
theorem app_block {w : World} {bo : Option Addr} {cap : Nat} {Bs : List BL} (h : BE.Own w bo cap Bs) (z : BL) (g : Nat) (hg : w.heap[g]? = some (.cells (z.1.map (Value.int .i32)).toArray 81 (0, 0))) (hb : Bs.length ≤ 1000000) (ty : TypeId) :
    ∃ bo' cap' w', (Builtin.append_ #[53, 53] ty #[.slice bo Bs.length cap, .slice (some ⟨g, 0, none⟩) 1 1]).run Try.prog w = .ok (.slice bo' (Bs ++ [z]).length cap') w' ∧ BE.Own w' bo' cap' (Bs ++ [z]) ∧ w.grownBy w' (blk bo) ∧ (bo' = bo ∨ bo' = some ⟨w.heap.size, 0, none⟩) := by
  obtain ⟨i0, hi, hz0, hz1, hz2⟩ := info_parts' infoB
  have hrd : BE.Rd w (some ⟨g, 0, none⟩) [z] := .inr ⟨_, rfl, fun j u hu => by
    rw [addr_add, Nat.zero_add]
    refine cell_at hg j ?_
    have e : BE.cells [z] = z.1.map (Value.int .i32) := by simp [cells_cons, cells_nil, BE]
    rw [e] at hu
    rw [List.getElem?_toArray]
    exact hu⟩
  exact run_append_any (E := BE) w 53 53 ty i0 _ 256 Try.underlying53 hi hz0 hz1 hz2 zBc bo cap Bs h _ [z] (src_of (E := BE) hrd 53 1 Try.underlying53) (by simp only [List.length_cons, List.length_nil]; omega) (by simp only [List.length_cons, List.length_nil, maxLen]; omega)

/-- Elements that are integers of one kind. -/
def intR (q : IntKind) : Rdr := fun v => (litOf q v).map (fun d => (d, []))
theorem intR_mk (q : IntKind) (z : Int) : intR q (.int q z) = some (.lit (.int q z), []) := by simp [intR, litOf]
theorem intR_inv {q : IntKind} {v : Value} {z : Int} {ps : List MemPlace} (h : intR q v = some (.lit (.int q z), ps)) : v = .int q z := by
  unfold intR at h
  obtain ⟨d, hd, e⟩ := Option.map_eq_some_iff.1 h
  simp only [Prod.mk.injEq] at e
  cases v <;> simp [litOf] at hd
  obtain ⟨rfl, rfl⟩ := hd
  have := e.1
  injection this with h1
  injection h1 with _ h2
  rw [h2]
/-- The known blocks: where each is. -/
def kb (z : BL) : (List UInt8) := keyBytes (z.1.map (Lit.int .i32))
theorem arrK_kb (z : BL) : arrK .i32 z.1 = .string (kb z) := rfl
def keysB (N : List BL) : List (List UInt8) := N.map kb
def idxB (N : List BL) (s : (List UInt8)) : Int := if s ∈ keysB N then ((keysB N).idxOf s : Int) + 1 else 0
def KF (N : List BL) : Lit → DataW Unit
  | .string s => .lit (.int .i32 (idxB N s))
  | _ => .lit (.int .i32 0)
def KH (N : List BL) : Lit → Bool
  | .string s => decide (s ∈ keysB N)
  | _ => false
def zD : DataW Unit := .lit (.int .i32 0)
def Known (w : World) (M : Nat) (N : List BL) (n : Nat) : Prop := MG w 81 (intR .i32) M zD (KF N) (KH N) n
theorem known_made (w : World) : Known (w.alloc (.map #[] 0)) w.heap.size [] 0 := by
  obtain ⟨n, D, h1, h2, h3⟩ := MG.made w 81 (intR .i32) zD
  refine ⟨n, D, h1, h2, fun kl hk => ?_⟩
  obtain ⟨a, b⟩ := h3 kl hk
  rw [a, b]
  cases kl <;> simp [KF, KH, zD, idxB, keysB]
theorem zeroI (w : World) : (zeroValue 21).run Try.prog w = .ok (.int .i32 0) w := by kernel_rfl
def wfB (z : BL) : Prop := ∀ x ∈ z.1, (Lit.int .i32 x).wf = true
theorem keyB_inj {z y : BL} (hz : wfB z) (hy : wfB y) (h : kb z = kb y) : z = y := Subtype.ext (arrK_inj z.1 y.1 (by rw [z.2, y.2]) hz hy (by rw [arrK_kb, arrK_kb, h]))
theorem mem_keys {N : List BL} (hN : ∀ y ∈ N, wfB y) {z : BL} (hz : wfB z) : kb z ∈ keysB N ↔ z ∈ N := by
  constructor
  · intro h
    obtain ⟨y, hy, e⟩ := List.mem_map.1 h
    rw [keyB_inj hz (hN y hy) e.symm]
    exact hy
  · intro h
    exact List.mem_map.2 ⟨z, h, rfl⟩
theorem idx_keys {N : List BL} (hN : ∀ y ∈ N, wfB y) {z : BL} (hz : wfB z) : (keysB N).idxOf (kb z) = N.idxOf z := by
  induction N with
  | nil => rfl
  | cons y N ih =>
    unfold keysB
    rw [List.map_cons, List.idxOf_cons, List.idxOf_cons]
    by_cases h : y = z
    · subst h; simp
    · have h1 : (y == z) = false := beq_eq_false_iff_ne.2 h
      have h2 : (kb y == kb z) = false := by
        rw [beq_eq_false_iff_ne]
        intro e
        exact h (keyB_inj (hN y (by simp)) hz e)
      rw [h1, h2]
      have := ih (fun x hx => hN x (by simp [hx]))
      unfold keysB at this
      simp [this]
/-- Where a block is among the known ones. -/
theorem idxB_mem {N : List BL} (hN : ∀ y ∈ N, wfB y) {z : BL} (hz : wfB z) (hm : z ∈ N) : idxB N (kb z) = (N.idxOf z : Int) + 1 := by
  unfold idxB
  rw [if_pos ((mem_keys hN hz).2 hm), idx_keys hN hz]
theorem idxB_snoc_other {N : List BL} {z : BL} {s : (List UInt8)} (h : s ≠ kb z) : idxB (N ++ [z]) s = idxB N s ∧ decide (s ∈ keysB (N ++ [z])) = decide (s ∈ keysB N) := by
  have e : keysB (N ++ [z]) = keysB N ++ [kb z] := by simp [keysB]
  have hiff : s ∈ keysB N ++ [kb z] ↔ s ∈ keysB N := by simp [h]
  unfold idxB
  rw [e]
  by_cases hm : s ∈ keysB N
  · rw [if_pos (hiff.2 hm), if_pos hm, List.idxOf_append, if_pos hm]
    simp [hm]
  · rw [if_neg (fun x => hm (hiff.1 x)), if_neg hm]
    simp [hm, h]
theorem known_put {w : World} {M : Nat} {N : List BL} {n : Nat} (h : Known w M N n) (hn : n ≤ 1000000) (hN : ∀ y ∈ N, wfB y) (z : BL) (hz : wfB z) (hm : z ∉ N) (v : Int) (hv : v = (N.length : Int) + 1) :
    ∃ w', (Instr.mapUpdate 77 (.map (some M)) (arrV .i32 z.1) (.int .i32 v)).run Try.prog w = .ok () w' ∧ Known w' M (N ++ [z]) (n + 1) ∧ w.grownBy w' (some M) := by
  subst hv
  refine h.put kBlk Try.underlying77 (by simp only [maxLen]; omega) (keyBlk z.1 z.2 hz) trivial (intR_mk .i32 _) (KF (N ++ [z])) (KH (N ++ [z])) ?_ ?_ ?_
  · rw [arrK_kb]
    show DataW.lit (Lit.int .i32 (idxB (N ++ [z]) (kb z))) = _
    rw [idxB_mem (fun y hy => by rcases List.mem_append.1 hy with h | h; exact hN y h; rw [List.mem_singleton.1 h]; exact hz) hz (by simp), List.idxOf_append, if_neg hm]
    simp
  · rw [arrK_kb]
    simp [KH, keysB]
  · intro x hx hne
    cases x with
    | string s =>
      have hs : s ≠ kb z := fun e => hne (by rw [arrK_kb, e])
      obtain ⟨a, b⟩ := idxB_snoc_other (N := N) hs
      simp only [KF, KH, a, b]
      exact ⟨trivial, trivial⟩
    | _ => exact ⟨rfl, rfl⟩
theorem known_look {w : World} {M : Nat} {N : List BL} {n : Nat} (h : Known w M N n) (hN : ∀ y ∈ N, wfB y) (z : BL) (hz : wfB z) :
    ∃ v, (Instr.lookup 77 (.map (some M)) (arrV .i32 z.1) true).run Try.prog w = .ok (.tuple #[.int .i32 v, .bool (decide (z ∈ N))]) w ∧ (z ∈ N → v = (N.idxOf z : Int) + 1) := by
  obtain ⟨v, ps, h1, h2⟩ := h.look_ok kBlk Try.underlying77 (zeroI w) (intR_mk .i32 0) (keyBlk z.1 z.2 hz) trivial
  rw [arrK_kb] at h1 h2
  have hv := intR_inv h2
  subst hv
  refine ⟨_, ?_, fun hm => idxB_mem hN hz hm⟩
  rw [h1]
  have : KH N (.string (kb z)) = decide (z ∈ N) := by
    unfold KH
    simp only [mem_keys hN hz]
  rw [this]
end Go.Proofs.Ytcoiddmgcoeocaa.Tr

/- keep: a walk. -/
namespace Go.Proofs.Ytcoiddmgcoeocaa.Tr
open Go.ChangeShapes Go.WideShapes Go.ChangeAt Go.RowKit Go.Maps Go.Proofs.Ytcoiddmgcoeocaa.Mem Go.Proofs.Ytcoiddmgcoeocaa.El Go.Sort Go.Proofs.Ytcoiddmgcoeocaa.Rn
set_option linter.unusedVariables false
set_option linter.unusedSimpArgs false

/-- The side under way: its block, the row of blocks, the map. -/
structure KS (w : World) (Sb M : Nat) (cv : Value) (bo : Option Addr) (cap : Nat) (N : List BL) (n : Nat) : Prop where
  side : w.heap[Sb]? = some (.cells #[cv, .slice bo (N.length + 1) cap] 55 (0, 0))
  own : BE.Own w bo cap (zB :: N)
  known : Known w M N n
  wf : ∀ z ∈ N, wfB z
  ne : blk bo ≠ some Sb ∧ blk bo ≠ some M ∧ Sb ≠ M
theorem KS.same {w w' : World} {Sb M : Nat} {cv : Value} {bo : Option Addr} {cap : Nat} {N : List BL} {n : Nat} (h : KS w Sb M cv bo cap N n) (hg : w.grownBy w' none) : KS w' Sb M cv bo cap N n :=
  ⟨blk_kept h.side hg, h.own.kept0 hg, h.known.kept0 hg, h.wf, h.ne⟩

set_option maxRecDepth 100000 in
set_option maxHeartbeats 2000000 in
theorem keep_old (Sb M : Nat) (cv : Value) (bo : Option Addr) (cap : Nat) (N : List BL) (n : Nat) (zs : BL) (hz : wfB zs) (hm : zs ∈ N) (w : World) (h : KS w Sb M cv bo cap N n) :
    Calls Try.prog 37 #[.pointer (some ⟨Sb, 0, none⟩), arrV .i32 zs.1, .map (some M)] w fun e w' => e = .returned (.int .i32 ((N.idxOf zs : Int) + 1)) ∧ w.grownBy w' none := by
  have h0 := Hid.mk' h
  clear h
  have hd : decide (zs ∈ N) = true := decide_eq_true hm
  go_enter Try.func37, Try.ntmps37
  go_upto_region 1 with (refine wpList_boxA _ rfl 81 _ rfl zs.1 rfl ?_; intro w1 ha1 hg1)
  obtain ⟨v, hl, hv⟩ := known_look (h0.out.known.kept0 hg1) h0.out.wf zs hz
  rw [hd] at hl
  have hv0 := Hid.mk' (hv hm)
  clear hv hd
  go_wp2_with (refine wpList_loadA _ rfl 81 _ rfl 64 _ Try.underlying81 infoT w.heap.size zs.1 zs.2 rfl ha1 ?_)
  go_ret
  exact ⟨by rw [← hv0.out]; rfl, hg1⟩

set_option maxRecDepth 100000 in
set_option maxHeartbeats 4000000 in
theorem keep_new (Sb M : Nat) (cv : Value) (bo : Option Addr) (cap : Nat) (N : List BL) (n : Nat) (hn : n ≤ 100000) (hNl : N.length ≤ 100000) (zs : BL) (hz : wfB zs) (hm : zs ∉ N) (w : World) (h : KS w Sb M cv bo cap N n) :
    Calls Try.prog 37 #[.pointer (some ⟨Sb, 0, none⟩), arrV .i32 zs.1, .map (some M)] w fun e w' => e = .returned (.int .i32 ((N.length : Int) + 1)) ∧ ∃ bo' cap', KS w' Sb M cv bo' cap' (N ++ [zs]) (n + 1) ∧ (bo' = bo ∨ ∃ g, bo' = some ⟨g, 0, none⟩ ∧ w.heap.size ≤ g) ∧ Chg w w' (fun k => k = Sb ∨ k = M ∨ some k = blk bo) := by
  have h0 := Hid.mk' h
  clear h
  have hd : decide (zs ∈ N) = false := decide_eq_false hm
  have hSlt := Hid.mk' (lt_of_block h0.out.side)
  go_enter Try.func37, Try.ntmps37
  go_upto_region 1 with (refine wpList_boxA _ rfl 81 _ rfl zs.1 rfl ?_; intro w1 ha1 hg1)
  have h1 := Hid.mk' (h0.out.same hg1)
  obtain ⟨v, hl, hv⟩ := known_look h1.out.known h1.out.wf zs hz
  rw [hd] at hl
  have l0 := cell_at h1.out.side 1 (v := .slice bo (N.length + 1) cap) rfl
  obtain ⟨nl, hnl⟩ : ∃ nl, N.length + 1 = nl := ⟨_, rfl⟩
  have hnl0 := Hid.mk' hnl
  rw [hnl] at l0
  have hw : IntKind.i32.wrap (nl : Int) = (nl : Int) := by rw [IntKind.wrap_i32]; omega
  obtain ⟨B, hBq⟩ : ∃ B, Hid (w.heap.size = B) := ⟨_, Hid.mk' rfl⟩
  rw [hBq.out] at ha1 ⊢
  have hBS : Hid (B ≠ Sb) := Hid.mk' (by have := hSlt.out; have h2 := hBq.out; omega)
  have hMlt := Hid.mk' h0.out.known.lt
  clear hv hd hnl
  go_upto_region 4 with (refine wpList_loadA _ rfl 81 _ rfl 64 _ Try.underlying81 infoT B zs.1 zs.2 rfl ha1 ?_)
  obtain ⟨w2, hput, hk2, hg2⟩ := known_put h1.out.known (by omega) h1.out.wf zs hz hm (nl : Int) (by have := hnl0.out; omega)
  have hne := h1.out.ne
  have ha2 := ha1.kept hg2 (by intro e; have h2 := Option.some.inj e; have := hMlt.out; have := hBq.out; omega)
  have hs2 : w2.heap[Sb]? = some (.cells #[cv, .slice bo nl cap] 55 (0, 0)) := by rw [hg2.block Sb (lt_of_block h1.out.side) (by intro e; exact hne.2.2 (Option.some.inj e)), h1.out.side, hnl0.out]
  have ho2 : BE.Own w2 bo cap (zB :: N) := h1.out.own.kept hg2 (.inr hne.2.1)
  go_upto_region 5 with (refine wpList_loadA _ rfl 81 _ rfl 64 _ Try.underlying81 infoT B zs.1 zs.2 rfl ha1 ?_)
  have l1 : w2.drew.cell? ⟨Sb, 1, none⟩ = some (.slice bo nl cap) := cell_at hs2 1 rfl
  have l1' : w2.cell? ⟨Sb, 1, none⟩ = some (.slice bo nl cap) := cell_at hs2 1 rfl
  have hSb2 : Sb < w2.heap.size := lt_of_block hs2
  have l2 : (w2.alloc (.cells (zs.1.map (Value.int .i32)).toArray 81)).cell? ⟨Sb, 1, none⟩ = some (.slice bo nl cap) := (World.grownBy_alloc w2 _ none).cell l1' (by simp)
  have hBx : Hid (ArrAt w2.drew B 81 .i32 zs.1) := Hid.mk' ha2
  obtain ⟨bo', cap', w3, hap, ho3, hg3, hat⟩ := app_block (w := w2.drew.alloc (.cells (zs.1.map (Value.int .i32)).toArray 81)) (Bs := zB :: N) (Elem.Own.alloc (w := w2.drew) ho2 _) zs w2.drew.heap.size (heap_alloc_new w2.drew _) (by rw [List.length_cons]; omega) 53
  rw [List.length_cons, hnl0.out] at hap
  have hnl2 : (zB :: N ++ [zs]).length = nl + 1 := by rw [List.length_append, List.length_cons, hnl0.out]; rfl
  rw [hnl2] at hap
  have hs3 : w3.heap[Sb]? = some (.cells #[cv, .slice bo nl cap] 55 (0, 0)) := by
    rw [hg3.block Sb (by have := lt_of_block hs2; simp; omega) (fun e => hne.1 e.symm)]
    exact (heap_alloc_old w2.drew _ (lt_of_block hs2)).trans hs2
  have k1 := cell_at hs3 1 (v := .slice bo nl cap) rfl
  have f1 : w3.frozen? ⟨Sb, 1, none⟩ = false := by simp [World.frozen?, hs3]
  have hbSne : blk bo' ≠ some Sb := by
    rcases hat with rfl | rfl
    · exact hne.1
    · intro e
      have := Option.some.inj e
      have h5 := lt_of_block hs2
      simp at this
      omega
  have hbMne : blk bo' ≠ some M := by
    rcases hat with rfl | rfl
    · exact hne.2.1
    · intro e
      have := Option.some.inj e
      have h5 := hk2.lt
      simp at this
      omega
  have hfin : Hid (KS (w3.setCell ⟨Sb, 1, none⟩ (.slice bo' (nl + 1) cap')) Sb M cv bo' cap' (N ++ [zs]) (n + 1)) := Hid.mk' (by
    have hgS := grownBy_setCell w3 ⟨Sb, 1, none⟩ (.slice bo' (nl + 1) cap')
    refine ⟨?_, ?_, ?_, ?_, hbSne, hbMne, hne.2.2⟩
    · have := block_set hs3 1 (.slice bo' (nl + 1) cap')
      rw [this]
      simp [List.length_append, hnl0.out]
    · exact own_same ho3 (fun g hg => hgS.block g (ho3.lt hg) (fun e => hbSne (by rw [hg, e])))
    · have m1 : w3.heap[M]? = w2.heap[M]? := by
        rw [hg3.block M (by have := hk2.lt; simp; omega) (fun e => hne.2.1 e.symm)]
        exact heap_alloc_old w2.drew _ hk2.lt
      refine hk2.same ?_
      rw [hgS.block M (by have := hk2.lt; have h7 := hg3.size; simp at h7; omega) (fun e => hne.2.2 (Option.some.inj e).symm), m1]
    · intro z hz'
      rcases List.mem_append.1 hz' with h | h
      · exact h1.out.wf z h
      · rw [List.mem_singleton.1 h]; exact hz)
  have hchg : Hid (Chg w (w3.setCell ⟨Sb, 1, none⟩ (.slice bo' (nl + 1) cap')) (fun k => k = Sb ∨ k = M ∨ some k = blk bo)) := Hid.mk' (by
    refine (Chg.of (row := none) hg1 (by simp)).trans ?_
    refine (Chg.of hg2 (fun k hk => .inr (.inl (Option.some.inj hk).symm))).trans ?_
    refine (Chg.of (row := none) (w' := w2.drew.alloc (.cells (zs.1.map (Value.int .i32)).toArray 81)) (grownBy_of_drew (World.grownBy_alloc w2.drew _ none)) (by simp)).trans ?_
    refine (Chg.of hg3 (fun k hk => .inr (.inr hk.symm))).trans ?_
    exact Chg.of (grownBy_setCell w3 ⟨Sb, 1, none⟩ _) (fun k hk => .inl (Option.some.inj hk).symm))
  have hwhere : Hid (bo' = bo ∨ ∃ g, bo' = some ⟨g, 0, none⟩ ∧ w.heap.size ≤ g) := Hid.mk' (by
    rcases hat with h | h
    · exact .inl h
    · refine .inr ⟨_, h, ?_⟩
      have a1 := hg1.size
      have a2 := hg2.size
      simp
      omega)
  clear hat hbSne hbMne ho3 hg3 hs3 hs2 ho2 ha2 hput hk2 hg2 hl hne
  refine wp_region_held_drew (S := fun _ => True) (by kernel_rfl) trivial (fun hHeld => ?_)
  refine wpAnyH_take (i := 0) (v := ?_) rfl (by kernel_rfl) (by kernel_rfl) (by kernel_rfl) (fun _ _ _ h => h) (Or.inl ⟨by rfl, ?_⟩) (by assumption) ?_; rotate_left
  · (intro w hSw; (try dsimp only at hSw); go_simp; try with_reducible rfl)
  try simp only [List.getElem_toArray, List.getElem_cons_zero, Act.put, List.setIfInBounds_toArray, List.set_cons_zero, List.set_cons_succ]
  refine wpAnyH_take (i := 1) (v := ?_) rfl (by kernel_rfl) (by kernel_rfl) (by kernel_rfl) (fun _ _ _ h => h) (Or.inl ⟨by rfl, ?_⟩) (by assumption) ?_; rotate_left
  · (intro w hSw; (try dsimp only at hSw); go_simp; try with_reducible rfl)
  try simp only [List.getElem_toArray, List.getElem_cons_zero, List.getElem_cons_succ, Act.put, List.setIfInBounds_toArray, List.set_cons_zero, List.set_cons_succ]
  refine wpAnyH_take (i := 2) (v := ?_) rfl (by kernel_rfl) (by kernel_rfl) (by kernel_rfl) (fun _ _ _ h => h) (Or.inl ⟨by rfl, ?_⟩) (by assumption) ?_; rotate_left
  · (intro w hSw; (try dsimp only at hSw); go_simp; try with_reducible rfl)
  try simp only [List.getElem_toArray, List.getElem_cons_zero, List.getElem_cons_succ, Act.put, List.setIfInBounds_toArray, List.set_cons_zero, List.set_cons_succ]
  refine wpAnyH_take (i := 3) (v := ?_) rfl (by kernel_rfl) (by kernel_rfl) (by kernel_rfl) (fun _ _ _ h => h) (Or.inl ⟨by rfl, ?_⟩) (by assumption) ?_; rotate_left
  · (intro w hSw; (try dsimp only at hSw); go_simp; try with_reducible rfl)
  try simp only [List.getElem_toArray, List.getElem_cons_zero, List.getElem_cons_succ, Act.put, List.setIfInBounds_toArray, List.set_cons_zero, List.set_cons_succ]
  refine wpAnyH_ready (rs := [4, 5]) (by kernel_rfl) (by simp) ?_
  refine AllReadyH.cons rfl (fun K hK => ?_) (AllReadyH.cons rfl (fun K hK => ?_) AllReadyH.nil)
  · go_simp
    refine hK.out _ _ trivial (fun hHeld => ?_)
    clear hK K
    try simp only [List.getElem_toArray, List.getElem_cons_zero, List.getElem_cons_succ, Act.put, List.setIfInBounds_toArray, List.set_cons_zero, List.set_cons_succ]
    refine wpAnyH_ready (rs := [5]) (by kernel_rfl) (by simp) ?_
    refine AllReadyH.cons rfl (fun K hK => ?_) AllReadyH.nil
    refine step_run (by rfl) (exec_loadA 81 _ rfl 64 _ Try.underlying81 infoT B zs.1 zs.2 rfl hBx.out) ?_
    refine hK.out _ _ trivial (fun hHeld => ?_)
    clear hK K
    try simp only [List.getElem_toArray, List.getElem_cons_zero, List.getElem_cons_succ, Act.put, List.setIfInBounds_toArray, List.set_cons_zero, List.set_cons_succ]
    refine wpAnyH_ready (rs := [6]) (by kernel_rfl) (by simp) ?_
    refine AllReadyH.cons rfl (fun K hK => ?_) AllReadyH.nil
    refine step_run (by rfl) (exec_oneB 53 _ rfl zs.1 zs.2 rfl) ?_
    refine hK.out _ _ trivial (fun hHeld => ?_)
    clear hK K
    try simp only [List.getElem_toArray, List.getElem_cons_zero, List.getElem_cons_succ, Act.put, List.setIfInBounds_toArray, List.set_cons_zero, List.set_cons_succ]
    refine wpAnyH_ready (rs := [7]) (by kernel_rfl) (by simp) ?_
    refine AllReadyH.cons rfl (fun K hK => ?_) AllReadyH.nil
    refine step_run (by rfl) (exec_append _ _ _ _ rfl rfl rfl hap) ?_
    refine hK.out _ _ trivial (fun hHeld => ?_)
    clear hK K
    try simp only [List.getElem_toArray, List.getElem_cons_zero, List.getElem_cons_succ, Act.put, List.setIfInBounds_toArray, List.set_cons_zero, List.set_cons_succ]
    refine wpAnyH_take (i := 8) (v := ?_) rfl (by kernel_rfl) (by kernel_rfl) (by kernel_rfl) (fun _ _ _ h => h) (Or.inl ⟨by rfl, ?_⟩) (by assumption) ?_; rotate_left
    · (intro w hSw; (try dsimp only at hSw); go_simp; try with_reducible rfl)
    try simp only [List.getElem_toArray, List.getElem_cons_zero, List.getElem_cons_succ, Act.put, List.setIfInBounds_toArray, List.set_cons_zero, List.set_cons_succ]
    refine wpAnyH_take (i := 9) (v := ?_) rfl (by kernel_rfl) (by kernel_rfl) (by kernel_rfl) (fun _ _ _ h => h) (Or.inl ⟨by rfl, ?_⟩) (by assumption) ?_; rotate_left
    · (intro w hSw; (try dsimp only at hSw); go_simp; try with_reducible rfl)
    try simp only [List.getElem_toArray, List.getElem_cons_zero, List.getElem_cons_succ, Act.put, List.setIfInBounds_toArray, List.set_cons_zero, List.set_cons_succ]
    refine wpAnyH_ready (rs := [10]) (by kernel_rfl) (by simp) ?_
    refine AllReadyH.cons rfl (fun K hK => ?_) AllReadyH.nil
    go_simp
    refine hK.out _ _ trivial (fun hHeld => ?_)
    clear hK K
    try simp only [List.getElem_toArray, List.getElem_cons_zero, List.getElem_cons_succ, Act.put, List.setIfInBounds_toArray, List.set_cons_zero, List.set_cons_succ]
    refine wpAnyH_done (by kernel_rfl) ?_ _
    go_wp2_with fail
    go_ret
    refine ⟨?_, bo', cap', hfin.out, hwhere.out, hchg.out⟩
    rw [← hnl0.out]
    rfl
  · refine step_run (by rfl) (exec_loadA 81 _ rfl 64 _ Try.underlying81 infoT B zs.1 zs.2 rfl hBx.out) ?_
    refine hK.out _ _ trivial (fun hHeld => ?_)
    clear hK K
    try simp only [List.getElem_toArray, List.getElem_cons_zero, List.getElem_cons_succ, Act.put, List.setIfInBounds_toArray, List.set_cons_zero, List.set_cons_succ]
    refine wpAnyH_ready (rs := [4, 6]) (by kernel_rfl) (by simp) ?_
    refine AllReadyH.cons rfl (fun K hK => ?_) (AllReadyH.cons rfl (fun K hK => ?_) AllReadyH.nil)
    · go_simp
      refine hK.out _ _ trivial (fun hHeld => ?_)
      clear hK K
      try simp only [List.getElem_toArray, List.getElem_cons_zero, List.getElem_cons_succ, Act.put, List.setIfInBounds_toArray, List.set_cons_zero, List.set_cons_succ]
      refine wpAnyH_ready (rs := [6]) (by kernel_rfl) (by simp) ?_
      refine AllReadyH.cons rfl (fun K hK => ?_) AllReadyH.nil
      refine step_run (by rfl) (exec_oneB 53 _ rfl zs.1 zs.2 rfl) ?_
      refine hK.out _ _ trivial (fun hHeld => ?_)
      clear hK K
      try simp only [List.getElem_toArray, List.getElem_cons_zero, List.getElem_cons_succ, Act.put, List.setIfInBounds_toArray, List.set_cons_zero, List.set_cons_succ]
      refine wpAnyH_ready (rs := [7]) (by kernel_rfl) (by simp) ?_
      refine AllReadyH.cons rfl (fun K hK => ?_) AllReadyH.nil
      refine step_run (by rfl) (exec_append _ _ _ _ rfl rfl rfl hap) ?_
      refine hK.out _ _ trivial (fun hHeld => ?_)
      clear hK K
      try simp only [List.getElem_toArray, List.getElem_cons_zero, List.getElem_cons_succ, Act.put, List.setIfInBounds_toArray, List.set_cons_zero, List.set_cons_succ]
      refine wpAnyH_take (i := 8) (v := ?_) rfl (by kernel_rfl) (by kernel_rfl) (by kernel_rfl) (fun _ _ _ h => h) (Or.inl ⟨by rfl, ?_⟩) (by assumption) ?_; rotate_left
      · (intro w hSw; (try dsimp only at hSw); go_simp; try with_reducible rfl)
      try simp only [List.getElem_toArray, List.getElem_cons_zero, List.getElem_cons_succ, Act.put, List.setIfInBounds_toArray, List.set_cons_zero, List.set_cons_succ]
      refine wpAnyH_take (i := 9) (v := ?_) rfl (by kernel_rfl) (by kernel_rfl) (by kernel_rfl) (fun _ _ _ h => h) (Or.inl ⟨by rfl, ?_⟩) (by assumption) ?_; rotate_left
      · (intro w hSw; (try dsimp only at hSw); go_simp; try with_reducible rfl)
      try simp only [List.getElem_toArray, List.getElem_cons_zero, List.getElem_cons_succ, Act.put, List.setIfInBounds_toArray, List.set_cons_zero, List.set_cons_succ]
      refine wpAnyH_ready (rs := [10]) (by kernel_rfl) (by simp) ?_
      refine AllReadyH.cons rfl (fun K hK => ?_) AllReadyH.nil
      go_simp
      refine hK.out _ _ trivial (fun hHeld => ?_)
      clear hK K
      try simp only [List.getElem_toArray, List.getElem_cons_zero, List.getElem_cons_succ, Act.put, List.setIfInBounds_toArray, List.set_cons_zero, List.set_cons_succ]
      refine wpAnyH_done (by kernel_rfl) ?_ _
      go_wp2_with fail
      go_ret
      refine ⟨?_, bo', cap', hfin.out, hwhere.out, hchg.out⟩
      rw [← hnl0.out]
      rfl
    · refine step_run (by rfl) (exec_oneB 53 _ rfl zs.1 zs.2 rfl) ?_
      refine hK.out _ _ trivial (fun hHeld => ?_)
      clear hK K
      try simp only [List.getElem_toArray, List.getElem_cons_zero, List.getElem_cons_succ, Act.put, List.setIfInBounds_toArray, List.set_cons_zero, List.set_cons_succ]
      refine wpAnyH_ready (rs := [4]) (by kernel_rfl) (by simp) ?_
      refine AllReadyH.cons rfl (fun K hK => ?_) AllReadyH.nil
      go_simp
      refine hK.out _ _ trivial (fun hHeld => ?_)
      clear hK K
      try simp only [List.getElem_toArray, List.getElem_cons_zero, List.getElem_cons_succ, Act.put, List.setIfInBounds_toArray, List.set_cons_zero, List.set_cons_succ]
      refine wpAnyH_ready (rs := [7]) (by kernel_rfl) (by simp) ?_
      refine AllReadyH.cons rfl (fun K hK => ?_) AllReadyH.nil
      refine step_run (by rfl) (exec_append _ _ _ _ rfl rfl rfl hap) ?_
      refine hK.out _ _ trivial (fun hHeld => ?_)
      clear hK K
      try simp only [List.getElem_toArray, List.getElem_cons_zero, List.getElem_cons_succ, Act.put, List.setIfInBounds_toArray, List.set_cons_zero, List.set_cons_succ]
      refine wpAnyH_take (i := 8) (v := ?_) rfl (by kernel_rfl) (by kernel_rfl) (by kernel_rfl) (fun _ _ _ h => h) (Or.inl ⟨by rfl, ?_⟩) (by assumption) ?_; rotate_left
      · (intro w hSw; (try dsimp only at hSw); go_simp; try with_reducible rfl)
      try simp only [List.getElem_toArray, List.getElem_cons_zero, List.getElem_cons_succ, Act.put, List.setIfInBounds_toArray, List.set_cons_zero, List.set_cons_succ]
      refine wpAnyH_take (i := 9) (v := ?_) rfl (by kernel_rfl) (by kernel_rfl) (by kernel_rfl) (fun _ _ _ h => h) (Or.inl ⟨by rfl, ?_⟩) (by assumption) ?_; rotate_left
      · (intro w hSw; (try dsimp only at hSw); go_simp; try with_reducible rfl)
      try simp only [List.getElem_toArray, List.getElem_cons_zero, List.getElem_cons_succ, Act.put, List.setIfInBounds_toArray, List.set_cons_zero, List.set_cons_succ]
      refine wpAnyH_ready (rs := [10]) (by kernel_rfl) (by simp) ?_
      refine AllReadyH.cons rfl (fun K hK => ?_) AllReadyH.nil
      go_simp
      refine hK.out _ _ trivial (fun hHeld => ?_)
      clear hK K
      try simp only [List.getElem_toArray, List.getElem_cons_zero, List.getElem_cons_succ, Act.put, List.setIfInBounds_toArray, List.set_cons_zero, List.set_cons_succ]
      refine wpAnyH_done (by kernel_rfl) ?_ _
      go_wp2_with fail
      go_ret
      refine ⟨?_, bo', cap', hfin.out, hwhere.out, hchg.out⟩
      rw [← hnl0.out]
      rfl
end Go.Proofs.Ytcoiddmgcoeocaa.Tr

/- Maps that a call makes, by what they hold at each key; a letter and a mark as a key; what the program's map of layer 13 holds. -/
import Derived.Test.YtfehmbicolllkaaVL13
import Derived.Test.YtfehmbicolllkaaAk
import Derived.WalkSmall
import Derived.Maps.OwnSet
import Derived.OpenShut
import Derived.BigQuiet
import Derived.Deep.RegionHeld3
namespace Go.Proofs.Ytfehmbicolllkaa.C13
open Go.ChangeShapes Go.WideShapes Go.ChangeAt Go.RowKit Go.Maps Go.Proofs.Ytfehmbicolllkaa.Mem Go.Proofs.Ytfehmbicolllkaa.Ar
set_option linter.unusedVariables false
set_option linter.unusedSimpArgs false

theorem ownsMap_same {H : Type} {P : Program} {t : TypeId} {R : Value → Option (DataW H × List MemPlace)} {w w' : World} {b n : Nat} {D : DataW H} (h : w.ownsMap P t R b n D) (e : w'.heap[b]? = w.heap[b]?) : w'.ownsMap P t R b n D := by
  obtain ⟨es, clock, hb, r⟩ := h
  exact ⟨es, clock, e.trans hb, r⟩
abbrev Rdr := Value → Option (DataW Unit × List MemPlace)
/-- A map whose elements read by R: at each key F, and whether it is there. -/
def MG (w : World) (kt : TypeId) (R : Rdr) (b : Nat) (zd : DataW Unit) (F : Lit → DataW Unit) (H : Lit → Bool) (N : Nat) : Prop :=
  ∃ n D, w.ownsMap Try.prog kt R b n D ∧ n ≤ N ∧ ∀ kl, WideAt.IsKeyLit kl → D.atKey kl zd = F kl ∧ Maps.has D kl = H kl
section
variable {w w' : World} {kt b : Nat} {R : Rdr} {zd : DataW Unit} {F : Lit → DataW Unit} {H : Lit → Bool} {N : Nat}
theorem MG.lt (h : MG w kt R b zd F H N) : b < w.heap.size := by obtain ⟨n, D, h, _⟩ := h; exact h.lt
theorem MG.isMap (h : MG w kt R b zd F H N) : ∃ es clock, w.heap[b]? = some (.map es clock) := by obtain ⟨n, D, ⟨es, clock, hb, _⟩, _⟩ := h; exact ⟨es, clock, hb⟩
theorem MG.same (h : MG w kt R b zd F H N) (e : w'.heap[b]? = w.heap[b]?) : MG w' kt R b zd F H N := by
  obtain ⟨n, D, h, r⟩ := h
  exact ⟨n, D, ownsMap_same h e, r⟩
theorem MG.kept {row : Option Nat} (h : MG w kt R b zd F H N) (hg : w.grownBy w' row) (hne : some b ≠ row) : MG w' kt R b zd F H N := h.same (hg.block b h.lt hne)
theorem MG.kept0 (h : MG w kt R b zd F H N) (hg : w.grownBy w' none) : MG w' kt R b zd F H N := h.kept hg (by simp)
theorem MG.made (w : World) (kt : TypeId) (R : Rdr) (zd : DataW Unit) : MG (w.alloc (.map #[] 0)) kt R w.heap.size zd (fun _ => zd) (fun _ => false) 0 :=
  ⟨0, .map [], World.ownsMap_made w Try.prog kt R, Nat.le_refl _, fun _ _ => ⟨rfl, rfl⟩⟩
theorem MG.look {t e : TypeId} (h : MG w kt R b zd F H N) (K : Keyed Try.prog kt) (ht : Try.prog.underlying t = some (.map kt e)) {z : Value} {zp : List MemPlace} (hz : (zeroValue e).run Try.prog w = .ok z w) (hzd : R z = some (zd, zp))
    {key : Value} {kl : Lit} (hkey : keyOf Try.prog kt key = some kl) (hk : WideAt.IsKeyLit kl) : ∃ v ps, (Instr.lookup t (.map (some b)) key false).run Try.prog w = .ok v w ∧ R v = some (F kl, ps) := by
  obtain ⟨n, D, ho, _, hF⟩ := h
  obtain ⟨v, ps, h1, h2⟩ := ho.lookup K ht hz hzd hkey
  exact ⟨v, ps, h1, by rw [h2, (hF kl hk).1]⟩
theorem MG.look_ok {t e : TypeId} (h : MG w kt R b zd F H N) (K : Keyed Try.prog kt) (ht : Try.prog.underlying t = some (.map kt e)) {z : Value} {zp : List MemPlace} (hz : (zeroValue e).run Try.prog w = .ok z w) (hzd : R z = some (zd, zp))
    {key : Value} {kl : Lit} (hkey : keyOf Try.prog kt key = some kl) (hk : WideAt.IsKeyLit kl) : ∃ v ps, (Instr.lookup t (.map (some b)) key true).run Try.prog w = .ok (.tuple #[v, .bool (H kl)]) w ∧ R v = some (F kl, ps) := by
  obtain ⟨n, D, ho, _, hF⟩ := h
  obtain ⟨v, ps, h1, h2⟩ := ho.look_ok K ht hz hzd hkey
  rw [(hF kl hk).2] at h1
  exact ⟨v, ps, h1, by rw [h2, (hF kl hk).1]⟩
theorem MG.put {t e : TypeId} (h : MG w kt R b zd F H N) (K : Keyed Try.prog kt) (ht : Try.prog.underlying t = some (.map kt e)) (hN : N < maxLen) {key val : Value} {kl : Lit} {d : DataW Unit} {ps : List MemPlace}
    (hkey : keyOf Try.prog kt key = some kl) (hk : WideAt.IsKeyLit kl) (hv : R val = some (d, ps)) (G : Lit → DataW Unit) (J : Lit → Bool) (hG : G kl = d) (hJ : J kl = true) (hG' : ∀ x, WideAt.IsKeyLit x → x ≠ kl → G x = F x ∧ J x = H x) :
    ∃ w', (Instr.mapUpdate t (.map (some b)) key val).run Try.prog w = .ok () w' ∧ MG w' kt R b zd G J (N + 1) ∧ w.grownBy w' (some b) := by
  obtain ⟨n, D, ho, hn, hF⟩ := h
  obtain ⟨w', h1, h2, h3⟩ := ho.update K ht (Nat.lt_of_le_of_lt hn hN) hkey hv
  refine ⟨w', h1, ⟨n + 1, _, h2, by omega, fun x hx => ?_⟩, h3⟩
  by_cases e : x = kl
  · subst e
    rw [atKey_put_same ho.isMap hk, has_put_same ho.isMap hk, hG, hJ]
    exact ⟨rfl, rfl⟩
  · obtain ⟨g1, g2⟩ := hG' x hx e
    rw [atKey_put_other e, has_put_other e, g1, g2]
    exact hF x hx
/-- 'len(m)' where each put was at a new key: told by the caller. -/
theorem MG.len {t e : TypeId} (h : MG w kt R b zd F H N) (ht : Try.prog.underlying t = some (.map kt e)) (ty : TypeId) : ∃ n, n ≤ N ∧ (Builtin.len_ #[t] ty #[.map (some b)]).run Try.prog w = .ok (.int .i64 (n : Int)) w := by
  obtain ⟨n, D, ho, hn, _⟩ := h
  exact ⟨Maps.size D, Nat.le_trans ho.size_le hn, ho.len ht ty⟩
end
theorem MG.mono {w : World} {kt b : Nat} {R : Rdr} {zd : DataW Unit} {F G : Lit → DataW Unit} {H J : Lit → Bool} {N : Nat} (h : MG w kt R b zd F H N) (hG : ∀ kl, WideAt.IsKeyLit kl → F kl = G kl ∧ H kl = J kl) : MG w kt R b zd G J N := by
  obtain ⟨n, D, h, hn, r⟩ := h
  exact ⟨n, D, h, hn, fun kl hk => ⟨(r kl hk).1.trans (hG kl hk).1, (r kl hk).2.trans (hG kl hk).2⟩⟩
theorem MG.ne_cells {w : World} {kt b : Nat} {R : Rdr} {zd : DataW Unit} {F : Lit → DataW Unit} {H : Lit → Bool} {N : Nat} (h : MG w kt R b zd F H N) {g : Nat} {cs : Array Value} {t : TypeId} {fr : Nat × Nat} (hg : w.heap[g]? = some (.cells cs t fr)) : g ≠ b := by
  intro e
  obtain ⟨es, clock, hb⟩ := h.isMap
  rw [← e, hg] at hb
  cases hb
theorem laidT : laidOutB Try.prog = true := by kernel_rfl
theorem kPair : Keyed Try.prog 50 := Keyed.of_law (deep_law_laid laidT (m := 2) (by omega) (of_decide_eq_true (show decide (50 < Try.prog.types.size) = true by kernel_rfl)) (by kernel_rfl) (by rw [Try.underlying50]))
theorem cPair : Try.prog.cellsOf 50 = 2 := by kernel_rfl
theorem cRune : Try.prog.cellsOf 21 = 1 := by kernel_rfl
theorem ktPair : Try.prog.keyType 50 = true := by kernel_rfl
theorem szT : decide (0 < Try.prog.types.size) = true := by kernel_rfl
theorem wf32 {z : Int} (h : I32 z) : (Lit.int .i32 z).wf = true := by
  simp only [Lit.wf, Bool.and_eq_true, decide_eq_true_eq]
  exact ⟨h.1, h.2⟩
theorem wf_two {l m : Int} (hl : I32 l) (hm : I32 m) : ∀ z ∈ [l, m], (Lit.int .i32 z).wf = true := by
  intro z hz
  simp only [List.mem_cons, List.not_mem_nil, or_false] at hz
  rcases hz with rfl | rfl
  · exact wf32 hl
  · exact wf32 hm
def kb (l m : Int) : List UInt8 := keyBytes ([l, m].map (Lit.int .i32))
theorem kb_inj {l m a b : Int} (hl : I32 l) (hm : I32 m) (ha : I32 a) (hb : I32 b) (h : kb l m = kb a b) : l = a ∧ m = b := by
  have := Tr.arrK_inj (q := .i32) [l, m] [a, b] rfl (wf_two hl hm) (wf_two ha hb) (congrArg Lit.string h)
  simpa using this
abbrev prV (l m : Int) : Value := .agg #[.int .i32 l, .int .i32 m]
theorem key_pair {l m : Int} (hl : I32 l) (hm : I32 m) : keyOf Try.prog 50 (prV l m) = some (.string (kb l m)) :=
  Tr.keyOf_arr Try.underlying50 Try.underlying21 cPair cRune ktPair (of_decide_eq_true szT) [l, m] rfl (wf_two hl hm)
theorem build_pair (l m : Int) (w : World) : (Instr.build 50 #[(0, .int .i32 l), (1, .int .i32 m)]).run Try.prog w = .ok (prV l m) w := by kernel_rfl
/-- What the map holds behind its first k entries, at any key. -/
def fk (k : Nat) : Lit → Option Nat
  | .string L => ((pt.take k).reverse.find? (fun t => decide (kb (t.1 : Int) (t.2.1 : Int) = L))).map (fun t => t.2.2)
  | _ => none
def FK (k : Nat) (x : Lit) : DataW Unit := .lit (.int .i32 (((fk k x).getD 0 : Nat) : Int))
def HK (k : Nat) (x : Lit) : Bool := (fk k x).isSome
theorem fk_put {k : Nat} {t : Nat × Nat × Nat} (ht : pt[k]? = some t) : fk (k + 1) (.string (kb (t.1 : Int) (t.2.1 : Int))) = some t.2.2 ∧ ∀ x, x ≠ .string (kb (t.1 : Int) (t.2.1 : Int)) → fk (k + 1) x = fk k x := by
  have e : (pt.take (k + 1)).reverse = t :: (pt.take k).reverse := by
    rw [List.take_add_one, ht]
    simp
  refine ⟨?_, fun x hx => ?_⟩
  · unfold fk
    simp only [e, List.find?_cons, decide_true]
    rfl
  · cases x with
    | string L =>
      have hne : ¬ kb (t.1 : Int) (t.2.1 : Int) = L := fun h => hx (by rw [h])
      unfold fk
      simp only [e, List.find?_cons, decide_eq_false hne]
    | _ => rfl
theorem fk_all {l m : Int} (hl : I32 l) (hm : I32 m) : fk 120 (.string (kb l m)) = coR l m := by
  rw [← coP_all]
  unfold fk coP
  simp only
  congr 1
  have e : ∀ L : List (Nat × Nat × Nat), (∀ t ∈ L, t.1 ≤ 65535 ∧ t.2.1 ≤ 65535) → L.find? (fun t => decide (kb (t.1 : Int) (t.2.1 : Int) = kb l m)) = L.find? (fun t => decide ((t.1 : Int) = l ∧ (t.2.1 : Int) = m)) := by
    intro L
    induction L with
    | nil => intro _; rfl
    | cons t L ih =>
      intro h
      obtain ⟨h1, h2⟩ := h t (by simp)
      have hd : decide (kb (t.1 : Int) (t.2.1 : Int) = kb l m) = decide ((t.1 : Int) = l ∧ (t.2.1 : Int) = m) := by
        by_cases hq : (t.1 : Int) = l ∧ (t.2.1 : Int) = m
        · rw [decide_eq_true hq, decide_eq_true (by rw [hq.1, hq.2])]
        · rw [decide_eq_false hq, decide_eq_false (fun h => hq (kb_inj (by unfold I32; omega) (by unfold I32; omega) hl hm h))]
      rw [List.find?_cons, List.find?_cons, hd, ih (fun t ht => h t (by simp [ht]))]
  refine e _ (fun t ht => ?_)
  have := pt_small t (List.mem_of_mem_take (List.mem_reverse.1 ht))
  exact ⟨this.1, this.2.1⟩
abbrev zI : DataW Unit := .lit (.int .i32 0)
theorem zero_rune (w : World) : (zeroValue 21).run Try.prog w = .ok (.int .i32 0) w := by kernel_rfl
theorem make_map (w : World) : (Instr.makeMap 47 (some (.int .i64 120))).run Try.prog w = .ok (.map (some w.heap.size)) (w.alloc (.map #[] 0)) := by kernel_rfl
theorem MG.start (w : World) : MG (w.alloc (.map #[] 0)) 50 (plainElem (H := Unit) Try.prog 21) w.heap.size zI (FK 0) (HK 0) 0 :=
  (MG.made w 50 (plainElem (H := Unit) Try.prog 21) zI).mono (fun kl _ => by
    have : fk 0 kl = none := by cases kl <;> rfl
    unfold FK HK
    rw [this]
    exact ⟨rfl, rfl⟩)
/-- One entry more. -/
theorem MG.entry {w : World} {B k : Nat} {t : Nat × Nat × Nat} (h : MG w 50 (plainElem (H := Unit) Try.prog 21) B zI (FK k) (HK k) k) (ht : pt[k]? = some t) (hk : k < 120) : ∃ w', (Instr.mapUpdate 47 (.map (some B)) (prV (t.1 : Int) (t.2.1 : Int)) (.int .i32 (t.2.2 : Int))).run Try.prog w = .ok () w' ∧ MG w' 50 (plainElem (H := Unit) Try.prog 21) B zI (FK (k + 1)) (HK (k + 1)) (k + 1) ∧ w.grownBy w' (some B) := by
  obtain ⟨s1, s2, s3⟩ := pt_small t (List.mem_of_getElem? ht)
  have hp := fk_put ht
  refine h.put kPair Try.underlying47 (by unfold maxLen; omega) (key_pair (by unfold I32; omega) (by unfold I32; omega)) trivial (plainElem_int Try.underlying21 (wf32 (by unfold I32; omega))) (FK (k + 1)) (HK (k + 1)) ?_ ?_ ?_
  · unfold FK; rw [hp.1]; rfl
  · unfold HK; rw [hp.1]; rfl
  · intro x _ hx
    unfold FK HK
    rw [hp.2 x hx]
    exact ⟨rfl, rfl⟩
theorem MG.find {w : World} {B : Nat} (h : MG w 50 (plainElem (H := Unit) Try.prog 21) B zI (FK 120) (HK 120) 120) {l m : Int} (hl : I32 l) (hm : I32 m) {R : Option Nat} (hR : coR l m = R) : (Instr.lookup 47 (.map (some B)) (prV l m) true).run Try.prog w = .ok (.tuple #[.int .i32 ((R.getD 0 : Nat) : Int), .bool R.isSome]) w := by
  obtain ⟨v, ps, h1, h2⟩ := h.look_ok kPair Try.underlying47 (zero_rune w) (plainElem_int Try.underlying21 (by decide)) (key_pair hl hm) trivial
  obtain ⟨a, rfl, e, _⟩ := plainElem_int_inv Try.underlying21 h2
  unfold FK at e
  unfold HK at h1
  rw [fk_all hl hm, hR] at h1 e
  simp only [Prod.mk.injEq, DataW.lit.injEq, Lit.int.injEq, true_and] at e
  rw [h1, ← e.1]
end Go.Proofs.Ytfehmbicolllkaa.C13

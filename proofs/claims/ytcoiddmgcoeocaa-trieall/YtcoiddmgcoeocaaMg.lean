/- Maps by what they hold at each key, whatever their elements are; elements that are arrays of integers. -/
import Derived.Test.YtcoiddmgcoeocaaMf
import Derived.Test.YtcoiddmgcoeocaaAk
namespace Go.Proofs.Ytcoiddmgcoeocaa.Tr
open Go.ChangeShapes Go.WideShapes Go.ChangeAt Go.RowKit Go.Maps Go.Proofs.Ytcoiddmgcoeocaa.Mem Go.Proofs.Ytcoiddmgcoeocaa.Ucs
set_option linter.unusedVariables false

abbrev Rdr := Value → Option (DataW Unit × List MemPlace)
/-- A map whose elements read by R: at each key F, and whether it is there. -/
def MG (w : World) (kt : TypeId) (R : Rdr) (b : Nat) (zd : DataW Unit) (F : Lit → DataW Unit) (H : Lit → Bool) (N : Nat) : Prop :=
  ∃ n D, w.ownsMap Try.prog kt R b n D ∧ n ≤ N ∧ ∀ kl, WideAt.IsKeyLit kl → D.atKey kl zd = F kl ∧ Maps.has D kl = H kl
section
variable {w w' : World} {kt b : Nat} {R : Rdr} {zd : DataW Unit} {F : Lit → DataW Unit} {H : Lit → Bool} {N : Nat}
theorem MG.lt (h : MG w kt R b zd F H N) : b < w.heap.size := by obtain ⟨n, D, h, _⟩ := h; exact h.lt
theorem MG.isMap (h : MG w kt R b zd F H N) : ∃ es clock, w.heap[b]? = some (.map es clock) := by obtain ⟨n, D, ⟨es, clock, hb, _⟩, _⟩ := h; exact ⟨es, clock, hb⟩
theorem MG.same (h : MG w kt R b zd F H N) (e : w'.heap[b]? = w.heap[b]?) : MG w' kt R b zd F H N := by
  obtain ⟨n, D, h, r⟩ := h
  exact ⟨n, D, ownsMap_same h e, r⟩
theorem MG.kept {row : Option Nat} (h : MG w kt R b zd F H N) (hg : w.grownBy w' row) (hne : some b ≠ row) : MG w' kt R b zd F H N := h.same (hg.block b h.lt hne)
theorem MG.kept0 (h : MG w kt R b zd F H N) (hg : w.grownBy w' none) : MG w' kt R b zd F H N := h.kept hg (by simp)
theorem MG.made (w : World) (kt : TypeId) (R : Rdr) (zd : DataW Unit) : MG (w.alloc (.map #[] 0)) kt R w.heap.size zd (fun _ => zd) (fun _ => false) 0 :=
  ⟨0, .map [], World.ownsMap_made w Try.prog kt R, Nat.le_refl _, fun _ _ => ⟨rfl, rfl⟩⟩
theorem MG.look {t e : TypeId} (h : MG w kt R b zd F H N) (K : Keyed Try.prog kt) (ht : Try.prog.underlying t = some (.map kt e)) {z : Value} {zp : List MemPlace} (hz : (zeroValue e).run Try.prog w = .ok z w) (hzd : R z = some (zd, zp))
    {key : Value} {kl : Lit} (hkey : keyOf Try.prog kt key = some kl) (hk : WideAt.IsKeyLit kl) : ∃ v ps, (Instr.lookup t (.map (some b)) key false).run Try.prog w = .ok v w ∧ R v = some (F kl, ps) := by
  obtain ⟨n, D, ho, _, hF⟩ := h
  obtain ⟨v, ps, h1, h2⟩ := ho.lookup K ht hz hzd hkey
  exact ⟨v, ps, h1, by rw [h2, (hF kl hk).1]⟩
theorem MG.look_ok {t e : TypeId} (h : MG w kt R b zd F H N) (K : Keyed Try.prog kt) (ht : Try.prog.underlying t = some (.map kt e)) {z : Value} {zp : List MemPlace} (hz : (zeroValue e).run Try.prog w = .ok z w) (hzd : R z = some (zd, zp))
    {key : Value} {kl : Lit} (hkey : keyOf Try.prog kt key = some kl) (hk : WideAt.IsKeyLit kl) : ∃ v ps, (Instr.lookup t (.map (some b)) key true).run Try.prog w = .ok (.tuple #[v, .bool (H kl)]) w ∧ R v = some (F kl, ps) := by
  obtain ⟨n, D, ho, _, hF⟩ := h
  obtain ⟨v, ps, h1, h2⟩ := ho.look_ok K ht hz hzd hkey
  rw [(hF kl hk).2] at h1
  exact ⟨v, ps, h1, by rw [h2, (hF kl hk).1]⟩
theorem MG.put {t e : TypeId} (h : MG w kt R b zd F H N) (K : Keyed Try.prog kt) (ht : Try.prog.underlying t = some (.map kt e)) (hN : N < maxLen) {key val : Value} {kl : Lit} {d : DataW Unit} {ps : List MemPlace}
    (hkey : keyOf Try.prog kt key = some kl) (hk : WideAt.IsKeyLit kl) (hv : R val = some (d, ps)) (G : Lit → DataW Unit) (J : Lit → Bool) (hG : G kl = d) (hJ : J kl = true) (hG' : ∀ x, WideAt.IsKeyLit x → x ≠ kl → G x = F x ∧ J x = H x) :
    ∃ w', (Instr.mapUpdate t (.map (some b)) key val).run Try.prog w = .ok () w' ∧ MG w' kt R b zd G J (N + 1) ∧ w.grownBy w' (some b) := by
  obtain ⟨n, D, ho, hn, hF⟩ := h
  obtain ⟨w', h1, h2, h3⟩ := ho.update K ht (Nat.lt_of_le_of_lt hn hN) hkey hv
  refine ⟨w', h1, ⟨n + 1, _, h2, by omega, fun x hx => ?_⟩, h3⟩
  by_cases e : x = kl
  · subst e
    rw [atKey_put_same ho.isMap hk, has_put_same ho.isMap hk, hG, hJ]
    exact ⟨rfl, rfl⟩
  · obtain ⟨g1, g2⟩ := hG' x hx e
    rw [atKey_put_other e, has_put_other e, g1, g2]
    exact hF x hx
/-- 'len(m)' where each put was at a new key: told by the caller. -/
theorem MG.len {t e : TypeId} (h : MG w kt R b zd F H N) (ht : Try.prog.underlying t = some (.map kt e)) (ty : TypeId) : ∃ n, n ≤ N ∧ (Builtin.len_ #[t] ty #[.map (some b)]).run Try.prog w = .ok (.int .i64 (n : Int)) w := by
  obtain ⟨n, D, ho, hn, _⟩ := h
  exact ⟨Maps.size D, Nat.le_trans ho.size_le hn, ho.len ht ty⟩
end
theorem wpList_putG (w : World) {ops : Array Oper} {rest : List Oper} {o : Oper} {a : Act} {Q : Exit → Act → World → Prop} (hg : o.guard = none) (m x v : Operand) (t : TypeId) (hop : o.op = Op.mapUpdate t m x v)
    (kt e : TypeId) (K : Keyed Try.prog kt) (ht : Try.prog.underlying t = some (.map kt e)) (R : Rdr) (b N : Nat) (zd : DataW Unit) (F : Lit → DataW Unit) (H : Lit → Bool) (hm : a.eval m = .map (some b)) (h : MG w kt R b zd F H N) (hN : N < maxLen)
    (key val : Value) (kl : Lit) (hx : a.eval x = key) (hv : a.eval v = val) (hkey : keyOf Try.prog kt key = some kl) (hk : WideAt.IsKeyLit kl) (d : DataW Unit) (ps : List MemPlace) (hval : R val = some (d, ps))
    (G : Lit → DataW Unit) (J : Lit → Bool) (hG : G kl = d) (hJ : J kl = true) (hG' : ∀ x, WideAt.IsKeyLit x → x ≠ kl → G x = F x ∧ J x = H x)
    (hK : ∀ w', MG w' kt R b zd G J (N + 1) → w.grownBy w' (some b) → wpList Try.prog ops Q rest (a.put o.dst undef) w') : wpList Try.prog ops Q (o :: rest) a w := by
  refine wpList_plain hg fun K' hK' => ?_
  obtain ⟨w', hrun, r1, r2⟩ := h.put K ht hN hkey hk hval G J hG hJ hG'
  unfold Oper.wp
  simp [execOp, hop, hm, hx, hv, hrun, Result.andThen]
  exact hK' _ _ (hK w' r1 r2)

/-- An element that is an array of integers. -/
def litOf (q : IntKind) : Value → Option (DataW Unit)
  | .int q' z => if q' = q then some (.lit (.int q z)) else none
  | _ => none
def arrElem (q : IntKind) : Rdr
  | .agg cs => (cs.toList.mapM (litOf q)).map (fun l => (.agg l, []))
  | _ => none
def arrD (q : IntKind) (zs : List Int) : DataW Unit := .agg (zs.map (fun z => .lit (.int q z)))
theorem arrElem_mk (q : IntKind) (zs : List Int) : arrElem q (arrV q zs) = some (arrD q zs, []) := by
  unfold arrElem arrV
  simp only
  have : (zs.map (Value.int q)).mapM (litOf q) = some (zs.map (fun z => .lit (.int q z))) := by
    induction zs with
    | nil => rfl
    | cons z zs ih => rw [List.map_cons, List.mapM_cons, ih]; simp [litOf]
  rw [this]
  rfl
theorem arrElem_inv {q : IntKind} {v : Value} {zs : List Int} {ps : List MemPlace} (h : arrElem q v = some (arrD q zs, ps)) : v = arrV q zs := by
  unfold arrElem at h
  split at h
  · rename_i cs
    obtain ⟨l, hl, e⟩ := Option.map_eq_some_iff.1 h
    simp only [Prod.mk.injEq] at e
    have hz : l = zs.map (fun z => .lit (.int q z)) := by
      have := e.1
      unfold arrD at this
      injection this
    have gen : ∀ (cs : List Value) (zs : List Int), cs.mapM (litOf q) = some (zs.map (fun z => .lit (.int q z))) → cs = zs.map (Value.int q) := by
      intro cs
      induction cs with
      | nil =>
        intro zs h
        cases zs with
        | nil => rfl
        | cons z zs => simp at h
      | cons c cs ih =>
        intro zs h
        rw [List.mapM_cons] at h
        cases hc : litOf q c with
        | none => rw [hc] at h; cases h
        | some d =>
          rw [hc] at h
          cases hm : cs.mapM (litOf q) with
          | none => rw [hm] at h; cases h
          | some ds =>
            rw [hm] at h
            simp at h
            cases zs with
            | nil => simp at h
            | cons z zs =>
              simp only [List.map_cons, List.cons.injEq] at h
              obtain ⟨h1, h2⟩ := h
              rw [List.map_cons, ih zs (by rw [hm, h2])]
              congr 1
              cases c <;> simp [litOf] at hc
              obtain ⟨rfl, rfl⟩ := hc
              injection h1 with h1
              injection h1 with _ h1
              rw [h1]
    have := gen cs.toList zs (by rw [hl, hz])
    unfold arrV
    rw [← this]
  · cases h
end Go.Proofs.Ytcoiddmgcoeocaa.Tr

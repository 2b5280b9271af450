/- Arrays of integers as keys of a map. -/
import Derived.Maps.OwnSet
import Derived.ChangeKeys
import Derived.DeepKeys4
namespace Go.Proofs.Ytfehmbicolllkaa.Tr
set_option linter.unusedVariables false

section
variable {P : Program} {k e : TypeId} {n : Nat} {q : IntKind}
/-- An array of integers as a value, and what it reads as where it is a key. -/
def arrV (q : IntKind) (zs : List Int) : Value := .agg (zs.map (Value.int q)).toArray
def arrK (q : IntKind) (zs : List Int) : Lit := .string (keyBytes (zs.map (Lit.int q)))
theorem mapM_some {α β : Type} (f : α → Option β) (g : α → β) : ∀ (l : List α), (∀ x ∈ l, f x = some (g x)) → l.mapM f = some (l.map g)
  | [], _ => by simp
  | x :: l, h => by
    rw [List.mapM_cons, h x (by simp), mapM_some f g l (fun y hy => h y (by simp [hy]))]
    rfl
theorem take_drop_one {α : Type} : ∀ (l : List α) (i : Nat) (hi : i < l.length), (l.drop i).take 1 = [l[i]]
  | x :: l, 0, _ => by simp
  | x :: l, i + 1, hi => by
    rw [List.drop_succ_cons, take_drop_one l i (by simpa using hi)]
    rfl
theorem flatten_one {α : Type} : ∀ (l : List α), (l.map (fun x => [x])).flatten = l
  | [] => rfl
  | x :: l => by rw [List.map_cons, List.flatten_cons, flatten_one l]; rfl
theorem keyOf_arr (hk : P.underlying k = some (.array n e)) (he : P.underlying e = some (.int q)) (hc : P.cellsOf k = n) (hce : P.cellsOf e = 1) (hkt : P.keyType k = true) (hts : 0 < P.types.size) (zs : List Int) (hl : zs.length = n) (hw : ∀ z ∈ zs, (Lit.int q z).wf = true) :
    keyOf P k (arrV q zs) = some (arrK q zs) := by
  have hf : (arrV q zs).formed P k = true := by simp [arrV, Value.formed, hk, hc, hl]
  obtain ⟨d, hd⟩ : ∃ d, P.types.size = d + 1 := ⟨P.types.size - 1, by omega⟩
  unfold keyOf
  rw [hk]
  simp only [hkt, hf, Bool.and_self, if_true]
  have hcells : (arrV q zs).cells.toList = zs.map (Value.int q) := by simp [arrV, Value.cells]
  rw [hcells]
  unfold Program.keyLits
  rw [hk]
  simp only [List.length_map, hl, hc, if_true, hce, Nat.mul_one]
  have hm : (List.range n).mapM (fun i => P.keyLits P.types.size e (((zs.map (Value.int q)).drop i).take 1)) = some ((List.range n).map (fun i => [Lit.int q (zs.getD i 0)])) := by
    apply mapM_some
    intro i hi
    have hi' : i < zs.length := by rw [hl]; exact List.mem_range.1 hi
    rw [take_drop_one _ i (by simpa using hi'), hd]
    unfold Program.keyLits
    rw [he]
    have hz : (Lit.int q zs[i]).wf = true := hw _ (List.getElem_mem hi')
    simp [hz, List.getD, List.getElem?_eq_getElem hi']
  rw [hm]
  simp only [Option.map_some, arrK, Option.some.injEq, Lit.string.injEq]
  congr 1
  have : (List.range n).map (fun i => [Lit.int q (zs.getD i 0)]) = (zs.map (Lit.int q)).map (fun x => [x]) := by
    apply List.ext_getElem
    · simp [hl]
    · intro i h1 h2
      simp at h1
      simp [List.getD, List.getElem?_eq_getElem (show i < zs.length by omega)]
  rw [this]
  exact flatten_one _
theorem arrK_inj (zs ys : List Int) (hl : zs.length = ys.length) (hz : ∀ z ∈ zs, (Lit.int q z).wf = true) (hy : ∀ z ∈ ys, (Lit.int q z).wf = true) (h : arrK q zs = arrK q ys) : zs = ys := by
  have ha : ∀ (zs ys : List Int), zs.length = ys.length → Alike (zs.map (Lit.int q)) (ys.map (Lit.int q)) := by
    intro zs
    induction zs with
    | nil => intro ys hl; cases ys with
      | nil => exact trivial
      | cons y ys => simp at hl
    | cons z zs ih =>
      intro ys hl
      cases ys with
      | nil => simp at hl
      | cons y ys => exact ⟨rfl, ih ys (by simpa using hl)⟩
  have hb : keyBytes (zs.map (Lit.int q)) = keyBytes (ys.map (Lit.int q)) := by
    simpa [arrK] using h
  have := keyBytes_inj (ha zs ys hl) (fun a hm => by obtain ⟨z, hz', rfl⟩ := List.mem_map.1 hm; exact hz z hz') (fun a hm => by obtain ⟨z, hz', rfl⟩ := List.mem_map.1 hm; exact hy z hz') hb
  exact (List.map_inj_right (fun x y e => by injection e)).1 this
end
end Go.Proofs.Ytfehmbicolllkaa.Tr

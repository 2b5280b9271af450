/- Rows of entries that a sort turns: worlds, reads, exchanges. -/
import Derived.Test.YtcoiddmgcoeocaaPp
import Derived.Shelf.SlSortCmp.QuietGrown
import Derived.BigRegion
import Derived.Laws.EntriesVeiled
namespace Go.Proofs.Ytcoiddmgcoeocaa.Tr
open Go.ChangeShapes Go.WideShapes Go.ChangeAt Go.RowKit Go.Maps Go.Proofs.Ytcoiddmgcoeocaa.Mem Go.Proofs.Ytcoiddmgcoeocaa.El
set_option linter.unusedVariables false
set_option linter.unusedSimpArgs false

/-- An entry: a number and what stands there. -/
def EE : Elem Pr where
  ty := 76
  size := 2
  enc p := [.int .i64 p.1, .int .i32 p.2]
  len _ := rfl
  one := by intro a u hu; simp at hu; rcases hu with rfl | rfl <;> rfl
def at_ (L : List Pr) (i : Nat) : Pr := L.getD i (0, 0)
def swp (L : List Pr) (i j : Nat) : List Pr := (L.set i (at_ L j)).set j (at_ L i)
theorem at_eq {L : List Pr} {i : Nat} (hi : i < L.length) : at_ L i = L[i] := by simp [at_, hi]
theorem swp_length (L : List Pr) (i j : Nat) : (swp L i j).length = L.length := by simp [swp]
/-- A world in which the row holds L, and nothing else has turned since w0. -/
structure SW (w0 : World) (g : Nat) (L : List Pr) (W : World) : Prop where
  own : EE.Own W (some ⟨g, 0, none⟩) L.length L
  gr : w0.grownBy W (some g)
theorem SW.kept {w0 W W' : World} {g : Nat} {L : List Pr} (h : SW w0 g L W) (hg : W.grownBy W' none) : SW w0 g L W' :=
  ⟨h.own.kept0 hg, grownBy_trans h.gr (grownBy_any _ hg)⟩
theorem SW.cell {w0 W : World} {g : Nat} {L : List Pr} (h : SW w0 g L W) {i : Nat} (hi : i < L.length) : W.cell? ⟨g, i * 2, none⟩ = some (.int .i64 (at_ L i).1) ∧ W.cell? ⟨g, i * 2 + 1, none⟩ = some (.int .i32 (at_ L i).2) := by
  obtain ⟨g', e, _, _, hc⟩ := h.own.at (List.ne_nil_of_length_pos (by omega))
  cases e
  rw [at_eq hi]
  exact ⟨hc i hi 0 _ rfl, hc i hi 1 _ rfl⟩
theorem SW.free {w0 W : World} {g : Nat} {L : List Pr} (h : SW w0 g L W) (hp : L ≠ []) (j : Nat) : W.frozen? ⟨g, j, none⟩ = false := by
  obtain ⟨g', e, _, hf, _⟩ := h.own.at hp
  cases e
  exact hf j
theorem SW.lt {w0 W : World} {g : Nat} {L : List Pr} (h : SW w0 g L W) : g < W.heap.size := h.own.lt rfl
theorem own_set2 {w : World} {g cap : Nat} {L : List Pr} (h : EE.Own w (some ⟨g, 0, none⟩) cap L) {i : Nat} (hi : i < L.length) (u v : Int) :
    EE.Own ((w.setCell ⟨g, i * 2, none⟩ (.int .i64 u)).setCell ⟨g, i * 2 + 1, none⟩ (.int .i32 v)) (some ⟨g, 0, none⟩) cap (L.set i (u, v)) := by
  have h1 := h.set i hi 0 (by decide) (.int .i64 u) (u, L[i].2) rfl
  have h2 := h1.set i (by simpa using hi) 1 (by decide) (.int .i32 v) (u, v) (by simp [EE])
  rw [List.set_set] at h2
  exact h2
theorem grownBy_set4 (w : World) (g a b c d : Nat) (v0 v1 v2 v3 : Value) : w.grownBy ((((w.setCell ⟨g, a, none⟩ v0).setCell ⟨g, b, none⟩ v1).setCell ⟨g, c, none⟩ v2).setCell ⟨g, d, none⟩ v3) (some g) :=
  grownBy_trans (grownBy_trans (grownBy_trans (grownBy_setCell w ⟨g, a, none⟩ v0) (grownBy_setCell _ ⟨g, b, none⟩ v1)) (grownBy_setCell _ ⟨g, c, none⟩ v2)) (grownBy_setCell _ ⟨g, d, none⟩ v3)
/-- Behind an exchange. -/
theorem SW.swap {w0 W : World} {g : Nat} {L : List Pr} (h : SW w0 g L W) {p q : Nat} (hp : p < L.length) (hq : q < L.length) {xa xb ya yb : Int} (hx : at_ L p = (xa, xb)) (hy : at_ L q = (ya, yb)) :
    SW w0 g (swp L p q) ((((W.setCell ⟨g, p * 2, none⟩ (.int .i64 ya)).setCell ⟨g, p * 2 + 1, none⟩ (.int .i32 yb)).setCell ⟨g, q * 2, none⟩ (.int .i64 xa)).setCell ⟨g, q * 2 + 1, none⟩ (.int .i32 xb)).drew := by
  refine ⟨?_, grownBy_drew (grownBy_trans h.gr (grownBy_set4 W g _ _ _ _ _ _ _ _))⟩
  rw [swp_length]
  have h1 := own_set2 h.own hp ya yb
  have h2 := own_set2 h1 (i := q) (by simpa using hq) xa xb
  unfold swp
  rw [hx, hy]
  exact h2
theorem swp_parts (X M Y : List Pr) (x y : Pr) : swp (X ++ x :: (M ++ y :: Y)) X.length (X.length + 1 + M.length) = X ++ y :: (M ++ x :: Y) := by
  have e1 : at_ (X ++ x :: (M ++ y :: Y)) X.length = x := by simp [at_]
  have e2 : at_ (X ++ x :: (M ++ y :: Y)) (X.length + 1 + M.length) = y := by
    unfold at_
    rw [List.getD_eq_getElem?_getD, List.getElem?_append_right (by omega), show X.length + 1 + M.length - X.length = M.length + 1 by omega, List.getElem?_cons_succ, List.getElem?_append_right (by omega)]
    simp
  unfold swp
  rw [e1, e2, List.set_append_right _ _ (by omega), Nat.sub_self, List.set_cons_zero, List.set_append_right _ _ (by omega), show X.length + 1 + M.length - X.length = M.length + 1 by omega, List.set_cons_succ, List.set_append_right _ _ (by omega), Nat.sub_self, List.set_cons_zero]
theorem grow_grown {w : World} (os : Array Obj) (n : Nat) : w.grownBy (Sort.grow (w.drewN n) os) none :=
  ⟨rfl, rfl, rfl, by rw [Sort.size_grow]; exact Nat.le_add_right _ _, fun i hi _ => by
    show (w.heap ++ os)[i]? = _
    rw [Array.getElem?_append_left hi]⟩
theorem SW.grown {w0 W : World} {g : Nat} {L : List Pr} (h : SW w0 g L W) (n : Nat) (os : Array Obj) : SW w0 g L (Sort.grow (W.drewN n) os) := h.kept (grow_grown os n)
theorem at_append {X Y : List Pr} {x : Pr} {i : Nat} (h : X.length = i) : at_ (X ++ x :: Y) i = x := by subst h; simp [at_]
theorem at_app2 {X Y : List Pr} {x y : Pr} {i : Nat} (h : X.length = i) : at_ (X ++ x :: y :: Y) (i + 1) = y := by
  subst h
  unfold at_
  rw [List.getD_eq_getElem?_getD, List.getElem?_append_right (by omega), show X.length + 1 - X.length = 1 by omega]
  rfl
theorem swp_adj (X Y : List Pr) (x y : Pr) : swp (X ++ x :: y :: Y) (X.length + 1) X.length = X ++ y :: x :: Y := by
  unfold swp
  rw [at_append rfl, at_app2 rfl, List.set_append_right _ _ (by omega), show X.length + 1 - X.length = 1 by omega, List.set_cons_succ, List.set_cons_zero, List.set_append_right _ _ (by omega), Nat.sub_self, List.set_cons_zero]
theorem swp_adj' (X Y : List Pr) (x y : Pr) : swp (X ++ x :: y :: Y) X.length (X.length + 1) = X ++ y :: x :: Y := swp_parts X [] Y x y
end Go.Proofs.Ytcoiddmgcoeocaa.Tr

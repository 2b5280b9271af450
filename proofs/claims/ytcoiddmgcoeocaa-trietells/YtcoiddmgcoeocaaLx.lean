/- Entries in order: by their numbers, and those of one number by what stands there. Plain mathematics. -/
import Derived.Test.YtcoiddmgcoeocaaEnt
namespace Go.Proofs.Ytcoiddmgcoeocaa.Tr
open Go.Proofs.Ytcoiddmgcoeocaa.El
set_option linter.unusedVariables false

def lx (x y : Pr) : Prop := x.1 < y.1 ∨ (x.1 = y.1 ∧ x.2 < y.2)
theorem lx_trans {x y z : Pr} (h : lx x y) (k : lx y z) : lx x z := by unfold lx at *; omega
theorem lx_irrefl (x : Pr) : ¬ lx x x := by unfold lx; omega
def SL (L : List Pr) : Prop := L.Pairwise lx
/-- Those of one number stand in the order of what stands there. -/
def St (L : List Pr) : Prop := L.Pairwise (fun x y => x.1 = y.1 → x.2 < y.2)
def Cross (U V : List Pr) : Prop := ∀ u ∈ U, ∀ v ∈ V, u.1 = v.1 → u.2 < v.2
theorem not_lt_lx {u v : Pr} (h : ¬ v.1 < u.1) (hc : u.1 = v.1 → u.2 < v.2) : lx u v := by unfold lx; omega
theorem lt_lx {u v : Pr} (h : v.1 < u.1) : lx v u := .inl h
theorem sl_insert {A B : List Pr} {x : Pr} (hA : SL (A ++ B)) (h1 : ∀ y ∈ A, lx y x) (h2 : ∀ y ∈ B, lx x y) : SL (A ++ x :: B) := by
  unfold SL at *
  rw [List.pairwise_append] at hA ⊢
  obtain ⟨a, b, c⟩ := hA
  refine ⟨a, List.pairwise_cons.2 ⟨h2, b⟩, ?_⟩
  intro y hy z hz
  rcases List.mem_cons.1 hz with rfl | hz
  · exact h1 y hy
  · exact c y hy z hz
theorem sl_append {A B : List Pr} (hA : SL A) (hB : SL B) (h : ∀ x ∈ A, ∀ y ∈ B, lx x y) : SL (A ++ B) := List.pairwise_append.2 ⟨hA, hB, h⟩
theorem sl_left {A B : List Pr} (h : SL (A ++ B)) : SL A := (List.pairwise_append.1 h).1
theorem sl_right {A B : List Pr} (h : SL (A ++ B)) : SL B := (List.pairwise_append.1 h).2.1
theorem sl_cross {A B : List Pr} (h : SL (A ++ B)) : ∀ x ∈ A, ∀ y ∈ B, lx x y := (List.pairwise_append.1 h).2.2
theorem sl_st {L : List Pr} (h : SL L) : St L := h.imp fun h e => by unfold lx at h; omega
/-- The middle put in order. -/
theorem st_mid {X W Z Y : List Pr} (h : St (X ++ W ++ Y)) (hp : Z.Perm W) (hs : SL Z) : St (X ++ Z ++ Y) := by
  unfold St at *
  rw [List.pairwise_append, List.pairwise_append] at h ⊢
  obtain ⟨⟨a, b, c⟩, d, e⟩ := h
  refine ⟨⟨a, sl_st hs, fun x hx y hy => c x hx y (hp.mem_iff.1 hy)⟩, d, fun x hx y hy => e x ?_ y hy⟩
  rcases List.mem_append.1 hx with h | h
  · exact List.mem_append_left _ h
  · exact List.mem_append_right _ (hp.mem_iff.1 h)
theorem st_cross {X U V Y : List Pr} (h : St (X ++ U ++ V ++ Y)) : Cross U V := by
  unfold St at h
  rw [List.pairwise_append, List.pairwise_append] at h
  intro u hu v hv
  exact h.1.2.2 u (List.mem_append_right _ hu) v hv
/-- One list alone is in order. -/
theorem sl_unique {A B : List Pr} (hA : SL A) (hB : SL B) (hp : A.Perm B) : A = B := by
  refine List.Perm.eq_of_pairwise (fun a b _ _ h1 h2 => ?_) hA hB hp
  exact absurd (lx_trans h1 h2) (lx_irrefl a)
end Go.Proofs.Ytcoiddmgcoeocaa.Tr

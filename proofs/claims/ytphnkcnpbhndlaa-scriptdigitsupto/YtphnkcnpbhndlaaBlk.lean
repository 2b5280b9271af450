/- Blocks in memory: what stays behind calls and stores. -/
import Derived.Test.YtphnkcnpbhndlaaMem
import Derived.Deep.QuietTactic
namespace Go.Proofs.Ytphnkcnpbhndlaa.Mem
open Go.RowKit
set_option linter.unusedVariables false

theorem res_cells {w wr : World} {cs : Array Value} {t : TypeId} (hg : (w.alloc (.cells cs t)).grownBy wr none) : wr.heap[w.heap.size]? = some (.cells cs t (0, 0)) := by
  rw [hg.block _ (by simp) (by simp)]
  exact heap_alloc_new w _
theorem res_alloc {w : World} {b : Nat} {o : Obj} (h : w.heap[b]? = some o) (x : Obj) : (w.alloc x).heap[b]? = some o := by
  rw [Below.heap_alloc w x b (lt_of_block h)]
  exact h
theorem blk_kept {w w' : World} {b : Nat} {o : Obj} (h : w.heap[b]? = some o) (hg : w.grownBy w' none) : w'.heap[b]? = some o := by
  rw [hg.block _ (lt_of_block h) (by simp)]; exact h
theorem cell_at {w : World} {b : Nat} {cs : Array Value} {t : TypeId} {fr : Nat × Nat} (h : w.heap[b]? = some (.cells cs t fr)) (i : Nat) {v : Value} (hv : cs[i]? = some v) : w.cell? ⟨b, i, none⟩ = some v := by
  simp [World.cell?, h, hv]
theorem froz_at {w : World} {b : Nat} {cs : Array Value} {t : TypeId} (h : w.heap[b]? = some (.cells cs t (0, 0))) (i : Nat) : w.frozen? ⟨b, i, none⟩ = false := by
  simp [World.frozen?, h]
theorem sets_new {w w1 w2 : World} (h : w.grownBy w1 none) {b : Nat} (hb : w.heap.size ≤ b) (k : w1.grownBy w2 (some b)) : w.grownBy w2 none :=
  grownBy_new h k (fun g e => by cases e; exact hb)
theorem block_set {w : World} {b : Nat} {cs : Array Value} {t : TypeId} {fr : Nat × Nat} (h : w.heap[b]? = some (.cells cs t fr)) (i : Nat) (v : Value) : (w.setCell ⟨b, i, none⟩ v).heap[b]? = some (.cells (cs.setIfInBounds i v) t fr) := by
  have hlt := lt_of_block h
  have h' : w.heap[b] = .cells cs t fr := by simpa [Array.getElem?_eq_getElem hlt] using h
  show (w.heap.modify b _)[b]? = _
  rw [Array.getElem?_eq_getElem (by simpa using hlt), Array.getElem_modify_self, h']
  rfl
theorem block_other {w : World} {b b' : Nat} {o : Obj} (h : w.heap[b]? = some o) (hne : b' ≠ b) (i : Nat) (v : Value) : (w.setCell ⟨b', i, none⟩ v).heap[b]? = some o := by
  rw [Below.heap_setCell _ _ _ _ (fun e => hne e.symm)]
  exact h
theorem grownBy_drewN (w : World) (n : Nat) : w.grownBy (w.drewN n) none := ⟨rfl, rfl, rfl, Nat.le_refl _, fun _ _ _ => rfl⟩
theorem grownBy_sets4 (wx : World) (b : Nat) (v0 v1 v2 v3 : Value) :
    wx.grownBy ((((wx.setCell ⟨b, 0, none⟩ v0).setCell ⟨b, 1, none⟩ v1).setCell ⟨b, 2, none⟩ v2).setCell ⟨b, 3, none⟩ v3) (some b) := by
  have h1 := fun (u : World) (x : Nat) (v : Value) => grownBy_setCell u ⟨b, x, none⟩ v
  exact grownBy_trans (grownBy_trans (grownBy_trans (h1 _ _ _) (h1 _ _ _)) (h1 _ _ _)) (h1 _ _ _)
theorem grownBy_sets6 (wx : World) (b : Nat) (v0 v1 v2 v3 v4 v5 : Value) :
    wx.grownBy ((((((wx.setCell ⟨b, 0, none⟩ v0).setCell ⟨b, 1, none⟩ v1).setCell ⟨b, 2, none⟩ v2).setCell ⟨b, 3, none⟩ v3).setCell ⟨b, 4, none⟩ v4).setCell ⟨b, 5, none⟩ v5) (some b) := by
  have h1 := fun (u : World) (x : Nat) (v : Value) => grownBy_setCell u ⟨b, x, none⟩ v
  exact grownBy_trans (grownBy_trans (grownBy_trans (grownBy_trans (grownBy_trans (h1 _ _ _) (h1 _ _ _)) (h1 _ _ _)) (h1 _ _ _)) (h1 _ _ _)) (h1 _ _ _)
theorem grownBy_sets9 (wx : World) (b : Nat) (v0 v1 v2 v3 v4 v5 v6 v7 v8 : Value) :
    wx.grownBy (((((((((wx.setCell ⟨b, 0, none⟩ v0).setCell ⟨b, 1, none⟩ v1).setCell ⟨b, 2, none⟩ v2).setCell ⟨b, 3, none⟩ v3).setCell ⟨b, 4, none⟩ v4).setCell ⟨b, 5, none⟩ v5).setCell ⟨b, 6, none⟩ v6).setCell ⟨b, 7, none⟩ v7).setCell ⟨b, 8, none⟩ v8) (some b) := by
  have h1 := fun (u : World) (x : Nat) (v : Value) => grownBy_setCell u ⟨b, x, none⟩ v
  exact grownBy_trans (grownBy_trans (grownBy_trans (grownBy_trans (grownBy_trans (grownBy_trans (grownBy_trans (grownBy_trans (h1 _ _ _) (h1 _ _ _)) (h1 _ _ _)) (h1 _ _ _)) (h1 _ _ _)) (h1 _ _ _)) (h1 _ _ _)) (h1 _ _ _)) (h1 _ _ _)
theorem Bytes.at {w : World} {ao : Option Addr} {L : List UInt8} (h : Bytes w ao L) (hp : L ≠ []) : ∃ b o, ao = some ⟨b, o, none⟩ ∧ ∀ j (hj : j < L.length), w.cell? ⟨b, o + j, none⟩ = some (.int .u8 (L[j].toNat : Int)) := by
  rcases h with ⟨_, h⟩ | ⟨a, rfl, hc⟩
  · exact absurd h hp
  · obtain ⟨b, o, s⟩ := a
    have hlen : 0 < L.length := List.length_pos_iff.2 hp
    have h0 := hc 0 hlen
    have hs : s = none := by simpa [Addr.add] using World.cell?_spot h0
    subst hs
    exact ⟨b, o, rfl, fun j hj => by have := hc j hj; rwa [addr_add] at this⟩
theorem gcell {W w1 : World} (hg : W.grownBy w1 none) : (∀ b o, b < W.heap.size → w1.cell? ⟨b, o, none⟩ = W.cell? ⟨b, o, none⟩) ∧ (∀ b o, b < W.heap.size → w1.frozen? ⟨b, o, none⟩ = W.frozen? ⟨b, o, none⟩) :=
  ⟨fun b o h => by simp only [World.cell?, hg.block b h (by simp)], fun b o h => by simp only [World.frozen?, hg.block b h (by simp)]⟩
theorem gs {w wx : World} {b o : Nat} {v : Value} (hb : w.heap.size ≤ b) (h : w.grownBy wx none) : w.grownBy (wx.setCell ⟨b, o, none⟩ v) none := sets_new h hb (grownBy_setCell _ _ _)
theorem ga {w wx : World} {o : Obj} (h : w.grownBy wx none) : w.grownBy (wx.alloc o) none := grownBy_trans h (World.grownBy_alloc _ _ _)
theorem gd {w wx : World} (h : w.grownBy wx none) : w.grownBy wx.drew none := grownBy_drew h
theorem gdn {w wx : World} {n : Nat} (h : w.grownBy wx none) : w.grownBy (wx.drewN n) none := grownBy_trans h (grownBy_drewN _ _)
theorem gt {w wx wy : World} (h : w.grownBy wx none) (k : wx.grownBy wy none) : w.grownBy wy none := grownBy_trans h k
theorem Hid.mk' {p : Prop} (h : p) : Hid p := h
theorem bytes_new (w : World) (cs : Array Value) (L : List UInt8) (h : cs.toList = bcells L) : Bytes (w.alloc (.cells cs 5)) (some ⟨w.heap.size, 0, none⟩) L := by
  refine .inr ⟨_, rfl, fun j hj => ?_⟩
  rw [addr_add, Nat.zero_add]
  have e : cs[j]? = some (.int .u8 (L[j].toNat : Int)) := by
    rw [← Array.getElem?_toList, h]
    simp [bcells, List.getElem?_eq_getElem hj]
  exact cell_at (heap_alloc_new w _) j e
end Go.Proofs.Ytphnkcnpbhndlaa.Mem

/- Slices of integers that came in: what the walks want of them. -/
import Derived.ProofKit
import Derived.DataShut
import Derived.Test.YtphnkcnpbhndlaaMem
namespace Go.Proofs.Ytphnkcnpbhndlaa.Mem
open Go.RowKit

theorem wf_u8 {n : Int} (h : (Lit.int .u8 n).wf = true) : 0 ≤ n ∧ n ≤ 255 := by
  rw [Lit.wf_int_iff] at h
  exact h
theorem wf_i64 {n : Int} (h : (Lit.int .i64 n).wf = true) : -9223372036854775808 ≤ n ∧ n ≤ 9223372036854775807 := by
  rw [Lit.wf_int_iff] at h
  exact h

/-- int(uint64(a) % m), as the walk spells it. -/
theorem mod_fit (a : Int) (m : Nat) (hm : 0 < m) (h2 : m ≤ 4611686018427387904) : ∃ r : Nat, wrap64 ((IntKind.u64.wrap a).tmod m) = (r : Int) ∧ r < m := by
  have hu : 0 ≤ IntKind.u64.wrap a := by rw [IntKind.wrap_u64]; omega
  have h3 : 0 ≤ (IntKind.u64.wrap a).tmod m := Int.tmod_nonneg _ hu
  have h4 : (IntKind.u64.wrap a).tmod m < m := Int.tmod_lt_of_pos _ (by omega)
  refine ⟨((IntKind.u64.wrap a).tmod m).toNat, ?_, by omega⟩
  rw [Int.toNat_of_nonneg h3]
  unfold wrap64
  omega

theorem take_more (L : List UInt8) (p n : Nat) : L.take p ++ (L.drop p).take n = L.take (p + ((L.drop p).take n).length) := by
  rw [List.take_add]
  congr 1
  simp
theorem bytes_of_row {w : World} {a : Option Addr} {len cap : Nat} {z : List Int}
    (h : (a = none ∧ len = 0 ∧ cap = 0 ∧ z = []) ∨ ∃ x, a = some x ∧ len ≤ cap ∧ cap ≤ 140737488351232 ∧ z.length = cap ∧ (∀ i, i < z.length → w.cell? (x.add i) = some (.int .u8 (z.getD i 0))) ∧ ∀ n ∈ z, (Lit.int .u8 n).wf = true) :
    ∃ L : List UInt8, L.length = len ∧ Bytes w a L ∧ L.length ≤ cap ∧ cap ≤ 140737488351232 := by
  rcases h with ⟨rfl, rfl, rfl, rfl⟩ | ⟨x, rfl, h1, h2, h3, hc, hw⟩
  · exact ⟨[], rfl, .inl ⟨rfl, rfl⟩, by simp, by simp⟩
  · refine ⟨(z.take len).map fun n => UInt8.ofNat n.toNat, by simp; omega, .inr ⟨x, rfl, fun j hj => ?_⟩, by simp; omega, h2⟩
    have hj' : j < z.length := by simp at hj; omega
    rw [hc j hj']
    have hm := wf_u8 (hw z[j] (List.getElem_mem hj'))
    have e : z.getD j 0 = z[j] := by simp [List.getD, List.getElem?_eq_getElem hj']
    rw [e]
    simp only [List.getElem_map, List.getElem_take]
    have e2 : ((UInt8.ofNat z[j].toNat).toNat : Int) = z[j] := by rw [UInt8.toNat_ofNat']; omega
    rw [e2]

theorem cells_of_row {k : IntKind} {w : World} {a : Option Addr} {len cap : Nat} {z : List Int}
    (h : (a = none ∧ len = 0 ∧ cap = 0 ∧ z = []) ∨ ∃ x, a = some x ∧ len ≤ cap ∧ cap ≤ 140737488351232 ∧ z.length = cap ∧ (∀ i, i < z.length → w.cell? (x.add i) = some (.int k (z.getD i 0))) ∧ ∀ n ∈ z, (Lit.int k n).wf = true) :
    (∃ Z : Nat → Int, ∀ j, j < len → (Lit.int k (Z j)).wf = true ∧ ∃ b o, a = some ⟨b, o, none⟩ ∧ b < w.heap.size ∧ w.cell? ⟨b, o + j, none⟩ = some (.int k (Z j))) ∧ len ≤ 140737488351232 := by
  rcases h with ⟨rfl, rfl, rfl, rfl⟩ | ⟨x, rfl, h1, h2, h3, hc, hw⟩
  · exact ⟨⟨fun _ => 0, fun j hj => by omega⟩, by omega⟩
  · refine ⟨⟨fun j => z.getD j 0, fun j hj => ?_⟩, by omega⟩
    have hj' : j < z.length := by omega
    refine ⟨?_, ?_⟩
    · have e : z.getD j 0 = z[j] := by simp [List.getD, List.getElem?_eq_getElem hj']
      show (Lit.int k (z.getD j 0)).wf = true
      rw [e]
      exact hw _ (List.getElem_mem hj')
    · obtain ⟨b, o, s⟩ := x
      have h0 := hc 0 (by omega)
      have hs : s = none := by simpa [Addr.add] using World.cell?_spot h0
      subst hs
      have hcj := hc j hj'
      rw [addr_add] at hcj
      exact ⟨b, o, rfl, World.block_lt_of_cell? w _ hcj, hcj⟩
end Go.Proofs.Ytphnkcnpbhndlaa.Mem

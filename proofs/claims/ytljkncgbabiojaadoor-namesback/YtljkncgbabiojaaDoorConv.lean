/- []byte(s): a new row with the string's bytes. -/
import Derived.Test.YtljkncgbabiojaaDoorMem
import Derived.Laws.IdiomStrings
namespace Go.Proofs.YtljkncgbabiojaaDoor.Mem
open Go.RowKit

/-- The new row, as one fact on the conversion. -/
theorem conv_new {P : Program} (w : World) (src dst : TypeId) (s : ByteArray) (hs : P.underlying src = some .string) (hd : P.underlying dst = some (.slice 5)) (he : P.underlying 5 = some (.int .u8)) (hz : s.size ≤ 1000000) :
    ∃ c w', (convert src dst (.string s)).run P w = .ok (.slice (some ⟨w.heap.size, 0, none⟩) s.size c) w' ∧ Bytes w' (some ⟨w.heap.size, 0, none⟩) s.toList ∧ w.grownBy w' none ∧ s.size ≤ c ∧ c ≤ 9223372036854775807 := by
  refine ⟨_, _, run_bytes_of_string w src dst 5 s hs hd he, ?_, ?_, grownCap_ge w s.size 0 5, ?_⟩
  · refine .inr ⟨_, rfl, fun j hj => ?_⟩
    rw [addr_add, Nat.zero_add]
    have hl : s.toList = s.data.toList := ByteArray.toList_eq s
    have hj' : j < s.data.size := by rw [hl] at hj; simpa using hj
    have hn := heap_alloc_new w.drew (.cells (bytesRow s (grownCap w s.size 0 5)) 5 ((bytesRow s (grownCap w s.size 0 5)).size, (bytesRow s (grownCap w s.size 0 5)).size + 1))
    have hb := bytesRow_at s (grownCap w s.size 0 5) j hj'
    have e : s.toList[j] = s.data[j] := by simp [hl]
    rw [e]
    show World.cell? _ ⟨w.drew.heap.size, j, none⟩ = _
    simp only [World.cell?, hn]
    exact hb
  · exact ⟨rfl, rfl, rfl, by simp, fun k hk _ => Below.heap_alloc w.drew _ k hk⟩
  · have := grownCap_le_maxLen w s.size 0 5 (by simp [maxLen]; omega)
    simpa [maxLen] using this
end Go.Proofs.YtljkncgbabiojaaDoor.Mem

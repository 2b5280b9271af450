/- ucs.Parse and the document's own Parse answer the same of every text. -/
import Derived.Test.YtdidchcinfbggaaReadRef
namespace Go.Proofs.Ytdidchcinfbggaa.Ucs
open Go.ChangeShapes Go.WideShapes Go.ChangeAt Go.RowKit

def pB (s : ByteArray) : Bool := decide (scB (valFrom 0 (rest s).data.toList) = true ∧ hex (valFrom 0 (rest s).data.toList) = s)
def pV (s : ByteArray) : Int := if pB s = true then valFrom 0 (rest s).data.toList else 0
theorem reads_p (s : ByteArray) : Reads s (pV s) (pB s) := by
  cases h : pB s
  · refine .inr ⟨rfl, by simp [pV, h], fun u hu e => ?_⟩
    subst e
    simp only [pB, rest_hex hu, val_low hu, decide_eq_false_iff_not] at h
    exact h ⟨hu, trivial⟩
  · have h' := h
    simp only [pB, decide_eq_true_eq] at h'
    have e : pV s = valFrom 0 (rest s).data.toList := by simp [pV, h]
    rw [e]
    exact .inl ⟨rfl, h'.1, h'.2⟩
theorem parse_both (s : ByteArray) (w : World) (hs : s.size ≤ maxLen) : Calls Try.prog 22 #[.string s] w fun e w' => e = .returned (.tuple #[.int .i32 (pV s), .bool (pB s)]) ∧ Grown w w' := by
  refine (parse_any s w hs).mono ?_
  rintro e w' ⟨v, ok, rfl, hR, hG⟩
  obtain ⟨rfl, rfl⟩ := hR.one (reads_p s)
  exact ⟨rfl, hG⟩
theorem parseRef_both (s : ByteArray) (w : World) (hs : s.size ≤ maxLen) : Calls Try.prog 23 #[.string s] w fun e w' => e = .returned (.tuple #[.int .i32 (pV s), .bool (pB s)]) ∧ w' = w := by
  refine (parse_ref s w hs).mono ?_
  rintro e w' ⟨v, ok, rfl, hR, hG⟩
  obtain ⟨rfl, rfl⟩ := hR.one (reads_p s)
  exact ⟨rfl, hG⟩
end Go.Proofs.Ytdidchcinfbggaa.Ucs

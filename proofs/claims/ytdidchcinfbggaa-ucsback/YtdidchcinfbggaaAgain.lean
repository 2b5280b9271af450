/- What ucs.Parse answers of what ucs.Hex has written. -/
import Derived.Test.YtdidchcinfbggaaRead
namespace Go.Proofs.Ytdidchcinfbggaa.Ucs
open Go.ChangeShapes Go.WideShapes Go.ChangeAt Go.RowKit

def again (u : Int) : Int := if scB u = true then u else 0
theorem hex_small (u : Int) : (hex u).size ≤ 8 := by
  cases h : scB u
  · simp only [hex, h, Bool.false_eq_true, if_false]; exact Nat.zero_le _
  · rw [hex_size h]; have := cnt_le u; omega
theorem reads_hex (u : Int) : Reads (hex u) (again u) (scB u) := by
  cases h : scB u
  · refine .inr ⟨rfl, by simp [again, h], fun v hv e => ?_⟩
    have a := hex_size hv
    have b : hex u = ⟨#[]⟩ := by simp [hex, h]
    rw [e, b] at a
    have : (⟨#[]⟩ : ByteArray).size = 0 := rfl
    omega
  · exact .inl ⟨rfl, by simp [again, h], by simp [again, h]⟩
theorem parse_hex (u : Int) (w : World) : Calls Try.prog 22 #[.string (hex u)] w fun e w' => e = .returned (.tuple #[.int .i32 (again u), .bool (scB u)]) ∧ Grown w w' := by
  refine (parse_any (hex u) w (by have := hex_small u; unfold maxLen; omega)).mono ?_
  rintro e w' ⟨v, ok, rfl, hR, hG⟩
  obtain ⟨rfl, rfl⟩ := hR.one (reads_hex u)
  exact ⟨rfl, hG⟩
theorem split_join {u : Int} (h0 : 65536 ≤ u) (h1 : u ≤ 1114111) : hiB (splitH u) = true ∧ loB (splitL u) = true ∧ joinB (splitH u) (splitL u) = true ∧ joinV (splitH u) (splitL u) = u := by
  obtain ⟨_, e2, e3⟩ := split_yes h0 h1
  have a : hiB (splitH u) = true := hiB_pos (by omega) (by omega)
  have b : loB (splitL u) = true := loB_pos (by omega) (by omega)
  have c := join_yes a b
  exact ⟨a, b, c.1, by rw [c.2, e2, e3]; omega⟩
theorem join_split {u v : Int} (h : hiB u = true) (k : loB v = true) : splitB (joinV u v) = true ∧ splitH (joinV u v) = u ∧ splitL (joinV u v) = v ∧ scB (joinV u v) = true := by
  obtain ⟨p1, p2⟩ := hiB_iff.1 h
  obtain ⟨q1, q2⟩ := loB_iff.1 k
  have e := (join_yes h k).2
  have s := split_yes (u := joinV u v) (by omega) (by omega)
  exact ⟨s.1, by rw [s.2.1]; omega, by rw [s.2.2]; omega, scB_pos (by omega) (by omega) (by omega)⟩
end Go.Proofs.Ytdidchcinfbggaa.Ucs

/- A step that gets a scalar, as plain functions, and as values. -/
import Derived.Test.YtjhdepbiakekaaaLeads
namespace Go.Proofs.Ytjhdepbiakekaaa.U8
open Go.ChangeShapes Go.WideShapes Go.ChangeAt Go.RowKit Go.Proofs.Ytjhdepbiakekaaa.Mem Go.Proofs.Ytjhdepbiakekaaa.Ucs
set_option linter.unusedVariables false

abbrev Res := Option (Nat ⊕ Nat × Nat)
abbrev Res.more : Res := none
abbrev Res.ill (n : Nat) : Res := some (.inl n)
abbrev Res.ok (n u : Nat) : Res := some (.inr (n, u))
theorem Res.three {motive : Res → Prop} (more : motive .more) (ill : ∀ n, motive (.ill n)) (ok : ∀ n u, motive (.ok n u)) (R : Res) : motive R := by
  rcases R with _ | n | ⟨n, u⟩
  · exact more
  · exact ill n
  · exact ok n u
abbrev gotV (e n k a : Int) : Value := .agg #[.int .i64 e, .int .i64 n, .int .i64 k, .int .i32 a, .int .i32 0, .int .i64 0, .int .i64 0, .int .u32 0, .int .i32 0]
def Res.err : Res → Int | none => 1 | some (.inl _) => 10 | some (.inr _) => 0
def Res.n : Res → Nat | none => 0 | some (.inl n) => n | some (.inr (n, _)) => n
def Res.k : Res → Int | none => 0 | some (.inl _) => 0 | some (.inr _) => 1
def Res.a : Res → Nat | none => 0 | some (.inl _) => 0 | some (.inr (_, u)) => u
def Res.val (r : Res) : Value := gotV r.err (r.n : Int) r.k (r.a : Int)

/-- On from n bytes of a unit of the form k, whose bits are u. -/
def goOn (k : Nat) : Nat → Nat → List UInt8 → Res
  | n, u, [] => if n < fsize k then .more else .ok (fsize k) u
  | n, u, c :: r => if n < fsize k then (if c.toNat / 64 = 2 ∧ leads k (n + 1) (u * 64 + c.toNat % 64) = true then goOn k (n + 1) (u * 64 + c.toNat % 64) r else .ill n) else .ok (fsize k) u
/-- The step at the front of these bytes, as the program takes it. -/
def get : List UInt8 → Res
  | [] => .more
  | c :: r => if ix c.toNat < 4 ∧ leads (ix c.toNat) 1 (c.toNat - fmark (ix c.toNat)) = true then goOn (ix c.toNat) 1 (c.toNat - fmark (ix c.toNat)) r else .ill 1

theorem Bytes.at {w : World} {ao : Option Addr} {L : List UInt8} (h : Bytes w ao L) (hp : L ≠ []) : ∃ b o, ao = some ⟨b, o, none⟩ ∧ ∀ j (hj : j < L.length), w.cell? ⟨b, o + j, none⟩ = some (.int .u8 (L[j].toNat : Int)) := by
  rcases h with ⟨_, h⟩ | ⟨a, rfl, hc⟩
  · exact absurd h hp
  · obtain ⟨b, o, s⟩ := a
    have hlen : 0 < L.length := List.length_pos_iff.2 hp
    have h0 := hc 0 hlen
    have hs : s = none := by simpa [Addr.add] using World.cell?_spot h0
    subst hs
    exact ⟨b, o, rfl, fun j hj => by have := hc j hj; rwa [addr_add] at this⟩

theorem fsize_le (k : Nat) : fsize k ≤ 4 := by unfold fsize; split <;> omega
theorem leads_bound {k n u : Nat} (h : leads k n u = true) : u * 2 ^ (6 * (fsize k - n)) ≤ 1114111 := by
  unfold leads at h
  rw [Bool.and_eq_true] at h
  have := (scB_iff.1 h.2).2.1
  omega
theorem leads_next {k n u c : Nat} (h : leads k n u = true) (hn : 1 ≤ n) (hs : n < fsize k) : (u * 64 + c % 64) * 2 ^ (6 * (fsize k - (n + 1))) < 2097152 := by
  have hb := leads_bound h
  have h4 := fsize_le k
  have hc : c % 64 < 64 := Nat.mod_lt _ (by omega)
  generalize c % 64 = d at *
  have hd : fsize k - n = 1 ∨ fsize k - n = 2 ∨ fsize k - n = 3 := by omega
  rcases hd with hd | hd | hd
  · rw [hd] at hb; rw [show fsize k - (n + 1) = 0 by omega]; simp at hb ⊢; omega
  · rw [hd] at hb; rw [show fsize k - (n + 1) = 1 by omega]; simp at hb ⊢; omega
  · rw [hd] at hb; rw [show fsize k - (n + 1) = 2 by omega]; simp at hb ⊢; omega

theorem andNot_form (b : Nat) (hb : b < 256) (h : ix b < 4) : bits .andNot .u8 (b : Int) (fmask (ix b) : Int) = ((b - fmark (ix b) : Nat) : Int) :=
  (show ∀ b : Fin 256, ix (b : Nat) < 4 → bits .andNot .u8 ((b : Nat) : Int) (fmask (ix b) : Int) = (((b : Nat) - fmark (ix b) : Nat) : Int) by decide +kernel) ⟨b, hb⟩ h
theorem andNot_tail (b : Nat) (hb : b < 256) : bits .andNot .u8 (b : Int) 192 = ((b % 64 : Nat) : Int) :=
  (show ∀ b : Fin 256, bits .andNot .u8 ((b : Nat) : Int) 192 = (((b : Nat) % 64 : Nat) : Int) by decide +kernel) ⟨b, hb⟩
theorem and_tail (b : Nat) (hb : b < 256) : (bits .and .u8 (b : Int) 192 == 128) = decide (b / 64 = 2) :=
  (show ∀ b : Fin 256, (bits .and .u8 ((b : Nat) : Int) 192 == 128) = decide ((b : Nat) / 64 = 2) by decide +kernel) ⟨b, hb⟩
theorem u8_lt (c : UInt8) : c.toNat < 256 := c.toNat_lt
end Go.Proofs.Ytjhdepbiakekaaa.U8

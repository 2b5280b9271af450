/- The document's Get and Set of layer 13, whole. -/
import Derived.Test.YtfehmbicolllkaaVR13
namespace Go.Proofs.Ytfehmbicolllkaa.C13
open Go.ChangeShapes Go.WideShapes Go.ChangeAt Go.RowKit Go.Proofs.Ytfehmbicolllkaa.Mem
set_option linter.unusedVariables false
set_option linter.unusedSimpArgs false

def seV (R : Option (List UInt8)) : Value := match R with | some L => vpV 0 (str L) | none => vpV 11 ⟨#[]⟩
theorem setRef_any (u : Int) (w : World) : Calls Try.prog 20 #[.int .i32 u] w fun e w' => e = .returned (seV (seR u)) ∧ w.grownBy w' none := by
  cases h1 : onR u with
  | some b =>
    have e : seR u = some [b8 b] := by simp only [seR, h1]
    rw [e]
    exact set_1 u b (Hid.mk' h1) w
  | none =>
    cases h2 : spR u with
    | none =>
      have e : seR u = none := by simp only [seR, h1, h2]
      rw [e]
      exact set_0 u (Hid.mk' h1) (Hid.mk' h2) w
    | some p =>
      obtain ⟨l, m⟩ := p
      cases h3 : onR (l : Int) with
      | none =>
        have e : seR u = none := by simp only [seR, h1, h2, h3]
        rw [e]
        exact set_l u (Hid.mk' h1) l m (Hid.mk' h2) (Hid.mk' h3) w
      | some x =>
        cases h4 : onR (m : Int) with
        | none =>
          have e : seR u = none := by simp only [seR, h1, h2, h3, h4]
          rw [e]
          exact set_m u (Hid.mk' h1) l m (Hid.mk' h2) x (Hid.mk' h3) (Hid.mk' h4) w
        | some y =>
          have e : seR u = some [b8 x, b8 y] := by simp only [seR, h1, h2, h3, h4]
          rw [e]
          exact set_2 u (Hid.mk' h1) l m (Hid.mk' h2) x y (Hid.mk' h3) (Hid.mk' h4) w
/-- What Get answers for a scalar behind what is held; for any state and bytes. -/
def gtV (he : Int) (n : Nat) : Value :=
  if n = 65533 then vgV 10 1 0 0 0 he
  else if he = 0 then (if hoR (n : Int) = true then vgV 0 1 0 0 0 (n : Int) else vgV 0 1 1 (n : Int) 0 0)
  else match coR he (n : Int) with
    | some u => vgV 0 1 1 (u : Int) 0 0
    | none => if hoR (n : Int) = true then vgV 0 1 1 he 0 (n : Int) else vgV 0 1 2 he (n : Int) 0
def geV (md bi ac he : Int) (L : List UInt8) : Value := if fitR md bi ac he = true then (match L with | [] => vgV 1 0 0 0 0 0 | c :: _ => gtV he (vsR c.toNat)) else vgV 7 0 0 0 0 0
theorem getRef_any (md bi ac he : Int) (ao : Option Addr) (cap : Nat) (L : List UInt8) (n : Nat) (hn : L.length = n) (w : World) (hB : Bytes w ao L) (hc : n ≤ cap) (hcm : cap ≤ 9223372036854775807) : Calls Try.prog 16 #[stV md bi ac he, .slice ao n cap] w fun e w' => e = .returned (geV md bi ac he L) ∧ w.grownBy w' none := by
  subst hn
  by_cases hf : fitR md bi ac he = true
  · have h0 : md = 0 ∧ bi = 0 ∧ ac = 0 := by
      unfold fitR at hf
      rw [Bool.and_eq_true] at hf
      exact of_decide_eq_true hf.1
    obtain ⟨rfl, rfl, rfl⟩ := h0
    unfold geV
    rw [if_pos hf]
    have hf0 := Hid.mk' hf
    cases L with
    | nil => exact g_more he hf0 ao cap w
    | cons c L =>
      rcases hB with ⟨_, h⟩ | ⟨a, rfl, hcell⟩
      · cases h
      · obtain ⟨g, o, sp⟩ := a
        have hb0 := hcell 0 (by simp)
        have hsp : sp = none := by simpa [Addr.add] using World.cell?_spot hb0
        subst hsp
        have hlt := World.block_lt_of_cell? w _ hb0
        rw [addr_add, Nat.add_zero] at hb0
        simp only [List.getElem_cons_zero, addr_add] at hb0 hlt
        have hc256 : c.toNat < 256 := c.toNat_lt
        have hl1 : 0 < (c :: L).length := by simp
        have hl4 : (((c :: L).length : Int) == 0) = false := by simp; omega
        obtain ⟨n, hn⟩ : ∃ n, vsR c.toNat = n := ⟨_, rfl⟩
        simp only
        rw [hn]
        have hn0 := Hid.mk' hn
        unfold gtV
        by_cases h9 : n = 65533
        · rw [if_pos h9]
          exact g_ill he hf0 c.toNat hc256 n hn0 w g o _ cap hlt hb0 hl1 hc hcm hl4 h9
        · rw [if_neg h9]
          have h9' : ((n : Int) == 65533) = false := by simp; omega
          by_cases hz : he = 0
          · rw [if_pos hz]
            subst hz
            by_cases hh : hoR (n : Int) = true
            · rw [if_pos hh]
              exact g_hold hf0 c.toNat hc256 n hn0 w g o _ cap hlt hb0 hl1 hc hcm hl4 h9' (Hid.mk' hh)
            · rw [if_neg hh]
              exact g_one hf0 c.toNat hc256 n hn0 w g o _ cap hlt hb0 hl1 hc hcm hl4 h9' (Hid.mk' (by simpa using hh))
          · rw [if_neg hz]
            have hz1 : (he == 0) = false := by simpa using hz
            have hz2 : (he != 0) = true := by simpa using hz
            cases hR : coR he (n : Int) with
            | some u => exact g_made he hf0 c.toNat hc256 n hn0 w g o _ cap hlt hb0 hl1 hc hcm hl4 h9' hz1 hz2 u (Hid.mk' hR)
            | none =>
              simp only
              by_cases hh : hoR (n : Int) = true
              · rw [if_pos hh]
                exact g_next he hf0 c.toNat hc256 n hn0 w g o _ cap hlt hb0 hl1 hc hcm hl4 h9' hz1 hz2 (Hid.mk' hR) (Hid.mk' hh)
              · rw [if_neg hh]
                exact g_two he hf0 c.toNat hc256 n hn0 w g o _ cap hlt hb0 hl1 hc hcm hl4 h9' hz1 hz2 (Hid.mk' hR) (Hid.mk' (by simpa using hh))
  · unfold geV
    rw [if_neg hf]
    exact g_bad md bi ac he (Hid.mk' (by simpa using hf)) ao L.length cap w
end Go.Proofs.Ytfehmbicolllkaa.C13

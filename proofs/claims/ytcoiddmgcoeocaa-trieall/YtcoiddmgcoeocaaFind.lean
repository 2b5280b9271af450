/- The search by halving, and the program's Scalar: walks. -/
import Derived.Test.YtcoiddmgcoeocaaCode
import Derived.Test.YtcoiddmgcoeocaaPack
namespace Go.Proofs.Ytcoiddmgcoeocaa.Rn
open Go.ChangeShapes Go.WideShapes Go.ChangeAt Go.RowKit Go.Proofs.Ytcoiddmgcoeocaa.Mem Go.Proofs.Ytcoiddmgcoeocaa.Ucs Go.Proofs.Ytcoiddmgcoeocaa.El
set_option linter.unusedVariables false
set_option linter.unusedSimpArgs false

/-- What the search has told: below i every range ends ahead of the code, from j on none does. -/
def SInv (L : List Rg) (c : Int) (i j : Nat) : Prop := (∀ k (hk : k < L.length), k < i → L[k].2.1 < c) ∧ (∀ k (hk : k < L.length), j ≤ k → c ≤ L[k].2.1)
theorem ok_low {b : Int} {L : List Rg} (h : okFrom b L = true) : ∀ k (hk : k < L.length), b < L[k].2.1 := by
  induction L generalizing b with
  | nil => intro k hk; simp at hk
  | cons r L ih =>
    obtain ⟨f, t, a⟩ := r
    obtain ⟨h1, h2, h3⟩ := okFrom_cons.1 h
    have h4 := rightR_iff.1 h1
    intro k hk
    match k with
    | 0 => show b < t; omega
    | k + 1 => have := ih h3 k (by simpa using hk); simp; omega
theorem ok_mono {b : Int} {L : List Rg} (h : okFrom b L = true) : ∀ k l (hl : l < L.length) (hkl : k ≤ l), L[k].2.1 ≤ L[l].2.1 := by
  induction L generalizing b with
  | nil => intro k l hl; simp at hl
  | cons r L ih =>
    obtain ⟨f, t, a⟩ := r
    obtain ⟨h1, h2, h3⟩ := okFrom_cons.1 h
    intro k l hl hkl
    match k, l, hl, hkl with
    | 0, 0, _, _ => exact Int.le_refl _
    | 0, l + 1, hl, _ => have hl' : l < L.length := by simpa using hl
                         have := ok_low h3 l hl'
                         show t ≤ L[l].2.1
                         omega
    | k + 1, l + 1, hl, hkl => exact ih h3 k l (by simpa using hl) (by omega)
theorem SInv.up {L : List Rg} {b c : Int} {i j h : Nat} (hok : okFrom b L = true) (hs : SInv L c i j) (hh : h < L.length) (ht : L[h].2.1 < c) : SInv L c (h + 1) j :=
  ⟨fun k hk hlt => Int.lt_of_le_of_lt (ok_mono hok k h hh (by omega)) ht, hs.2⟩
theorem SInv.down {L : List Rg} {b c : Int} {i j h : Nat} (hok : okFrom b L = true) (hs : SInv L c i j) (hh : h < L.length) (ht : c ≤ L[h].2.1) : SInv L c i h :=
  ⟨hs.1, fun k hk hle => Int.le_trans ht (ok_mono hok h k hk hle)⟩
theorem SInv.tells {L : List Rg} {c : Int} {i : Nat} (hs : SInv L c i i) : scalR L c = match L[i]? with | some r => if r.1 ≤ c then some (r.2.2 + (c - r.1)) else none | none => none := by
  induction L generalizing i with
  | nil => rfl
  | cons r L ih =>
    match i with
    | 0 =>
      have := hs.2 0 (by simp) (Nat.le_refl _)
      simp only [scalR, List.getElem_cons_zero, List.getElem?_cons_zero] at this ⊢
      rw [if_neg (by omega)]
    | i + 1 =>
      have := hs.1 0 (by simp) (by omega)
      simp only [scalR, List.getElem_cons_zero, List.getElem?_cons_succ] at this ⊢
      rw [if_pos this]
      refine ih ⟨fun k hk hlt => ?_, fun k hk hle => ?_⟩
      · exact hs.1 (k + 1) (by simpa using hk) (by omega)
      · exact hs.2 (k + 1) (by simpa using hk) (by omega)

set_option maxRecDepth 100000 in
set_option maxHeartbeats 4000000 in
theorem search_any (ao : Option Addr) (cap : Nat) (L : List Rg) (c : Int) (w : World) (B C : Nat) (hB : RE.Rd w ao L) (hc : L.length ≤ cap) (hcm : cap ≤ 9223372036854775807) (hl : L.length ≤ 65536) (hok : Hid (okFrom (-1) L = true))
    (hb1 : Hid (w.heap[B]? = some (.cells #[.slice ao L.length cap] 43 (0, 0)))) (hb2 : Hid (w.heap[C]? = some (.cells #[.int .i64 c] 3 (0, 0)))) :
    Calls Try.prog 34 #[.int .i64 (L.length : Int), .func (.func 35) #[] #[.pointer (some ⟨B, 0, none⟩), .pointer (some ⟨C, 0, none⟩)]] w fun e w' => ∃ i : Nat, e = .returned (.int .i64 (i : Int)) ∧ i ≤ L.length ∧ Hid (SInv L c i i) ∧ w.grownBy w' none := by
  have hB0 : Hid (RE.Rd w ao L) := hB
  clear hB
  go_enter Try.func34, Try.ntmps34
  go_wp2
  go_loopw [5, 6] (fun t5 t6 wx => ∃ (i j : Nat), i ≤ j ∧ j ≤ L.length ∧ t5 = .int .i64 (i : Int) ∧ t6 = .int .i64 (j : Int) ∧ Hid (SInv L c i j) ∧ Hid (w.grownBy wx none)) (fun t5 t6 _ => (intOf t6 - intOf t5).toNat)
  case atStart => exact ⟨0, L.length, by omega, by omega, rfl, rfl, ⟨fun k hk h => by omega, fun k hk h => by omega⟩, grownBy_refl _ _⟩
  case round =>
    obtain ⟨i, j, hij, hj, rfl, rfl, hs, hgx⟩ := hrel
    by_cases hlt : i < j
    · obtain ⟨h, hh⟩ : ∃ h, Hid ((i + j) / 2 = h) := ⟨_, (rfl : (i + j) / 2 = (i + j) / 2)⟩
      have hh1 : i ≤ h := by have := hh.out; omega
      have hh2 : h < j := by have := hh.out; omega
      have hd : ((i : Int) + (j : Int)) / 2 = (h : Int) := by have := hh.out; omega
      have hhl : h < L.length := by omega
      obtain ⟨f, t, a, he⟩ : ∃ f t a, L[h] = (f, t, a) := ⟨_, _, _, rfl⟩
      obtain ⟨b, o, rfl, hb, x0, x1, x2⟩ := rcells (hB0.out.kept0 hgx.out) hhl he
      have l0 := cell_at (blk_kept hb1.out hgx.out) 0 (v := .slice (some ⟨b, o, none⟩) L.length cap) rfl
      have m0 := cell_at (blk_kept hb2.out hgx.out) 0 (v := .int .i64 c) rfl
      have hhI : (h : Int) < (L.length : Int) := by omega
      have hh0 : (0 : Int) ≤ (h : Int) := by omega
      have hij' : (i : Int) < (j : Int) := by omega
      have He : Hid (L[h].2.1 = t) := (by rw [he] : L[h].2.1 = t)
      clear he
      by_cases hct : c ≤ t
      · have HS : Hid (SInv L c i h) := hs.out.down hok.out hhl (by rw [He.out]; exact hct)
        go_wp2
        go_quiet (fail)
        go_wp2
        go_roundw
        case rel => exact ⟨i, h, by omega, by omega, rfl, rfl, HS, gdn hgx.out⟩
        case measure => simp [intOf]; omega
      · have HS : Hid (SInv L c (h + 1) j) := hs.out.up hok.out hhl (by rw [He.out]; omega)
        have hcd : decide (c ≤ t) = false := by simpa using hct
        go_wp2
        go_quiet (fail)
        go_wp2
        go_roundw
        case rel => exact ⟨h + 1, j, by omega, by omega, by go_num, rfl, HS, gdn hgx.out⟩
        case measure => simp [intOf]; omega
    · obtain rfl : i = j := by omega
      go_wp2
      go_ret
      exact ⟨i, rfl, hj, hs, hgx.out⟩

set_option maxRecDepth 100000 in
set_option maxHeartbeats 4000000 in
theorem scalar_of (ao : Option Addr) (cap : Nat) (L : List Rg) (c : Int) (w : World) (hB : RE.Rd w ao L) (hc : L.length ≤ cap) (hcm : cap ≤ 9223372036854775807) (hl : L.length ≤ 65536) (hok : Hid (okFrom (-1) L = true)) (C : Option Int) (hC : Hid (scalR L c = C)) :
    Calls Try.prog 19 #[.slice ao L.length cap, .int .i64 c] w fun e w' => e = .returned (.tuple #[.int .i32 (C.getD 0), .bool C.isSome]) ∧ w.grownBy w' none := by
  have hB0 : Hid (RE.Rd w ao L) := hB
  clear hB
  obtain ⟨x, hc0⟩ : ∃ x, Hid (C.getD 0 = x) := ⟨_, (rfl : C.getD 0 = C.getD 0)⟩
  obtain ⟨s, hs0⟩ : ∃ s, Hid (C.isSome = s) := ⟨_, (rfl : C.isSome = C.isSome)⟩
  rw [hc0.out, hs0.out]
  go_enter Try.func19, Try.ntmps19
  have K1 : Hid (((w.alloc (Obj.cells #[Value.slice ao L.length cap] 43)).alloc (Obj.cells #[Value.int IntKind.i64 c] 3)).heap[w.heap.size]? = some (.cells #[.slice ao L.length cap] 43 (0, 0))) := res_alloc (heap_alloc_new w _) _
  have K2 : Hid (((w.alloc (Obj.cells #[Value.slice ao L.length cap] 43)).alloc (Obj.cells #[Value.int IntKind.i64 c] 3)).heap[w.heap.size + 1]? = some (.cells #[.int .i64 c] 3 (0, 0))) := (by have := heap_alloc_new (w.alloc (Obj.cells #[Value.slice ao L.length cap] 43)) (Obj.cells #[Value.int IntKind.i64 c] 3); simpa using this : _ = _)
  go_wp2_with (go_at_call 34; refine (search_any ao cap L c _ _ _ ((hB0.out.alloc _).alloc _) hc hcm hl hok K1 K2).mono ?_; rintro e w1 ⟨i, rfl, hi, hS, hg1⟩)
  have l0 := cell_at (blk_kept K1.out hg1) 0 (v := .slice ao L.length cap) rfl
  have m0 := cell_at (blk_kept K2.out hg1) 0 (v := .int .i64 c) rfl
  have hgw : Hid (w.grownBy w1 none) := grownBy_trans (ga (ga (grownBy_refl _ _))) hg1
  have hCx : Hid (C = match L[i]? with | some r => if r.1 ≤ c then some (r.2.2 + (c - r.1)) else none | none => none) := (by rw [← hC.out]; exact hS.out.tells : _ = _)
  clear K1 K2 hg1
  by_cases hil : i = L.length
  · subst hil
    clear hS
    have hC2 : C = none := by rw [hCx.out]; simp
    have e1 : x = 0 := by rw [← hc0.out, hC2]; rfl
    have e2 : s = false := by rw [← hs0.out, hC2]; rfl
    subst e1 e2
    clear hC2
    go_quiet (fail)
    go_wp2
    go_ret2
    exact ⟨rfl, gdn hgw.out⟩
  · have hlt : i < L.length := by omega
    obtain ⟨f, t, a, he⟩ : ∃ f t a, L[i] = (f, t, a) := ⟨_, _, _, rfl⟩
    have hr := okFrom_right hok.out i hlt
    rw [he] at hr
    obtain ⟨⟨r1, r2, r3⟩, r4, r5, r6⟩ := rightR_iff.1 hr
    obtain ⟨b, o, rfl, hb, x0, x1, x2⟩ := rcells (hB0.out.kept0 hgw.out) hlt he
    have hCy : Hid (C = if f ≤ c then some (a + (c - f)) else none) := (by rw [hCx.out, List.getElem?_eq_getElem hlt, he] : _ = _)
    have hiI : (i : Int) < (L.length : Int) := by omega
    have hi0 : (0 : Int) ≤ (i : Int) := by omega
    have hne : ((i : Int) == (L.length : Int)) = false := by simp; omega
    have hne2 : decide (i = L.length) = false := by simpa using hil
    have hne3 : (i == L.length) = false := by simpa using hil
    have hct : c ≤ t := by have := hS.out.2 i hlt (Nat.le_refl _); rw [he] at this; exact this
    clear he hr hCx hil hS
    by_cases hfc : f ≤ c
    · have hC2 : C = some (a + (c - f)) := by rw [hCy.out, if_pos hfc]
      have hd : decide (c < f) = false := by simp; omega
      have e1 : Hid (a + (c - f) = x) := (by rw [← hc0.out, hC2]; rfl : a + (c - f) = x)
      have e2 : s = true := by rw [← hs0.out, hC2]; rfl
      subst e2
      clear hC2
      go_quiet (fail)
      go_wp2
      have hS0 : (w1.drewN nq).drew.cell? ⟨w.heap.size, 0, none⟩ = some (.slice (some ⟨b, o, none⟩) L.length cap) ∧ (w1.drewN nq).drew.cell? ⟨w.heap.size + 1, 0, none⟩ = some (.int .i64 c) ∧ (w1.drewN nq).drew.cell? ⟨b, o + i * 3, none⟩ = some (.int .i64 f) ∧ (w1.drewN nq).drew.cell? ⟨b, o + i * 3 + 1, none⟩ = some (.int .i64 t) ∧ (w1.drewN nq).drew.cell? ⟨b, o + i * 3 + 2, none⟩ = some (.int .i32 a) := ⟨l0, m0, x0, x1, x2⟩
      go_region_held3 (fun w' => w'.cell? ⟨w.heap.size, 0, none⟩ = some (.slice (some ⟨b, o, none⟩) L.length cap) ∧ w'.cell? ⟨w.heap.size + 1, 0, none⟩ = some (.int .i64 c) ∧ w'.cell? ⟨b, o + i * 3, none⟩ = some (.int .i64 f) ∧ w'.cell? ⟨b, o + i * 3 + 1, none⟩ = some (.int .i64 t) ∧ w'.cell? ⟨b, o + i * 3 + 2, none⟩ = some (.int .i32 a)) (first | assumption | exact hS0) (first | (go_at_call 33; refine (at_any f t a c (by omega) (by omega) (by omega) (by omega) (by omega) _).mono ?_; rintro e w3 ⟨rfl, hg3⟩; have hS1 : w3.cell? ⟨w.heap.size, 0, none⟩ = some (.slice (some ⟨b, o, none⟩) L.length cap) ∧ w3.cell? ⟨w.heap.size + 1, 0, none⟩ = some (.int .i64 c) ∧ w3.cell? ⟨b, o + i * 3, none⟩ = some (.int .i64 f) ∧ w3.cell? ⟨b, o + i * 3 + 1, none⟩ = some (.int .i64 t) ∧ w3.cell? ⟨b, o + i * 3 + 2, none⟩ = some (.int .i32 a) := ⟨hg3.cell l0 (by simp), hg3.cell m0 (by simp), hg3.cell x0 (by simp), hg3.cell x1 (by simp), hg3.cell x2 (by simp)⟩))
      go_wp2
      go_ret2
      refine ⟨ret_ib e1.out rfl, ?_⟩
      exact grownBy_trans (gdn hgw.out) (grownBy_of_drew hg3)
    · have hC2 : C = none := by rw [hCy.out, if_neg hfc]
      have e1 : x = 0 := by rw [← hc0.out, hC2]; rfl
      have e2 : s = false := by rw [← hs0.out, hC2]; rfl
      subst e1 e2
      clear hC2
      have hd : decide (c < f) = true := by simp; omega
      go_quiet (fail)
      go_wp2
      go_ret2
      exact ⟨rfl, gdn hgw.out⟩
end Go.Proofs.Ytcoiddmgcoeocaa.Rn

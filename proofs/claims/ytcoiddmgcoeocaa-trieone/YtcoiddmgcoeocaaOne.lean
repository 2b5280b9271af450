/- inOneBlock: walks. -/
import Derived.Test.YtcoiddmgcoeocaaCon
namespace Go.Proofs.Ytcoiddmgcoeocaa.Tr
open Go.ChangeShapes Go.WideShapes Go.ChangeAt Go.RowKit Go.Maps Go.Proofs.Ytcoiddmgcoeocaa.Mem Go.Proofs.Ytcoiddmgcoeocaa.El Go.Sort Go.Proofs.Ytcoiddmgcoeocaa.Rn
set_option linter.unusedVariables false
set_option linter.unusedSimpArgs false

section
variable {α : Type} (p : α → Bool)
theorem tw_lt : ∀ (M : List α) (i : Nat) (hi : i < M.length), i < (M.takeWhile p).length → p M[i] = true
  | [], i, hi, _ => by simp at hi
  | x :: M, i, hi, h => by
    by_cases hx : p x = true
    · rw [List.takeWhile_cons_of_pos hx] at h
      match i with
      | 0 => exact hx
      | i + 1 => exact tw_lt M i (by simpa using hi) (by simpa using h)
    · rw [List.takeWhile_cons_of_neg hx] at h
      simp at h
theorem tw_at : ∀ (M : List α) (m : Nat) (hm : m < M.length), m = (M.takeWhile p).length → p M[m] = false
  | [], m, hm, _ => by simp at hm
  | x :: M, m, hm, h => by
    by_cases hx : p x = true
    · rw [List.takeWhile_cons_of_pos hx] at h
      match m with
      | 0 => simp at h
      | m + 1 => exact tw_at M m (by simpa using hm) (by simpa using h)
    · rw [List.takeWhile_cons_of_neg hx] at h
      simp at h
      subst h
      simpa using hx
theorem tw_le (M : List α) : (M.takeWhile p).length ≤ M.length := (List.takeWhile_sublist p).length_le
end
def sameB (k0 : Int) (q : Pr) : Bool := q.1 / 64 == k0 / 64
/-- How many entries at the front are of one block. -/
def runL (k0 : Int) (M : List Pr) : Nat := (M.takeWhile (sameB k0)).length

set_option maxRecDepth 100000 in
set_option maxHeartbeats 1000000 in
theorem inOne1_any (Bx b o n cap : Nat) (c u k0 : Int) (hc0 : 0 ≤ c) (hc1 : c ≤ 16777215) (hk0 : 0 ≤ k0) (hk1 : k0 ≤ 16777215) (hn : 0 < n) (w : World) (hb : w.heap[Bx]? = some (.cells #[.slice (some ⟨b, o, none⟩) n cap] 57 (0, 0))) (hk : w.cell? ⟨b, o, none⟩ = some (.int .i64 k0)) (B : Bool) (hB : Hid ((c / 64 == k0 / 64) = B)) :
    Calls Try.prog 48 #[.agg #[.int .i64 c, .int .i32 u], .pointer (some ⟨Bx, 0, none⟩)] w fun e w' => e = .returned (.bool (!B)) ∧ w.grownBy w' none := by
  have e1 : c.tdiv 64 = c / 64 := Int.tdiv_eq_ediv_of_nonneg hc0
  have e2 : k0.tdiv 64 = k0 / 64 := Int.tdiv_eq_ediv_of_nonneg hk0
  have hbl := lt_of_block hb
  have l0 := cell_at hb 0 (v := .slice (some ⟨b, o, none⟩) n cap) rfl
  have hkb := World.block_lt_of_cell? w _ hk
  have hn' : (0 : Int) < (n : Int) := by omega
  simp only at hkb
  have b1 : 0 ≤ c / 64 := by omega
  have b2 : c / 64 ≤ 262143 := by omega
  have b3 : 0 ≤ k0 / 64 := by omega
  have b4 : k0 / 64 ≤ 262143 := by omega
  generalize c / 64 = cc at *
  generalize k0 / 64 = kk at *
  have hx := Hid.mk' hb
  clear hb
  go_enter Try.func48, Try.ntmps48
  go_wp2_with fail
  have m0 : (w.alloc (.cells #[.int .i64 c, .int .i32 u] 76)).cell? ⟨w.heap.size, 0, none⟩ = some (.int .i64 c) := cell_at (heap_alloc_new w _) 0 rfl
  have m1 : (w.alloc (.cells #[.int .i64 c, .int .i32 u] 76)).cell? ⟨Bx, 0, none⟩ = some (.slice (some ⟨b, o, none⟩) n cap) := (World.grownBy_alloc w _ none).cell l0 (by simp)
  have m2 : (w.alloc (.cells #[.int .i64 c, .int .i32 u] 76)).cell? ⟨b, o, none⟩ = some (.int .i64 k0) := (World.grownBy_alloc w _ none).cell hk (by simp)
  have hg : Hid (w.grownBy (w.alloc (.cells #[.int .i64 c, .int .i32 u] 76)) none) := Hid.mk' (World.grownBy_alloc w _ none)
  clear l0 hk hbl hkb hx
  generalize w.alloc (.cells #[.int .i64 c, .int .i32 u] 76) = w1 at *
  generalize w.heap.size = pb at *
  go_quiet (fail)
  go_wp2_with fail
  go_ret
  refine ⟨?_, grownBy_trans hg.out ⟨rfl, rfl, rfl, Nat.le_refl _, fun _ _ _ => rfl⟩⟩
  rw [← hB.out]
  by_cases h : cc = kk
  · simp [h]
  · have h3 : (cc == kk) = false := by simpa using h
    simp [h, h3]

set_option maxRecDepth 100000 in
set_option maxHeartbeats 1000000 in
theorem index_any (Bx : Nat) (M : List Pr) (n cap b o : Nat) (hn : M.length = n) (hn1 : 0 < n) (hn2 : n ≤ 65536) (w : World) (hB : EE.Rd w (some ⟨b, o, none⟩) M) (hc : n ≤ cap) (hcm : cap ≤ 9223372036854775807) (hr : ∀ p ∈ M, 0 ≤ p.1 ∧ p.1 ≤ 16777215) (k0 : Int) (hk0 : 0 ≤ k0) (hk9 : k0 ≤ 16777215)
    (hb : w.heap[Bx]? = some (.cells #[.slice (some ⟨b, o, none⟩) n cap] 57 (0, 0))) (hk : w.cell? ⟨b, o, none⟩ = some (.int .i64 k0)) (m : Nat) (hm : runL k0 M = m) :
    Calls Try.prog 47 #[.slice (some ⟨b, o, none⟩) n cap, .func (.func 48) #[] #[.pointer (some ⟨Bx, 0, none⟩)]] w fun e w' => (∃ r : Int, e = .returned (.int .i64 r) ∧ ((m = n ∧ r = -1) ∨ (m < n ∧ r = m))) ∧ w.grownBy w' none := by
  have hB0 := Hid.mk' hB
  have hn0 := Hid.mk' hn
  have hr0 := Hid.mk' hr
  have hb0 := Hid.mk' hb
  have hk1 := Hid.mk' hk
  have hm0 := Hid.mk' hm
  have hmn : m ≤ n := by rw [← hm, ← hn]; exact tw_le _ _
  clear hB hn hr hb hk hm
  go_enter Try.func47, Try.ntmps47
  go_wp2_with fail
  go_loopw [8] (fun t8 wx => ∃ (i : Nat), i ≤ m ∧ t8 = .int .i64 (i : Int) ∧ Hid (w.grownBy wx none)) (fun t8 _ => n - (intOf t8).toNat)
  case atStart => exact ⟨0, by omega, rfl, Hid.mk' (grownBy_refl _ _)⟩
  case round =>
    obtain ⟨i, hi, rfl, hG⟩ := hrel
    by_cases hlt : i < n
    · have hlL : i < M.length := by rw [hn0.out]; exact hlt
      obtain ⟨c, u, he⟩ : ∃ c u, M[i] = (c, u) := ⟨_, _, rfl⟩
      obtain ⟨b', o', eq, hbb, x0, x1⟩ := ecells (hB0.out.kept0 hG.out) hlL he
      cases eq
      have hlt' : (i : Int) < (n : Int) := by omega
      have hiz : (0 : Int) ≤ (i : Int) := by omega
      obtain ⟨hc0, hc1⟩ : 0 ≤ c ∧ c ≤ 16777215 := by have := hr0.out (c, u) (by rw [← he]; exact List.getElem_mem hlL); exact this
      have kb := Hid.mk' (blk_kept hb0.out hG.out)
      have kk := Hid.mk' (hG.out.cell hk1.out (by simp))
      by_cases him : i < m
      · have hs : Hid ((c / 64 == k0 / 64) = true) := Hid.mk' (by have := tw_lt (sameB k0) M i hlL (by have := hm0.out; unfold runL at this; omega); rw [he] at this; exact this)
        clear he hlL
        go_wp2_with (go_at_call 48; refine (inOne1_any Bx b o n cap c u k0 hc0 hc1 hk0 hk9 hn1 _ kb.out kk.out true hs).mono ?_; rintro e w2 ⟨rfl, hg2⟩)
        go_roundw
        case rel => exact ⟨i + 1, by omega, by go_num, Hid.mk' (grownBy_trans hG.out hg2)⟩
        case measure => simp [intOf]; omega
      · obtain rfl : i = m := by omega
        have hs : Hid ((c / 64 == k0 / 64) = false) := Hid.mk' (by have := tw_at (sameB k0) M i hlL (by have := hm0.out; unfold runL at this; omega); rw [he] at this; exact this)
        clear he hlL
        go_wp2_with (go_at_call 48; refine (inOne1_any Bx b o n cap c u k0 hc0 hc1 hk0 hk9 hn1 _ kb.out kk.out false hs).mono ?_; rintro e w2 ⟨rfl, hg2⟩)
        go_ret
        exact ⟨⟨_, rfl, .inr ⟨hlt, rfl⟩⟩, grownBy_trans hG.out hg2⟩
    · obtain rfl : i = n := by omega
      have hlt' : ¬ (i : Int) < (i : Int) := by omega
      go_wp2_with fail
      go_ret
      exact ⟨⟨_, rfl, .inl ⟨by omega, rfl⟩⟩, hG.out⟩

set_option maxRecDepth 100000 in
set_option maxHeartbeats 1000000 in
theorem inOne_any (M : List Pr) (n cap b o : Nat) (hn : M.length = n) (hn1 : 0 < n) (hn2 : n ≤ 65536) (w : World) (hB : EE.Rd w (some ⟨b, o, none⟩) M) (hc : n ≤ cap) (hcm : cap ≤ 9223372036854775807) (hr : ∀ p ∈ M, 0 ≤ p.1 ∧ p.1 ≤ 16777215) (k0 : Int) (hk : w.cell? ⟨b, o, none⟩ = some (.int .i64 k0)) (hk0 : 0 ≤ k0) (hk9 : k0 ≤ 16777215) (m : Nat) (hm : runL k0 M = m) :
    Calls Try.prog 36 #[.slice (some ⟨b, o, none⟩) n cap] w fun e w' => e = .returned (.int .i64 (m : Int)) ∧ w.grownBy w' none := by
  have hg0 : Hid (w.grownBy (w.alloc (.cells #[.slice (some ⟨b, o, none⟩) n cap] 57)) none) := Hid.mk' (World.grownBy_alloc w _ none)
  have hi := Hid.mk' (index_any w.heap.size M n cap b o hn hn1 hn2 (w.alloc (.cells #[.slice (some ⟨b, o, none⟩) n cap] 57)) (hB.kept0 hg0.out) hc hcm hr k0 hk0 hk9 (heap_alloc_new w _) (hg0.out.cell hk (by simp)) m hm)
  clear hB hn hr hm
  go_enter Try.func36, Try.ntmps36
  go_upto_region 2 with (go_at_call 47; refine hi.out.mono ?_; rintro e w2 ⟨⟨r, rfl, hr⟩, hg2⟩)
  have hg3 := Hid.mk' (grownBy_trans hg0.out hg2)
  have l0 := cell_at (blk_kept (heap_alloc_new w (.cells #[.slice (some ⟨b, o, none⟩) n cap] 57)) hg2) 0 (v := .slice (some ⟨b, o, none⟩) n cap) rfl
  generalize w.heap.size = pb at *
  clear hg0 hg2 hi
  rcases hr with ⟨rfl, rfl⟩ | ⟨h1, rfl⟩
  · go_wp2_with fail
    go_ret
    exact ⟨rfl, hg3.out⟩
  · have h2 : ¬ (m : Int) < 0 := by omega
    go_wp2_with fail
    go_ret
    exact ⟨rfl, hg3.out⟩
end Go.Proofs.Ytcoiddmgcoeocaa.Tr

/- Con, One, joined. -/
import Derived.Test.YtcoiddmgcoeocaaByc
import Derived.Test.YtcoiddmgcoeocaaKb
/- contentOf and inOneBlock: walks. -/
namespace Go.Proofs.Ytcoiddmgcoeocaa.Tr
open Go.ChangeShapes Go.WideShapes Go.ChangeAt Go.RowKit Go.Maps Go.Proofs.Ytcoiddmgcoeocaa.Mem Go.Proofs.Ytcoiddmgcoeocaa.El Go.Sort Go.Proofs.Ytcoiddmgcoeocaa.Rn
set_option linter.unusedVariables false
set_option linter.unusedSimpArgs false

def conStep (zs : List Int) (q : Pr) : List Int := zs.set (q.1 % 64).toNat (q.2 + 1)
/-- A block's content: what stands at each place, one higher. -/
def conZ (M : List Pr) : List Int := M.foldl conStep (List.replicate 64 0)
theorem con_fold_len (M : List Pr) : ∀ zs : List Int, (M.foldl conStep zs).length = zs.length := by
  induction M with
  | nil => intro zs; rfl
  | cons q M ih => intro zs; rw [List.foldl_cons, ih]; simp [conStep]
theorem conZ_len (M : List Pr) : (conZ M).length = 64 := by unfold conZ; rw [con_fold_len]; simp
theorem conZ_snoc (M : List Pr) (q : Pr) : conZ (M ++ [q]) = (conZ M).set (q.1 % 64).toNat (q.2 + 1) := by simp [conZ, List.foldl_append, conStep]
theorem ecells {w : World} {ao : Option Addr} {L : List Pr} (h : EE.Rd w ao L) {i : Nat} (hi : i < L.length) {c u : Int} (he : L[i] = (c, u)) :
    ∃ b o, ao = some ⟨b, o, none⟩ ∧ b < w.heap.size ∧ w.cell? ⟨b, o + i * 2, none⟩ = some (.int .i64 c) ∧ w.cell? ⟨b, o + i * 2 + 1, none⟩ = some (.int .i32 u) := by
  obtain ⟨b, o, rfl, hb, hc⟩ := h.at (List.ne_nil_of_length_pos (by omega)) (by decide)
  have e : EE.enc L[i] = [.int .i64 c, .int .i32 u] := by rw [he]; rfl
  refine ⟨b, o, rfl, hb, ?_, ?_⟩
  · exact hc i hi 0 _ (by rw [e]; rfl)
  · exact hc i hi 1 _ (by rw [e]; rfl)

set_option maxRecDepth 100000 in
set_option maxHeartbeats 1000000 in
theorem content_any (ao : Option Addr) (cap : Nat) (M : List Pr) (n : Nat) (hn : M.length = n) (hn2 : n ≤ 65536) (w : World) (hB : EE.Rd w ao M) (hc : n ≤ cap) (hcm : cap ≤ 9223372036854775807) (hr : ∀ p ∈ M, 0 ≤ p.1 ∧ 0 ≤ p.2 ∧ p.2 ≤ 16777215) :
    Calls Try.prog 38 #[.slice ao n cap] w fun e w' => e = .returned (arrV .i32 (conZ M)) ∧ w.grownBy w' none := by
  have hB0 := Hid.mk' hB
  have hn0 := Hid.mk' hn
  have hr0 := Hid.mk' hr
  clear hB hn hr
  go_enter Try.func38, Try.ntmps38
  go_upto_region 1 with (refine wpList_allocA _ rfl 81 rfl (List.replicate 64 0) (zeroT _) ?_; intro w1 ha1 hg1)
  go_wp2_with (refine wpList_allocA _ rfl 81 rfl (List.replicate 64 0) (zeroT _) ?_; intro w2 ha2 hg2)
  have hs0 : Hid (ArrAt w2 w1.heap.size 81 .i32 (conZ (M.take 0))) := Hid.mk' ha2
  have hs1 : Hid (ArrAt w2 w.heap.size 81 .i32 (List.replicate 64 0)) := Hid.mk' (ha1.kept0 hg2)
  have hs2 : Hid (w.grownBy w2 none) := Hid.mk' (grownBy_trans hg1 hg2)
  have hne : Hid (w.heap.size < w1.heap.size) := Hid.mk' ha1.lt
  clear ha1 ha2 hg1 hg2
  obtain ⟨B, hB⟩ : ∃ B, Hid (w1.heap.size = B) := ⟨_, Hid.mk' rfl⟩
  obtain ⟨A, hA⟩ : ∃ A, Hid (w.heap.size = A) := ⟨_, Hid.mk' rfl⟩
  rw [hB.out] at hs0 hne ⊢
  rw [hA.out] at hs1 hne ⊢
  go_loopw [8] (fun t8 wx => ∃ (i : Nat), i ≤ n ∧ t8 = .int .i64 (i : Int) ∧ Hid (ArrAt wx B 81 .i32 (conZ (M.take i))) ∧ Hid (ArrAt wx A 81 .i32 (List.replicate 64 0)) ∧ Hid (w.grownBy wx none)) (fun t8 _ => n - (intOf t8).toNat)
  case atStart => exact ⟨0, by omega, rfl, hs0, hs1, hs2⟩
  case round =>
    obtain ⟨i, hi, rfl, h1, h2, hG⟩ := hrel
    clear hs0 hs1 hs2
    by_cases hlt : i < n
    · have hlL : i < M.length := by rw [hn0.out]; exact hlt
      obtain ⟨c, u, he⟩ : ∃ c u, M[i] = (c, u) := ⟨_, _, rfl⟩
      obtain ⟨b, o, rfl, hb, x0, x1⟩ := ecells (hB0.out.kept0 hG.out) hlL he
      have hlt' : (i : Int) < (n : Int) := by omega
      have hiz : (0 : Int) ≤ (i : Int) := by omega
      obtain ⟨r1, r2, r3⟩ := hr0.out (c, u) (by rw [← he]; exact List.getElem_mem hlL)
      simp only at r1 r2 r3
      obtain ⟨j, hj⟩ : ∃ j : Nat, c % 64 = (j : Int) := ⟨(c % 64).toNat, by omega⟩
      have hj64 : j < 64 := by omega
      have hjI : (j : Int) < 64 := by omega
      have hj0 : (0 : Int) ≤ (j : Int) := by omega
      have hmod : c.tmod 64 = (j : Int) := by rw [Int.tmod_eq_emod_of_nonneg r1, hj]
      have hw : IntKind.i32.wrap (u + 1) = u + 1 := by rw [IntKind.wrap_i32]; omega
      have hsn : Hid (conZ (M.take (i + 1)) = (conZ (M.take i)).set j (u + 1)) := Hid.mk' (by rw [List.take_succ_eq_append_getElem hlL, conZ_snoc, he]; simp only [hj, Int.toNat_natCast])
      clear he hlL
      have g1 := Hid.mk' (h1.out.kept0 (World.grownBy_alloc wr (.cells #[.int .i64 c, .int .i32 u] 76) none))
      have g2 := Hid.mk' (h2.out.kept0 (World.grownBy_alloc wr (.cells #[.int .i64 c, .int .i32 u] 76) none))
      have g3 := Hid.mk' (grownBy_trans hG.out (World.grownBy_alloc wr (.cells #[.int .i64 c, .int .i32 u] 76) none))
      have p0 := cell_at (heap_alloc_new wr (.cells #[.int .i64 c, .int .i32 u] 76)) 0 (v := .int .i64 c) rfl
      have p1 := cell_at (heap_alloc_new wr (.cells #[.int .i64 c, .int .i32 u] 76)) 1 (v := .int .i32 u) rfl
      go_upto_region 5 with fail
      clear h1 h2 hG x0 x1 hb
      generalize wr.alloc (.cells #[.int .i64 c, .int .i32 u] 76) = w3 at *
      generalize wr.heap.size = pb at *
      obtain ⟨v0, c0⟩ : ∃ v, w3.cell? ⟨B, j, none⟩ = some v := ⟨_, g1.out.cell j (by rw [conZ_len]; exact hj64)⟩
      have f0 := g1.out.free j
      have q1 := Hid.mk' (g1.out.set j (u + 1))
      rw [← hsn.out] at q1
      have q2 : Hid (ArrAt (w3.setCell ⟨B, j, none⟩ (.int .i32 (u + 1))) A 81 .i32 (List.replicate 64 0)) := Hid.mk' (g2.out.kept (grownBy_setCell w3 ⟨B, j, none⟩ _) (by intro e; have h5 := Option.some.inj e; have := hne.out; simp only at h5; omega))
      have q3 : Hid (w.grownBy (w3.setCell ⟨B, j, none⟩ (.int .i32 (u + 1))) none) := Hid.mk' (grownBy_new g3.out (grownBy_setCell w3 ⟨B, j, none⟩ _) (fun k hk => by have h5 := Option.some.inj hk; have := hne.out; have h6 := hA.out; simp only at h5; omega))
      clear g1 g2 g3
      go_wp2_with fail
      go_roundw
      case rel => exact ⟨i + 1, by omega, by go_num, q1, q2, q3⟩
      case measure => simp [intOf]; omega
    · obtain rfl : i = n := by omega
      have hlt' : ¬ (i : Int) < (i : Int) := by omega
      have h1' : Hid (ArrAt wr B 81 .i32 (conZ M)) := Hid.mk' (by have := h1.out; rwa [List.take_of_length_le (by rw [hn0.out]; exact Nat.le_refl _)] at this)
      clear h1
      go_wp2_with (first
        | (refine wpList_loadA _ rfl 81 _ rfl 64 _ Try.underlying81 infoT B (conZ M) (conZ_len M) rfl h1'.out ?_)
        | (refine wpList_storeA _ rfl 81 _ _ rfl 64 infoT A (List.replicate 64 0) (conZ M) (by simp) (conZ_len M) rfl rfl h2.out ?_; intro w4 ha4 hg4))
      refine bodyPost_ret (v := arrV .i32 (conZ M)) (results_cell_row Try.results38 _ w4 A 81 _ (0, 0) _ rfl ha4 Try.underlying81 rfl (by rw [infoT]; simp [conZ_len])) rfl ⟨rfl, ?_⟩
      exact grownBy_new hG.out hg4 (fun k hk => by have h5 := Option.some.inj hk; have := hne.out; have h6 := hA.out; omega)
end Go.Proofs.Ytcoiddmgcoeocaa.Tr

/- inOneBlock: walks. -/
namespace Go.Proofs.Ytcoiddmgcoeocaa.Tr
open Go.ChangeShapes Go.WideShapes Go.ChangeAt Go.RowKit Go.Maps Go.Proofs.Ytcoiddmgcoeocaa.Mem Go.Proofs.Ytcoiddmgcoeocaa.El Go.Sort Go.Proofs.Ytcoiddmgcoeocaa.Rn
set_option linter.unusedVariables false
set_option linter.unusedSimpArgs false

section
variable {α : Type} (p : α → Bool)
theorem tw_lt : ∀ (M : List α) (i : Nat) (hi : i < M.length), i < (M.takeWhile p).length → p M[i] = true
  | [], i, hi, _ => by simp at hi
  | x :: M, i, hi, h => by
    by_cases hx : p x = true
    · rw [List.takeWhile_cons_of_pos hx] at h
      match i with
      | 0 => exact hx
      | i + 1 => exact tw_lt M i (by simpa using hi) (by simpa using h)
    · rw [List.takeWhile_cons_of_neg hx] at h
      simp at h
theorem tw_at : ∀ (M : List α) (m : Nat) (hm : m < M.length), m = (M.takeWhile p).length → p M[m] = false
  | [], m, hm, _ => by simp at hm
  | x :: M, m, hm, h => by
    by_cases hx : p x = true
    · rw [List.takeWhile_cons_of_pos hx] at h
      match m with
      | 0 => simp at h
      | m + 1 => exact tw_at M m (by simpa using hm) (by simpa using h)
    · rw [List.takeWhile_cons_of_neg hx] at h
      simp at h
      subst h
      simpa using hx
theorem tw_le (M : List α) : (M.takeWhile p).length ≤ M.length := (List.takeWhile_sublist p).length_le
end
def sameB (k0 : Int) (q : Pr) : Bool := q.1 / 64 == k0 / 64
/-- How many entries at the front are of one block. -/
def runL (k0 : Int) (M : List Pr) : Nat := (M.takeWhile (sameB k0)).length

set_option maxRecDepth 100000 in
set_option maxHeartbeats 1000000 in
theorem inOne1_any (Bx b o n cap : Nat) (c u k0 : Int) (hc0 : 0 ≤ c) (hc1 : c ≤ 16777215) (hk0 : 0 ≤ k0) (hk1 : k0 ≤ 16777215) (hn : 0 < n) (w : World) (hb : w.heap[Bx]? = some (.cells #[.slice (some ⟨b, o, none⟩) n cap] 57 (0, 0))) (hk : w.cell? ⟨b, o, none⟩ = some (.int .i64 k0)) (B : Bool) (hB : Hid ((c / 64 == k0 / 64) = B)) :
    Calls Try.prog 48 #[.agg #[.int .i64 c, .int .i32 u], .pointer (some ⟨Bx, 0, none⟩)] w fun e w' => e = .returned (.bool (!B)) ∧ w.grownBy w' none := by
  have e1 : c.tdiv 64 = c / 64 := Int.tdiv_eq_ediv_of_nonneg hc0
  have e2 : k0.tdiv 64 = k0 / 64 := Int.tdiv_eq_ediv_of_nonneg hk0
  have hbl := lt_of_block hb
  have l0 := cell_at hb 0 (v := .slice (some ⟨b, o, none⟩) n cap) rfl
  have hkb := World.block_lt_of_cell? w _ hk
  have hn' : (0 : Int) < (n : Int) := by omega
  simp only at hkb
  have b1 : 0 ≤ c / 64 := by omega
  have b2 : c / 64 ≤ 262143 := by omega
  have b3 : 0 ≤ k0 / 64 := by omega
  have b4 : k0 / 64 ≤ 262143 := by omega
  generalize c / 64 = cc at *
  generalize k0 / 64 = kk at *
  have hx := Hid.mk' hb
  clear hb
  go_enter Try.func48, Try.ntmps48
  go_wp2_with fail
  have m0 : (w.alloc (.cells #[.int .i64 c, .int .i32 u] 76)).cell? ⟨w.heap.size, 0, none⟩ = some (.int .i64 c) := cell_at (heap_alloc_new w _) 0 rfl
  have m1 : (w.alloc (.cells #[.int .i64 c, .int .i32 u] 76)).cell? ⟨Bx, 0, none⟩ = some (.slice (some ⟨b, o, none⟩) n cap) := (World.grownBy_alloc w _ none).cell l0 (by simp)
  have m2 : (w.alloc (.cells #[.int .i64 c, .int .i32 u] 76)).cell? ⟨b, o, none⟩ = some (.int .i64 k0) := (World.grownBy_alloc w _ none).cell hk (by simp)
  have hg : Hid (w.grownBy (w.alloc (.cells #[.int .i64 c, .int .i32 u] 76)) none) := Hid.mk' (World.grownBy_alloc w _ none)
  clear l0 hk hbl hkb hx
  generalize w.alloc (.cells #[.int .i64 c, .int .i32 u] 76) = w1 at *
  generalize w.heap.size = pb at *
  go_quiet (fail)
  go_wp2_with fail
  go_ret
  refine ⟨?_, grownBy_trans hg.out ⟨rfl, rfl, rfl, Nat.le_refl _, fun _ _ _ => rfl⟩⟩
  rw [← hB.out]
  by_cases h : cc = kk
  · simp [h]
  · have h3 : (cc == kk) = false := by simpa using h
    simp [h, h3]

set_option maxRecDepth 100000 in
set_option maxHeartbeats 1000000 in
theorem index_any (Bx : Nat) (M : List Pr) (n cap b o : Nat) (hn : M.length = n) (hn1 : 0 < n) (hn2 : n ≤ 65536) (w : World) (hB : EE.Rd w (some ⟨b, o, none⟩) M) (hc : n ≤ cap) (hcm : cap ≤ 9223372036854775807) (hr : ∀ p ∈ M, 0 ≤ p.1 ∧ p.1 ≤ 16777215) (k0 : Int) (hk0 : 0 ≤ k0) (hk9 : k0 ≤ 16777215)
    (hb : w.heap[Bx]? = some (.cells #[.slice (some ⟨b, o, none⟩) n cap] 57 (0, 0))) (hk : w.cell? ⟨b, o, none⟩ = some (.int .i64 k0)) (m : Nat) (hm : runL k0 M = m) :
    Calls Try.prog 47 #[.slice (some ⟨b, o, none⟩) n cap, .func (.func 48) #[] #[.pointer (some ⟨Bx, 0, none⟩)]] w fun e w' => (∃ r : Int, e = .returned (.int .i64 r) ∧ ((m = n ∧ r = -1) ∨ (m < n ∧ r = m))) ∧ w.grownBy w' none := by
  have hB0 := Hid.mk' hB
  have hn0 := Hid.mk' hn
  have hr0 := Hid.mk' hr
  have hb0 := Hid.mk' hb
  have hk1 := Hid.mk' hk
  have hm0 := Hid.mk' hm
  have hmn : m ≤ n := by rw [← hm, ← hn]; exact tw_le _ _
  clear hB hn hr hb hk hm
  go_enter Try.func47, Try.ntmps47
  go_wp2_with fail
  go_loopw [8] (fun t8 wx => ∃ (i : Nat), i ≤ m ∧ t8 = .int .i64 (i : Int) ∧ Hid (w.grownBy wx none)) (fun t8 _ => n - (intOf t8).toNat)
  case atStart => exact ⟨0, by omega, rfl, Hid.mk' (grownBy_refl _ _)⟩
  case round =>
    obtain ⟨i, hi, rfl, hG⟩ := hrel
    by_cases hlt : i < n
    · have hlL : i < M.length := by rw [hn0.out]; exact hlt
      obtain ⟨c, u, he⟩ : ∃ c u, M[i] = (c, u) := ⟨_, _, rfl⟩
      obtain ⟨b', o', eq, hbb, x0, x1⟩ := ecells (hB0.out.kept0 hG.out) hlL he
      cases eq
      have hlt' : (i : Int) < (n : Int) := by omega
      have hiz : (0 : Int) ≤ (i : Int) := by omega
      obtain ⟨hc0, hc1⟩ : 0 ≤ c ∧ c ≤ 16777215 := by have := hr0.out (c, u) (by rw [← he]; exact List.getElem_mem hlL); exact this
      have kb := Hid.mk' (blk_kept hb0.out hG.out)
      have kk := Hid.mk' (hG.out.cell hk1.out (by simp))
      by_cases him : i < m
      · have hs : Hid ((c / 64 == k0 / 64) = true) := Hid.mk' (by have := tw_lt (sameB k0) M i hlL (by have := hm0.out; unfold runL at this; omega); rw [he] at this; exact this)
        clear he hlL
        go_wp2_with (go_at_call 48; refine (inOne1_any Bx b o n cap c u k0 hc0 hc1 hk0 hk9 hn1 _ kb.out kk.out true hs).mono ?_; rintro e w2 ⟨rfl, hg2⟩)
        go_roundw
        case rel => exact ⟨i + 1, by omega, by go_num, Hid.mk' (grownBy_trans hG.out hg2)⟩
        case measure => simp [intOf]; omega
      · obtain rfl : i = m := by omega
        have hs : Hid ((c / 64 == k0 / 64) = false) := Hid.mk' (by have := tw_at (sameB k0) M i hlL (by have := hm0.out; unfold runL at this; omega); rw [he] at this; exact this)
        clear he hlL
        go_wp2_with (go_at_call 48; refine (inOne1_any Bx b o n cap c u k0 hc0 hc1 hk0 hk9 hn1 _ kb.out kk.out false hs).mono ?_; rintro e w2 ⟨rfl, hg2⟩)
        go_ret
        exact ⟨⟨_, rfl, .inr ⟨hlt, rfl⟩⟩, grownBy_trans hG.out hg2⟩
    · obtain rfl : i = n := by omega
      have hlt' : ¬ (i : Int) < (i : Int) := by omega
      go_wp2_with fail
      go_ret
      exact ⟨⟨_, rfl, .inl ⟨by omega, rfl⟩⟩, hG.out⟩

set_option maxRecDepth 100000 in
set_option maxHeartbeats 1000000 in
theorem inOne_any (M : List Pr) (n cap b o : Nat) (hn : M.length = n) (hn1 : 0 < n) (hn2 : n ≤ 65536) (w : World) (hB : EE.Rd w (some ⟨b, o, none⟩) M) (hc : n ≤ cap) (hcm : cap ≤ 9223372036854775807) (hr : ∀ p ∈ M, 0 ≤ p.1 ∧ p.1 ≤ 16777215) (k0 : Int) (hk : w.cell? ⟨b, o, none⟩ = some (.int .i64 k0)) (hk0 : 0 ≤ k0) (hk9 : k0 ≤ 16777215) (m : Nat) (hm : runL k0 M = m) :
    Calls Try.prog 36 #[.slice (some ⟨b, o, none⟩) n cap] w fun e w' => e = .returned (.int .i64 (m : Int)) ∧ w.grownBy w' none := by
  have hg0 : Hid (w.grownBy (w.alloc (.cells #[.slice (some ⟨b, o, none⟩) n cap] 57)) none) := Hid.mk' (World.grownBy_alloc w _ none)
  have hi := Hid.mk' (index_any w.heap.size M n cap b o hn hn1 hn2 (w.alloc (.cells #[.slice (some ⟨b, o, none⟩) n cap] 57)) (hB.kept0 hg0.out) hc hcm hr k0 hk0 hk9 (heap_alloc_new w _) (hg0.out.cell hk (by simp)) m hm)
  clear hB hn hr hm
  go_enter Try.func36, Try.ntmps36
  go_upto_region 2 with (go_at_call 47; refine hi.out.mono ?_; rintro e w2 ⟨⟨r, rfl, hr⟩, hg2⟩)
  have hg3 := Hid.mk' (grownBy_trans hg0.out hg2)
  have l0 := cell_at (blk_kept (heap_alloc_new w (.cells #[.slice (some ⟨b, o, none⟩) n cap] 57)) hg2) 0 (v := .slice (some ⟨b, o, none⟩) n cap) rfl
  generalize w.heap.size = pb at *
  clear hg0 hg2 hi
  rcases hr with ⟨rfl, rfl⟩ | ⟨h1, rfl⟩
  · go_wp2_with fail
    go_ret
    exact ⟨rfl, hg3.out⟩
  · have h2 : ¬ (m : Int) < 0 := by omega
    go_wp2_with fail
    go_ret
    exact ⟨rfl, hg3.out⟩
end Go.Proofs.Ytcoiddmgcoeocaa.Tr

/- The entries of a list of pairs: walks. -/
import Derived.Test.YtcoiddmgcoeocaaGb
import Derived.Test.YtcoiddmgcoeocaaGa
import Derived.Test.YtcoiddmgcoeocaaRight
namespace Go.Proofs.Ytcoiddmgcoeocaa.Tr
open Go.ChangeShapes Go.WideShapes Go.ChangeAt Go.RowKit Go.Maps Go.Proofs.Ytcoiddmgcoeocaa.Mem Go.Proofs.Ytcoiddmgcoeocaa.El Go.Sort Go.Proofs.Ytcoiddmgcoeocaa.Rn
set_option linter.unusedVariables false
set_option linter.unusedSimpArgs false

/-- A row under way: some entries laid, the rest zero. -/
def Fill (M : List Pr) (i n : Nat) : List Pr := M.take i ++ List.replicate (n - i) (0, 0)
theorem fill_zero (M : List Pr) (n : Nat) : Fill M 0 n = List.replicate n (0, 0) := by simp [Fill]
theorem fill_len {M : List Pr} {i n : Nat} (hM : M.length = n) (hi : i ≤ n) : (Fill M i n).length = n := by simp only [Fill, List.length_append, List.length_take, List.length_replicate]; omega
theorem fill_set {M : List Pr} {i n : Nat} (hM : M.length = n) (hi : i < n) : (Fill M i n).set i (at_ M i) = Fill M (i + 1) n := by
  unfold Fill
  have hl : (M.take i).length = i := by rw [List.length_take]; omega
  rw [List.set_append_right _ _ (by omega), hl, Nat.sub_self, show n - i = (n - (i + 1)) + 1 by omega, List.replicate_succ, List.set_cons_zero, take_at (by omega)]
  simp
theorem fill_all {M : List Pr} {n : Nat} (hM : M.length = n) : Fill M n n = M := by simp [Fill, ← hM]

set_option maxRecDepth 100000 in
set_option maxHeartbeats 1000000 in
theorem byCode_any (ao : Option Addr) (cap : Nat) (L : List Pr) (n : Nat) (hn : L.length = n) (hn2 : n ≤ 65536) (w : World) (hB : PE.Rd w ao L) (hc : n ≤ cap) (hcm : cap ≤ 9223372036854775807) :
    Calls Try.prog 21 #[.slice ao n cap] w fun e w' => ∃ g, e = .returned (.slice (some ⟨g, 0, none⟩) n n) ∧ EE.Own w' (some ⟨g, 0, none⟩) n L ∧ w.grownBy w' none ∧ w.heap.size ≤ g := by
  have hB0 := Hid.mk' hB
  have hn0 := Hid.mk' hn
  obtain ⟨w1, hmk, hown, hgr⟩ := make_ent w n (by omega)
  have ho0 := Hid.mk' hown
  have hg0 := Hid.mk' hgr
  have hcI : (n : Int) ≤ (cap : Int) := by omega
  clear hB hn hown hgr
  go_enter Try.func21, Try.ntmps21
  go_wp2_with fail
  obtain ⟨g, hg⟩ : ∃ g, g = w.heap.size := ⟨_, rfl⟩
  rw [← hg] at ho0 ⊢
  have hg1 := Hid.mk' hg
  clear hg hmk
  go_loopw [11] (fun t11 wx => ∃ (i : Nat), i ≤ n ∧ t11 = .int .i64 (i : Int) ∧ Hid (EE.Own wx (some ⟨g, 0, none⟩) n (Fill L i n)) ∧ Hid (w.grownBy wx none)) (fun t11 _ => n - (intOf t11).toNat)
  case atStart => exact ⟨0, by omega, rfl, Hid.mk' (by rw [fill_zero]; exact ho0.out), hg0⟩
  case round =>
    obtain ⟨i, hi, rfl, hO, hG⟩ := hrel
    clear ho0 hg0
    by_cases hlt : i < n
    · obtain ⟨c, u, he⟩ : ∃ c u, L[i]'(by rw [hn0.out]; exact hlt) = (c, u) := ⟨_, _, rfl⟩
      obtain ⟨b, o, rfl, hb, x0, x1⟩ := pcells (hB0.out.kept0 hG.out) (by rw [hn0.out]; exact hlt) he
      have hlt' : (i : Int) < (n : Int) := by omega
      have hiz : (0 : Int) ≤ (i : Int) := by omega
      have hea : Hid (at_ L i = (c, u)) := Hid.mk' (by rw [at_eq (by rw [hn0.out]; exact hlt)]; exact he)
      clear he
      go_upto_region 5 with fail
      have hO2 := Hid.mk' (hO.out.alloc (.cells #[.int .i64 c, .int .i32 u] 30))
      have hG2 := Hid.mk' (grownBy_trans hG.out (World.grownBy_alloc wr (.cells #[.int .i64 c, .int .i32 u] 30) none))
      have p0 := cell_at (heap_alloc_new wr (.cells #[.int .i64 c, .int .i32 u] 30)) 0 (v := .int .i64 c) rfl
      have p1 := cell_at (heap_alloc_new wr (.cells #[.int .i64 c, .int .i32 u] 30)) 1 (v := .int .i32 u) rfl
      clear hO hG x0 x1 hb
      generalize wr.alloc (.cells #[.int .i64 c, .int .i32 u] 30) = w3 at *
      generalize wr.heap.size = pb at *
      have hfl : i < (Fill L i n).length := by rw [fill_len hn0.out hi]; exact hlt
      obtain ⟨g', eg, hgl, hf, hcs⟩ := hO2.out.at (List.ne_nil_of_length_pos (by omega))
      cases eg
      obtain ⟨v0, c0⟩ : ∃ v, w3.cell? ⟨g, i * 2, none⟩ = some v := ⟨_, hcs i hfl 0 _ rfl⟩
      obtain ⟨v1, c1⟩ : ∃ v, w3.cell? ⟨g, i * 2 + 1, none⟩ = some v := ⟨_, hcs i hfl 1 _ rfl⟩
      have hO3 := Hid.mk' (own_set2 hO2.out hfl c u)
      have hset := fill_set hn0.out hlt
      rw [hea.out] at hset
      rw [hset] at hO3
      have hG3 : Hid (w.grownBy ((w3.setCell ⟨g, i * 2, none⟩ (.int .i64 c)).setCell ⟨g, i * 2 + 1, none⟩ (.int .i32 u)) none) := Hid.mk' (grownBy_new hG2.out (grownBy_trans (grownBy_setCell w3 ⟨g, i * 2, none⟩ _) (grownBy_setCell _ ⟨g, i * 2 + 1, none⟩ _)) (fun k hk => by have := Option.some.inj hk; have h2 := hg1.out; simp only at this; omega))
      clear hcs hset hfl hO2 hG2
      go_wp2_with fail
      go_roundw
      case rel => exact ⟨i + 1, by omega, by go_num, hO3, hG3⟩
      case measure => simp [intOf]; omega
    · obtain rfl : i = n := by omega
      have hlt' : ¬ (i : Int) < (i : Int) := by omega
      go_wp2_with fail
      go_ret
      exact ⟨g, rfl, by have := hO.out; rwa [fill_all hn0.out] at this, hG.out, by rw [hg1.out]; exact Nat.le_refl _⟩

/-- The pairs turned about. -/
def turned (L : List Pr) : List Pr := L.map (fun p => (p.2, p.1))
theorem at_turned {L : List Pr} {i : Nat} (hi : i < L.length) {c u : Int} (h : L[i] = (c, u)) : at_ (turned L) i = (u, c) := by
  rw [at_eq (by simpa [turned] using hi)]
  simp [turned, h]

set_option maxRecDepth 100000 in
set_option maxHeartbeats 1000000 in
theorem byScalar_any (ao : Option Addr) (cap : Nat) (L : List Pr) (n : Nat) (hn : L.length = n) (hn2 : n ≤ 65536) (w : World) (hB : PE.Rd w ao L) (hc : n ≤ cap) (hcm : cap ≤ 9223372036854775807) (hr : ∀ p ∈ L, 0 ≤ p.1 ∧ p.1 ≤ 16777215 ∧ 0 ≤ p.2 ∧ p.2 ≤ 1114111) (hst : St (turned L)) :
    Calls Try.prog 22 #[.slice ao n cap] w fun e w' => ∃ g m D, e = .returned (.slice (some ⟨g, 0, none⟩) m n) ∧ m = (comp D).length ∧ m ≤ n ∧ D.Perm (turned L) ∧ SL D ∧ EE.Rd w' (some ⟨g, 0, none⟩) (comp D) ∧ w.grownBy w' none := by
  have hB0 := Hid.mk' hB
  have hn0 := Hid.mk' hn
  have hr0 := Hid.mk' hr
  have hst0 := Hid.mk' hst
  have htn : Hid ((turned L).length = n) := Hid.mk' (by simpa [turned] using hn)
  obtain ⟨w1, hmk, hown, hgr⟩ := make_ent w n (by omega)
  have ho0 := Hid.mk' hown
  have hg0 := Hid.mk' hgr
  have hcI : (n : Int) ≤ (cap : Int) := by omega
  clear hB hn hown hgr hr hst
  go_enter Try.func22, Try.ntmps22
  go_wp2_with fail
  obtain ⟨g, hg⟩ : ∃ g, g = w.heap.size := ⟨_, rfl⟩
  rw [← hg] at ho0 ⊢
  have hg1 := Hid.mk' hg
  clear hg hmk
  go_loopw [11] (fun t11 wx => ∃ (i : Nat), i ≤ n ∧ t11 = .int .i64 (i : Int) ∧ Hid (EE.Own wx (some ⟨g, 0, none⟩) n (Fill (turned L) i n)) ∧ Hid (w.grownBy wx none)) (fun t11 _ => n - (intOf t11).toNat)
  case atStart => exact ⟨0, by omega, rfl, Hid.mk' (by rw [fill_zero]; exact ho0.out), hg0⟩
  case round =>
    obtain ⟨i, hi, rfl, hO, hG⟩ := hrel
    clear ho0 hg0
    by_cases hlt : i < n
    · have hlL : i < L.length := by rw [hn0.out]; exact hlt
      obtain ⟨c, u, he⟩ : ∃ c u, L[i] = (c, u) := ⟨_, _, rfl⟩
      obtain ⟨b, o, rfl, hb, x0, x1⟩ := pcells (hB0.out.kept0 hG.out) hlL he
      have hlt' : (i : Int) < (n : Int) := by omega
      have hiz : (0 : Int) ≤ (i : Int) := by omega
      have hea : Hid (at_ (turned L) i = (u, c)) := Hid.mk' (at_turned hlL he)
      obtain ⟨r1, r2, r3, r4⟩ := hr0.out (c, u) (by rw [← he]; exact List.getElem_mem hlL)
      simp only at r1 r2 r3 r4
      have hw : IntKind.i32.wrap c = c := by rw [IntKind.wrap_i32]; omega
      clear he hlL
      go_upto_region 5 with fail
      have hO2 := Hid.mk' (hO.out.alloc (.cells #[.int .i64 c, .int .i32 u] 30))
      have hG2 := Hid.mk' (grownBy_trans hG.out (World.grownBy_alloc wr (.cells #[.int .i64 c, .int .i32 u] 30) none))
      have p0 := cell_at (heap_alloc_new wr (.cells #[.int .i64 c, .int .i32 u] 30)) 0 (v := .int .i64 c) rfl
      have p1 := cell_at (heap_alloc_new wr (.cells #[.int .i64 c, .int .i32 u] 30)) 1 (v := .int .i32 u) rfl
      clear hO hG x0 x1 hb
      generalize wr.alloc (.cells #[.int .i64 c, .int .i32 u] 30) = w3 at *
      generalize wr.heap.size = pb at *
      have hfl : i < (Fill (turned L) i n).length := by rw [fill_len htn.out hi]; exact hlt
      obtain ⟨g', eg, hgl, hf, hcs⟩ := hO2.out.at (List.ne_nil_of_length_pos (by omega))
      cases eg
      obtain ⟨v0, c0⟩ : ∃ v, w3.cell? ⟨g, i * 2, none⟩ = some v := ⟨_, hcs i hfl 0 _ rfl⟩
      obtain ⟨v1, c1⟩ : ∃ v, w3.cell? ⟨g, i * 2 + 1, none⟩ = some v := ⟨_, hcs i hfl 1 _ rfl⟩
      have hO3 := Hid.mk' (own_set2 hO2.out hfl u c)
      have hset := fill_set htn.out hlt
      rw [hea.out] at hset
      rw [hset] at hO3
      have hG3 : Hid (w.grownBy ((w3.setCell ⟨g, i * 2, none⟩ (.int .i64 u)).setCell ⟨g, i * 2 + 1, none⟩ (.int .i32 c)) none) := Hid.mk' (grownBy_new hG2.out (grownBy_trans (grownBy_setCell w3 ⟨g, i * 2, none⟩ _) (grownBy_setCell _ ⟨g, i * 2 + 1, none⟩ _)) (fun k hk => by have := Option.some.inj hk; have h2 := hg1.out; simp only at this; omega))
      clear hcs hset hfl hO2 hG2
      go_wp2_with fail
      go_roundw
      case rel => exact ⟨i + 1, by omega, by go_num, hO3, hG3⟩
      case measure => simp [intOf]; omega
    · obtain rfl : i = n := by omega
      have hlt' : ¬ (i : Int) < (i : Int) := by omega
      have hsw : Hid (SW wr g (turned L) wr) := Hid.mk' ⟨by have := hO.out; rw [fill_all htn.out] at this; rwa [htn.out], grownBy_refl _ _⟩
      go_wp2_with (first
        | (go_at_call 39; refine (sortStable_any g i _ _ _ hsw.out htn.out hn2 hst0.out).mono ?_; rintro e w2 ⟨rfl, D, q1, q2, q3⟩)
        | (go_at_call 42; refine (compact_any g i D _ _ q1 (by rw [q2.length_eq, htn.out]) (by omega)).mono ?_; rintro e w3 ⟨m, rfl, m1, m2, m3, m4⟩; have m1' := Hid.mk' m1; clear m1))
      go_ret
      exact ⟨g, m, D, rfl, m1'.out, m2, q2, q3, m3, grownBy_new hG.out m4 (fun k hk => by have := Option.some.inj hk; rw [← this, hg1.out]; exact Nat.le_refl _)⟩
end Go.Proofs.Ytcoiddmgcoeocaa.Tr

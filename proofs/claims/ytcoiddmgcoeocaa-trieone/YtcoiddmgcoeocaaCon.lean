/- contentOf and inOneBlock: walks. -/
import Derived.Test.YtcoiddmgcoeocaaByc
import Derived.Test.YtcoiddmgcoeocaaKb
namespace Go.Proofs.Ytcoiddmgcoeocaa.Tr
open Go.ChangeShapes Go.WideShapes Go.ChangeAt Go.RowKit Go.Maps Go.Proofs.Ytcoiddmgcoeocaa.Mem Go.Proofs.Ytcoiddmgcoeocaa.El Go.Sort Go.Proofs.Ytcoiddmgcoeocaa.Rn
set_option linter.unusedVariables false
set_option linter.unusedSimpArgs false

def conStep (zs : List Int) (q : Pr) : List Int := zs.set (q.1 % 64).toNat (q.2 + 1)
/-- A block's content: what stands at each place, one higher. -/
def conZ (M : List Pr) : List Int := M.foldl conStep (List.replicate 64 0)
theorem con_fold_len (M : List Pr) : ∀ zs : List Int, (M.foldl conStep zs).length = zs.length := by
  induction M with
  | nil => intro zs; rfl
  | cons q M ih => intro zs; rw [List.foldl_cons, ih]; simp [conStep]
theorem conZ_len (M : List Pr) : (conZ M).length = 64 := by unfold conZ; rw [con_fold_len]; simp
theorem conZ_snoc (M : List Pr) (q : Pr) : conZ (M ++ [q]) = (conZ M).set (q.1 % 64).toNat (q.2 + 1) := by simp [conZ, List.foldl_append, conStep]
theorem ecells {w : World} {ao : Option Addr} {L : List Pr} (h : EE.Rd w ao L) {i : Nat} (hi : i < L.length) {c u : Int} (he : L[i] = (c, u)) :
    ∃ b o, ao = some ⟨b, o, none⟩ ∧ b < w.heap.size ∧ w.cell? ⟨b, o + i * 2, none⟩ = some (.int .i64 c) ∧ w.cell? ⟨b, o + i * 2 + 1, none⟩ = some (.int .i32 u) := by
  obtain ⟨b, o, rfl, hb, hc⟩ := h.at (List.ne_nil_of_length_pos (by omega)) (by decide)
  have e : EE.enc L[i] = [.int .i64 c, .int .i32 u] := by rw [he]; rfl
  refine ⟨b, o, rfl, hb, ?_, ?_⟩
  · exact hc i hi 0 _ (by rw [e]; rfl)
  · exact hc i hi 1 _ (by rw [e]; rfl)

set_option maxRecDepth 100000 in
set_option maxHeartbeats 1000000 in
theorem content_any (ao : Option Addr) (cap : Nat) (M : List Pr) (n : Nat) (hn : M.length = n) (hn2 : n ≤ 65536) (w : World) (hB : EE.Rd w ao M) (hc : n ≤ cap) (hcm : cap ≤ 9223372036854775807) (hr : ∀ p ∈ M, 0 ≤ p.1 ∧ 0 ≤ p.2 ∧ p.2 ≤ 16777215) :
    Calls Try.prog 38 #[.slice ao n cap] w fun e w' => e = .returned (arrV .i32 (conZ M)) ∧ w.grownBy w' none := by
  have hB0 := Hid.mk' hB
  have hn0 := Hid.mk' hn
  have hr0 := Hid.mk' hr
  clear hB hn hr
  go_enter Try.func38, Try.ntmps38
  go_upto_region 1 with (refine wpList_allocA _ rfl 81 rfl (List.replicate 64 0) (zeroT _) ?_; intro w1 ha1 hg1)
  go_wp2_with (refine wpList_allocA _ rfl 81 rfl (List.replicate 64 0) (zeroT _) ?_; intro w2 ha2 hg2)
  have hs0 : Hid (ArrAt w2 w1.heap.size 81 .i32 (conZ (M.take 0))) := Hid.mk' ha2
  have hs1 : Hid (ArrAt w2 w.heap.size 81 .i32 (List.replicate 64 0)) := Hid.mk' (ha1.kept0 hg2)
  have hs2 : Hid (w.grownBy w2 none) := Hid.mk' (grownBy_trans hg1 hg2)
  have hne : Hid (w.heap.size < w1.heap.size) := Hid.mk' ha1.lt
  clear ha1 ha2 hg1 hg2
  obtain ⟨B, hB⟩ : ∃ B, Hid (w1.heap.size = B) := ⟨_, Hid.mk' rfl⟩
  obtain ⟨A, hA⟩ : ∃ A, Hid (w.heap.size = A) := ⟨_, Hid.mk' rfl⟩
  rw [hB.out] at hs0 hne ⊢
  rw [hA.out] at hs1 hne ⊢
  go_loopw [8] (fun t8 wx => ∃ (i : Nat), i ≤ n ∧ t8 = .int .i64 (i : Int) ∧ Hid (ArrAt wx B 81 .i32 (conZ (M.take i))) ∧ Hid (ArrAt wx A 81 .i32 (List.replicate 64 0)) ∧ Hid (w.grownBy wx none)) (fun t8 _ => n - (intOf t8).toNat)
  case atStart => exact ⟨0, by omega, rfl, hs0, hs1, hs2⟩
  case round =>
    obtain ⟨i, hi, rfl, h1, h2, hG⟩ := hrel
    clear hs0 hs1 hs2
    by_cases hlt : i < n
    · have hlL : i < M.length := by rw [hn0.out]; exact hlt
      obtain ⟨c, u, he⟩ : ∃ c u, M[i] = (c, u) := ⟨_, _, rfl⟩
      obtain ⟨b, o, rfl, hb, x0, x1⟩ := ecells (hB0.out.kept0 hG.out) hlL he
      have hlt' : (i : Int) < (n : Int) := by omega
      have hiz : (0 : Int) ≤ (i : Int) := by omega
      obtain ⟨r1, r2, r3⟩ := hr0.out (c, u) (by rw [← he]; exact List.getElem_mem hlL)
      simp only at r1 r2 r3
      obtain ⟨j, hj⟩ : ∃ j : Nat, c % 64 = (j : Int) := ⟨(c % 64).toNat, by omega⟩
      have hj64 : j < 64 := by omega
      have hjI : (j : Int) < 64 := by omega
      have hj0 : (0 : Int) ≤ (j : Int) := by omega
      have hmod : c.tmod 64 = (j : Int) := by rw [Int.tmod_eq_emod_of_nonneg r1, hj]
      have hw : IntKind.i32.wrap (u + 1) = u + 1 := by rw [IntKind.wrap_i32]; omega
      have hsn : Hid (conZ (M.take (i + 1)) = (conZ (M.take i)).set j (u + 1)) := Hid.mk' (by rw [List.take_succ_eq_append_getElem hlL, conZ_snoc, he]; simp only [hj, Int.toNat_natCast])
      clear he hlL
      have g1 := Hid.mk' (h1.out.kept0 (World.grownBy_alloc wr (.cells #[.int .i64 c, .int .i32 u] 76) none))
      have g2 := Hid.mk' (h2.out.kept0 (World.grownBy_alloc wr (.cells #[.int .i64 c, .int .i32 u] 76) none))
      have g3 := Hid.mk' (grownBy_trans hG.out (World.grownBy_alloc wr (.cells #[.int .i64 c, .int .i32 u] 76) none))
      have p0 := cell_at (heap_alloc_new wr (.cells #[.int .i64 c, .int .i32 u] 76)) 0 (v := .int .i64 c) rfl
      have p1 := cell_at (heap_alloc_new wr (.cells #[.int .i64 c, .int .i32 u] 76)) 1 (v := .int .i32 u) rfl
      go_upto_region 5 with fail
      clear h1 h2 hG x0 x1 hb
      generalize wr.alloc (.cells #[.int .i64 c, .int .i32 u] 76) = w3 at *
      generalize wr.heap.size = pb at *
      obtain ⟨v0, c0⟩ : ∃ v, w3.cell? ⟨B, j, none⟩ = some v := ⟨_, g1.out.cell j (by rw [conZ_len]; exact hj64)⟩
      have f0 := g1.out.free j
      have q1 := Hid.mk' (g1.out.set j (u + 1))
      rw [← hsn.out] at q1
      have q2 : Hid (ArrAt (w3.setCell ⟨B, j, none⟩ (.int .i32 (u + 1))) A 81 .i32 (List.replicate 64 0)) := Hid.mk' (g2.out.kept (grownBy_setCell w3 ⟨B, j, none⟩ _) (by intro e; have h5 := Option.some.inj e; have := hne.out; simp only at h5; omega))
      have q3 : Hid (w.grownBy (w3.setCell ⟨B, j, none⟩ (.int .i32 (u + 1))) none) := Hid.mk' (grownBy_new g3.out (grownBy_setCell w3 ⟨B, j, none⟩ _) (fun k hk => by have h5 := Option.some.inj hk; have := hne.out; have h6 := hA.out; simp only at h5; omega))
      clear g1 g2 g3
      go_wp2_with fail
      go_roundw
      case rel => exact ⟨i + 1, by omega, by go_num, q1, q2, q3⟩
      case measure => simp [intOf]; omega
    · obtain rfl : i = n := by omega
      have hlt' : ¬ (i : Int) < (i : Int) := by omega
      have h1' : Hid (ArrAt wr B 81 .i32 (conZ M)) := Hid.mk' (by have := h1.out; rwa [List.take_of_length_le (by rw [hn0.out]; exact Nat.le_refl _)] at this)
      clear h1
      go_wp2_with (first
        | (refine wpList_loadA _ rfl 81 _ rfl 64 _ Try.underlying81 infoT B (conZ M) (conZ_len M) rfl h1'.out ?_)
        | (refine wpList_storeA _ rfl 81 _ _ rfl 64 infoT A (List.replicate 64 0) (conZ M) (by simp) (conZ_len M) rfl rfl h2.out ?_; intro w4 ha4 hg4))
      refine bodyPost_ret (v := arrV .i32 (conZ M)) (results_cell_row Try.results38 _ w4 A 81 _ (0, 0) _ rfl ha4 Try.underlying81 rfl (by rw [infoT]; simp [conZ_len])) rfl ⟨rfl, ?_⟩
      exact grownBy_new hG.out hg4 (fun k hk => by have h5 := Option.some.inj hk; have := hne.out; have h6 := hA.out; omega)
end Go.Proofs.Ytcoiddmgcoeocaa.Tr

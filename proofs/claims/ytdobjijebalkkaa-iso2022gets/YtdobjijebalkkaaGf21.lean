/- IF21, IRp21, joined. -/
import Derived.Test.YtdobjijebalkkaaIP21
import Derived.Test.YtdobjijebalkkaaCw
import Derived.Test.YtdobjijebalkkaaCs
import Derived.Test.YtdobjijebalkkaaAr
import Derived.Test.YtdobjijebalkkaaRegion
import Derived.Deep.LoopGhost
import Derived.Deep.RegionHeld3
import Derived.BigQuiet
/- The program's sequencesOf and front of layer 21: walks. -/
namespace Go.Proofs.Ytdobjijebalkkaa.C21
open Go.ChangeShapes Go.WideShapes Go.ChangeAt Go.RowKit Go.Proofs.Ytdobjijebalkkaa.Mem Go.Proofs.Ytdobjijebalkkaa.Cb Go.Proofs.Ytdobjijebalkkaa.Sp Go.Proofs.Ytdobjijebalkkaa.Ar
set_option linter.unusedVariables false
set_option linter.unusedSimpArgs false

abbrev qC (s : ByteArray) (m : Int) : Array Value := #[.string s, .int .i64 m]
theorem infoQ : (Try.prog.info? 46).map (·.size) = some 2 := by kernel_rfl
theorem zeroQ (w : World) : (zeroValue 46).run Try.prog w = .ok (.agg (qC ⟨#[]⟩ 0)) w := by kernel_rfl
theorem qC_one (s : ByteArray) (m : Int) : (qC s m).all (·.oneCell') = true := by kernel_rfl
/-- The sequences of a kind in a Mode. -/
def sqs (k : Int) (m : Nat) : List (List UInt8 × Int) := if k = 83 then [([27, 40, 66], 0), ([27, 40, 74], 1), ([27, 36, 64], 2), ([27, 36, 66], 2)] else if m = 0 then [([27, 36, 41, 67], 1)] else [([27, 36, 41, 67], (m : Int)), ([14], 2), ([15], 1)]
/-- A row of sequences in memory. -/
def Sqs (w : World) (A : Nat) (Q : List (List UInt8 × Int)) : Prop := ∀ (i : Nat) (h : i < Q.length), w.cell? ⟨A, i * 2, none⟩ = some (.string (str Q[i].1)) ∧ w.cell? ⟨A, i * 2 + 1, none⟩ = some (.int .i64 Q[i].2)
set_option maxRecDepth 100000 in
set_option maxHeartbeats 1000000 in
theorem so_j (m : Int) (w : World) : Calls Try.prog 19 #[.int .i64 83, .int .i64 m] w fun e w' => e = .returned (.slice (some ⟨w.heap.size, 0, none⟩) 4 4) ∧ (∀ wx, w'.grownBy wx none → wx.heap[w.heap.size]? = some (.cells #[.string ⟨#[27, 40, 66]⟩, .int .i64 0, .string ⟨#[27, 40, 74]⟩, .int .i64 1, .string ⟨#[27, 36, 64]⟩, .int .i64 2, .string ⟨#[27, 36, 66]⟩, .int .i64 2] 46 (0, 0))) ∧ w.grownBy w' none := by
  go_enter Try.func19, Try.ntmps19
  go_wp2
  go_ret
  exact ⟨rfl, fun wx hg => blk_kept (heap_alloc_new w _) hg, World.grownBy_alloc _ _ _⟩
set_option maxRecDepth 100000 in
set_option maxHeartbeats 1000000 in
theorem so_k0 (w : World) : Calls Try.prog 19 #[.int .i64 88, .int .i64 0] w fun e w' => e = .returned (.slice (some ⟨w.heap.size, 0, none⟩) 1 1) ∧ (∀ wx, w'.grownBy wx none → wx.heap[w.heap.size]? = some (.cells #[.string ⟨#[27, 36, 41, 67]⟩, .int .i64 1] 46 (0, 0))) ∧ w.grownBy w' none := by
  go_enter Try.func19, Try.ntmps19
  go_wp2
  go_ret
  exact ⟨rfl, fun wx hg => blk_kept (heap_alloc_new w _) hg, World.grownBy_alloc _ _ _⟩
set_option maxRecDepth 100000 in
set_option maxHeartbeats 1000000 in
theorem so_k1 (w : World) : Calls Try.prog 19 #[.int .i64 88, .int .i64 1] w fun e w' => e = .returned (.slice (some ⟨w.heap.size, 0, none⟩) 3 3) ∧ (∀ wx, w'.grownBy wx none → wx.heap[w.heap.size]? = some (.cells #[.string ⟨#[27, 36, 41, 67]⟩, .int .i64 1, .string ⟨#[14]⟩, .int .i64 2, .string ⟨#[15]⟩, .int .i64 1] 46 (0, 0))) ∧ w.grownBy w' none := by
  go_enter Try.func19, Try.ntmps19
  go_wp2
  go_ret
  exact ⟨rfl, fun wx hg => blk_kept (heap_alloc_new w _) hg, World.grownBy_alloc _ _ _⟩
set_option maxRecDepth 100000 in
set_option maxHeartbeats 1000000 in
theorem so_k2 (w : World) : Calls Try.prog 19 #[.int .i64 88, .int .i64 2] w fun e w' => e = .returned (.slice (some ⟨w.heap.size, 0, none⟩) 3 3) ∧ (∀ wx, w'.grownBy wx none → wx.heap[w.heap.size]? = some (.cells #[.string ⟨#[27, 36, 41, 67]⟩, .int .i64 2, .string ⟨#[14]⟩, .int .i64 2, .string ⟨#[15]⟩, .int .i64 1] 46 (0, 0))) ∧ w.grownBy w' none := by
  go_enter Try.func19, Try.ntmps19
  go_wp2
  go_ret
  exact ⟨rfl, fun wx hg => blk_kept (heap_alloc_new w _) hg, World.grownBy_alloc _ _ _⟩
theorem so_any (k : Int) (hk : k = 83 ∨ k = 88) (m : Nat) (hm : m < 3) (w : World) : Calls Try.prog 19 #[.int .i64 k, .int .i64 (m : Int)] w fun e w' => ∃ A, e = .returned (.slice (some ⟨A, 0, none⟩) (sqs k m).length (sqs k m).length) ∧ (∀ wx, w'.grownBy wx none → Sqs wx A (sqs k m)) ∧ w.grownBy w' none := by
  rcases hk with rfl | rfl
  · refine (so_j (m : Int) w).mono (fun e w' h => ⟨w.heap.size, h.1, fun wx hg i hi => ?_, h.2.2⟩)
    have hb := h.2.1 wx hg
    have hi2 : i < 4 := hi
    match i, hi2 with
    | 0, _ => exact ⟨cell_at hb 0 rfl, cell_at hb 1 rfl⟩
    | 1, _ => exact ⟨cell_at hb 2 rfl, cell_at hb 3 rfl⟩
    | 2, _ => exact ⟨cell_at hb 4 rfl, cell_at hb 5 rfl⟩
    | 3, _ => exact ⟨cell_at hb 6 rfl, cell_at hb 7 rfl⟩
  · match m, hm with
    | 0, _ =>
      · refine (so_k0 w).mono (fun e w' h => ⟨w.heap.size, h.1, fun wx hg i hi => ?_, h.2.2⟩)
        have hb := h.2.1 wx hg
        have hi2 : i < 1 := hi
        match i, hi2 with
        | 0, _ => exact ⟨cell_at hb 0 rfl, cell_at hb 1 rfl⟩
    | 1, _ =>
      · refine (so_k1 w).mono (fun e w' h => ⟨w.heap.size, h.1, fun wx hg i hi => ?_, h.2.2⟩)
        have hb := h.2.1 wx hg
        have hi2 : i < 3 := hi
        match i, hi2 with
        | 0, _ => exact ⟨cell_at hb 0 rfl, cell_at hb 1 rfl⟩
        | 1, _ => exact ⟨cell_at hb 2 rfl, cell_at hb 3 rfl⟩
        | 2, _ => exact ⟨cell_at hb 4 rfl, cell_at hb 5 rfl⟩
    | 2, _ =>
      · refine (so_k2 w).mono (fun e w' h => ⟨w.heap.size, h.1, fun wx hg i hi => ?_, h.2.2⟩)
        have hb := h.2.1 wx hg
        have hi2 : i < 3 := hi
        match i, hi2 with
        | 0, _ => exact ⟨cell_at hb 0 rfl, cell_at hb 1 rfl⟩
        | 1, _ => exact ⟨cell_at hb 2 rfl, cell_at hb 3 rfl⟩
        | 2, _ => exact ⟨cell_at hb 4 rfl, cell_at hb 5 rfl⟩
/-- Does a text stand at the front of bytes? 0: yes; 1: the bytes end within it; 2: no. -/
def mt : List UInt8 → List UInt8 → Nat
  | [], _ => 0
  | _ :: _, [] => 1
  | a :: s, b :: L => if b = a then mt s L else 2
def frP (L : List UInt8) : List (List UInt8 × Int) → List UInt8 × Int × Int
  | [] => ([], 0, 11)
  | q :: r => if mt q.1 L = 0 then (q.1, q.2, 0) else if mt q.1 L = 1 then ([], 0, 1) else frP L r
theorem mt_step {s L : List UInt8} {i : Nat} (h1 : i < s.length) (h2 : i < L.length) : mt (s.drop i) (L.drop i) = if L[i] = s[i] then mt (s.drop (i + 1)) (L.drop (i + 1)) else 2 := by
  rw [List.drop_eq_getElem_cons h1, List.drop_eq_getElem_cons h2]
  rfl
theorem mt_more {s L : List UInt8} {i : Nat} (h1 : i < s.length) (h2 : L.length ≤ i) : mt (s.drop i) (L.drop i) = 1 := by
  rw [List.drop_eq_getElem_cons h1, List.drop_eq_nil_of_le h2]
  rfl
theorem mt_end {s L : List UInt8} {i : Nat} (h1 : s.length ≤ i) : mt (s.drop i) (L.drop i) = 0 := by
  rw [List.drop_eq_nil_of_le h1]
  rfl
theorem byte_at {w : World} {ao : Option Addr} {L : List UInt8} (h : Bytes w ao L) (i : Nat) (hi : i < L.length) : ∃ g o, ao = some ⟨g, o, none⟩ ∧ ∀ wx, w.grownBy wx none → wx.cell? ⟨g, o + i, none⟩ = some (.int .u8 (L[i].toNat : Int)) := by
  rcases h with ⟨_, h⟩ | ⟨a, rfl, hcell⟩
  · rw [h] at hi; simp at hi
  · obtain ⟨g, o, sp⟩ := a
    have hb0 := hcell i hi
    have hb00 := hcell 0 (by omega)
    have hsp : sp = none := by simpa [Addr.add] using World.cell?_spot hb00
    subst hsp
    refine ⟨g, o, rfl, fun wx hg => ?_⟩
    have hlt := World.block_lt_of_cell? w _ hb0
    rw [addr_add] at hb0
    simp only [addr_add] at hlt
    have := hg.block g hlt (by simp)
    simpa [World.cell?, this] using hb0
set_option maxRecDepth 100000 in
set_option maxHeartbeats 4000000 in
theorem front_any (ao : Option Addr) (cap : Nat) (L : List UInt8) (n : Nat) (hn : L.length = n) (A : Nat) (Q : List (List UInt8 × Int)) (c : Nat) (hc : Q.length = c) (hc4 : c ≤ 4) (w : World) (hB : Bytes w ao L) (hl : n ≤ cap) (hcm : cap ≤ 9223372036854775807) (hQ : Hid (∀ wx, w.grownBy wx none → Sqs wx A Q)) (R1 : ByteArray) (R2 R3 : Int) (hR : Hid ((str (frP L Q).1, (frP L Q).2.1, (frP L Q).2.2) = (R1, R2, R3))) :
    Calls Try.prog 18 #[.slice ao n cap, .slice (some ⟨A, 0, none⟩) c c] w fun e w' => e = .returned (.tuple #[.agg (qC R1 R2), .int .i64 R3]) ∧ w.grownBy w' none := by
  have HB := Hid.mk' hB
  have HN := Hid.mk' hn
  have HC := Hid.mk' hc
  clear hB hn hc
  go_enter Try.func18, Try.ntmps18
  go_upto_region 1 with (refine wpList_allocC _ rfl 46 rfl (qC ⟨#[]⟩ 0) (zeroQ _) ?_; intro w1 rs1 hg1)
  have hG1 := Hid.mk' hg1
  obtain ⟨B, hBe⟩ : ∃ B, Hid (w.heap.size = B) := ⟨_, Hid.mk' rfl⟩
  have hB2 : w.heap.size ≤ B := by rw [← hBe.out]; exact Nat.le_refl _
  rw [hBe.out] at rs1
  rw [hBe.out]
  have RS := Hid.mk' rs1
  clear hg1 rs1 hBe
  go_wp2
  go_step3
  go_wp2
  go_step3
  go_wp2
  go_loopg [11] c (fun g t11 wx => ∃ j : Nat, j + g = c ∧ t11 = .int .i64 (j : Int) ∧ Hid ((str (frP L (Q.drop j)).1, (frP L (Q.drop j)).2.1, (frP L (Q.drop j)).2.2) = (R1, R2, R3)) ∧ Hid (w1.grownBy wx none))
  case atStart => exact ⟨0, by omega, rfl, hR, Hid.mk' (grownBy_refl _ _)⟩
  case round =>
    obtain ⟨j, hjg, rfl, HJ, hgx⟩ := hrel
    have rsr := RS.out.kept0 hgx.out
    cases gk with
    | zero =>
      have hjz : ¬ ((j : Int) < (c : Int)) := by omega
      have e := HJ.out
      rw [List.drop_eq_nil_of_le (by have := HC.out; omega)] at e
      simp only [frP, Prod.mk.injEq] at e
      obtain ⟨rfl, rfl, rfl⟩ := e
      clear HJ
      go_wp2_with (refine wpList_storeC _ rfl 46 _ _ rfl B (qC ⟨#[]⟩ 0) (qC ⟨#[]⟩ 0) infoQ rfl (qC_one _ _) rfl rfl rsr ?_; intro wz rsz hgz)
      try rw [Exit.noGoto_ret]
      refine bodyPost_ret (v := .tuple #[.agg (qC ⟨#[]⟩ 0), .int .i64 11]) (results_cell_row_tmp Try.results18 _ wz B 46 _ (0, 0) _ rfl rsz Try.underlying46 rfl infoQ _ rfl) rfl ⟨rfl, ?_⟩
      exact grownBy_new (gt hG1.out hgx.out) hgz (fun k hk => by have h5 := Option.some.inj hk; omega)
    | succ g =>
      have hjz : (j : Int) < (c : Int) := by omega
      have hj0 : j < Q.length := by have := HC.out; omega
      obtain ⟨s, m, he⟩ : ∃ s m, Q[j] = (s, m) := ⟨_, _, rfl⟩
      obtain ⟨x0, x1⟩ := hQ.out wr (gt hG1.out hgx.out) j hj0
      rw [he] at x0 x1
      have hdr : Q.drop j = (s, m) :: Q.drop (j + 1) := by rw [List.drop_eq_getElem_cons hj0, he]
      have HJ2 := HJ.out
      rw [hdr] at HJ2
      have HJ3 := Hid.mk' HJ2
      obtain ⟨t, ht⟩ : ∃ t, Hid (str s = t) := ⟨_, Hid.mk' rfl⟩
      obtain ⟨z, hz0⟩ : ∃ z, Hid (s.length = z) := ⟨_, Hid.mk' rfl⟩
      have hz : t.size = z := by rw [← ht.out, str_size, hz0.out]
      simp only [ht.out] at x0
      clear he hdr HJ2 HJ
      go_upto_region 4 with (first
        | (refine wpList_allocC _ rfl 46 rfl (qC ⟨#[]⟩ 0) (zeroQ _) ?_; intro w2 v2 hg2)
        | (refine wpList_storeC _ rfl 46 _ _ rfl wr.heap.size (qC ⟨#[]⟩ 0) (qC t m) infoQ rfl (qC_one _ _) rfl rfl v2 ?_; intro w3 v3 hg3))
      have hne : Hid (B < wr.heap.size) := Hid.mk' rsr.lt
      have rs3 := (rsr.kept0 hg2).kept hg3 (by have := hne.out; intro e; have h5 := Option.some.inj e; omega)
      have hg13 : Hid (wr.grownBy w3 none) := Hid.mk' (grownBy_new hg2 hg3 (fun k hk => by have h5 := Option.some.inj hk; omega))
      have HG3 : Hid (w1.grownBy w3 none) := Hid.mk' (gt hgx.out hg13.out)
      have RS3 := Hid.mk' rs3
      obtain ⟨QB, hQB⟩ : ∃ b, Hid (wr.heap.size = b) := ⟨_, Hid.mk' rfl⟩
      rw [hQB.out] at v3
      rw [hQB.out]
      have V3 := Hid.mk' v3
      have y0 := v3.cell 0 rfl
      clear v2 hg2 hg3 rsr rs3 v3 x0 x1 hne hg13 hQB
      obtain ⟨M, hM⟩ : ∃ M, Hid (mt s L = M) := ⟨_, Hid.mk' rfl⟩
      go_wp2
      clear y0
      go_loopg [18] z (fun g2 t18 wy => ∃ i : Nat, i + g2 = z ∧ i ≤ n ∧ t18 = .int .i64 (i : Int) ∧ Hid (mt (s.drop i) (L.drop i) = M) ∧ Hid (w3.grownBy wy none))
      case atStart => exact ⟨0, by omega, by omega, rfl, hM, Hid.mk' (grownBy_refl _ _)⟩
      case round =>
        obtain ⟨i, hig, hin, rfl, HI, hgy⟩ := hrel
        have rsy := RS3.out.kept0 hgy.out
        have vy := V3.out.kept0 hgy.out
        cases gk with
        | zero =>
          have hiz : ¬ ((i : Int) < (z : Int)) := by omega
          have hM0 : mt s L = 0 := by rw [hM.out, ← HI.out, mt_end (by rw [hz0.out]; omega)]
          have e := HJ3.out
          rw [frP, if_pos hM0] at e
          simp only [Prod.mk.injEq, ht.out] at e
          obtain ⟨rfl, rfl, rfl⟩ := e
          clear HJ3 hM HI hM0
          go_wp2_with (first
            | (refine wpList_loadC _ rfl 46 _ rfl _ Try.underlying46 rfl QB (qC t m) infoQ rfl vy ?_)
            | (refine wpList_storeC _ rfl 46 _ _ rfl B (qC ⟨#[]⟩ 0) (qC t m) infoQ rfl (qC_one _ _) rfl rfl rsy ?_; intro wz rsz hgz))
          try rw [Exit.noGoto_ret]
          refine bodyPost_ret (v := .tuple #[.agg (qC t m), .int .i64 0]) (results_cell_row_tmp Try.results18 _ wz B 46 _ (0, 0) _ rfl rsz Try.underlying46 rfl infoQ _ rfl) rfl ⟨rfl, ?_⟩
          exact grownBy_new (gt hG1.out (gt HG3.out hgy.out)) hgz (fun k hk => by have h5 := Option.some.inj hk; omega)
        | succ g2 =>
          have hiz : (i : Int) < (z : Int) := by omega
          have his : i < s.length := by rw [hz0.out]; omega
          by_cases hil : i = n
          · have hM1 : mt s L = 1 := by rw [hM.out, ← HI.out, mt_more his (by rw [HN.out]; omega)]
            have e := HJ3.out
            rw [frP, if_neg (by rw [hM1]; omega), if_pos hM1] at e
            simp only [Prod.mk.injEq] at e
            obtain ⟨rfl, rfl, rfl⟩ := e
            have hin2 : ((i : Int) == (n : Int)) = true := by simp; omega
            clear HJ3 hM HI hM1 hil
            go_wp2_with (refine wpList_storeC _ rfl 46 _ _ rfl B (qC ⟨#[]⟩ 0) (qC ⟨#[]⟩ 0) infoQ rfl (qC_one _ _) rfl rfl rsy ?_; intro wz rsz hgz)
            try rw [Exit.noGoto_ret]
            refine bodyPost_ret (v := .tuple #[.agg (qC ⟨#[]⟩ 0), .int .i64 1]) (results_cell_row_tmp Try.results18 _ wz B 46 _ (0, 0) _ rfl rsz Try.underlying46 rfl infoQ _ rfl) rfl ⟨rfl, ?_⟩
            exact grownBy_new (gt hG1.out (gt HG3.out hgy.out)) hgz (fun k hk => by have h5 := Option.some.inj hk; omega)
          · have hin2 : ((i : Int) == (n : Int)) = false := by simp; omega
            have hL : i < L.length := by rw [HN.out]; omega
            have hin3 : (i : Int) < (n : Int) := by omega
            obtain ⟨g0, o0, rfl, hcell⟩ := byte_at HB.out i hL
            obtain ⟨a, hA⟩ : ∃ a, Hid (s[i] = a) := ⟨_, Hid.mk' rfl⟩
            obtain ⟨b, hBb⟩ : ∃ b, Hid (L[i] = b) := ⟨_, Hid.mk' rfl⟩
            have hst := mt_step his hL
            rw [hA.out, hBb.out] at hst
            rw [hBb.out] at hcell
            have hix : ∀ wx, (Instr.index 9 (.string t) (.int .i64 (i : Int))).run Try.prog wx = .ok (.int .u8 (a.toNat : Int)) wx := fun wx => by rw [← ht.out]; exact index_of (by rw [List.getElem?_eq_getElem his, hA.out]) wx
            have hcl : Hid (∀ wx, wr.grownBy wx none → wx.cell? ⟨g0, o0 + i, none⟩ = some (.int .u8 (b.toNat : Int)) ∧ wx.cell? ⟨QB, 0, none⟩ = some (.string t)) := Hid.mk' (fun wx hg => ⟨hcell wx (gt hG1.out (gt HG3.out (gt hgy.out hg))), (vy.kept0 hg).cell 0 rfl⟩)
            have hst2 := Hid.mk' hst
            clear hcell hst vy rsy
            go_upto_region 9 with fail
            by_cases hab : b = a
            · have hnn : ((b.toNat : Int) == (a.toNat : Int)) = true := by rw [hab]; simp
              have hst3 := hst2.out
              rw [if_pos hab] at hst3
              have HI2 : Hid (mt (s.drop (i + 1)) (L.drop (i + 1)) = M) := Hid.mk' (by rw [← hst3]; exact HI.out)
              clear hst2 hst3 HI hA hBb hab
              refine wp_region_held_drew (S := fun w' => w'.cell? ⟨g0, o0 + i, none⟩ = some (.int .u8 (b.toNat : Int)) ∧ w'.cell? ⟨QB, 0, none⟩ = some (.string t)) (by kernel_rfl) (hcl.out _ (gd (grownBy_refl _ _))) (fun hHeld => ?_)
              refine wpAnyH_take (i := 0) (v := ?_) rfl (by kernel_rfl) (by kernel_rfl) (by kernel_rfl) (fun _ _ _ h => h) (Or.inl ⟨by rfl, ?_⟩) (by assumption) ?_; rotate_left
              · (intro w hSw; (try dsimp only at hSw); go_simp; try with_reducible rfl)
              try simp only [List.getElem_toArray, List.getElem_cons_zero, Act.put, List.setIfInBounds_toArray, List.set_cons_zero, List.set_cons_succ]
              refine wpAnyH_take (i := 1) (v := ?_) rfl (by kernel_rfl) (by kernel_rfl) (by kernel_rfl) (fun _ _ _ h => h) (Or.inl ⟨by rfl, ?_⟩) (by assumption) ?_; rotate_left
              · (intro w hSw; (try dsimp only at hSw); go_simp; try with_reducible rfl)
              try simp only [List.getElem_toArray, List.getElem_cons_zero, List.getElem_cons_succ, Act.put, List.setIfInBounds_toArray, List.set_cons_zero, List.set_cons_succ]
              refine wpAnyH_take (i := 2) (v := ?_) rfl (by kernel_rfl) (by kernel_rfl) (by kernel_rfl) (fun _ _ _ h => h) (Or.inl ⟨by rfl, ?_⟩) (by assumption) ?_; rotate_left
              · (intro w hSw; (try dsimp only at hSw); go_simp; try with_reducible rfl)
              try simp only [List.getElem_toArray, List.getElem_cons_zero, List.getElem_cons_succ, Act.put, List.setIfInBounds_toArray, List.set_cons_zero, List.set_cons_succ]
              refine wpAnyH_take (i := 3) (v := ?_) rfl (by kernel_rfl) (by kernel_rfl) (by kernel_rfl) (fun _ _ _ h => h) (Or.inl ⟨by rfl, ?_⟩) (by assumption) ?_; rotate_left
              · (intro w hSw; (try dsimp only at hSw); go_simp; try with_reducible rfl)
              try simp only [List.getElem_toArray, List.getElem_cons_zero, List.getElem_cons_succ, Act.put, List.setIfInBounds_toArray, List.set_cons_zero, List.set_cons_succ]
              refine wpAnyH_take (i := 4) (v := ?_) rfl (by kernel_rfl) (by kernel_rfl) (by kernel_rfl) (fun _ _ _ h => h) (Or.inl ⟨by rfl, ?_⟩) (by assumption) ?_; rotate_left
              · (intro w hSw; (try dsimp only at hSw); go_simp; try with_reducible rfl)
              try simp only [List.getElem_toArray, List.getElem_cons_zero, List.getElem_cons_succ, Act.put, List.setIfInBounds_toArray, List.set_cons_zero, List.set_cons_succ]
              refine wpAnyH_take (i := 5) (v := ?_) rfl (by kernel_rfl) (by kernel_rfl) (by kernel_rfl) (fun _ _ _ h => h) (Or.inl ⟨by rfl, ?_⟩) (by assumption) ?_; rotate_left
              · (intro w hSw; (try dsimp only at hSw); go_simp; try with_reducible rfl)
              try simp only [List.getElem_toArray, List.getElem_cons_zero, List.getElem_cons_succ, Act.put, List.setIfInBounds_toArray, List.set_cons_zero, List.set_cons_succ]
              refine wpAnyH_take (i := 6) (v := ?_) rfl (by kernel_rfl) (by kernel_rfl) (by kernel_rfl) (fun _ _ _ h => h) (Or.inl ⟨by rfl, ?_⟩) (by assumption) ?_; rotate_left
              · (intro w hSw; (try dsimp only at hSw); go_simp; try with_reducible rfl)
              try simp only [List.getElem_toArray, List.getElem_cons_zero, List.getElem_cons_succ, Act.put, List.setIfInBounds_toArray, List.set_cons_zero, List.set_cons_succ]
              refine wpAnyH_take (i := 7) (v := ?_) rfl (by kernel_rfl) (by kernel_rfl) (by kernel_rfl) (fun _ _ _ h => h) (Or.inl ⟨by rfl, ?_⟩) (by assumption) ?_; rotate_left
              · (intro w hSw; (try dsimp only at hSw); go_simp; try with_reducible rfl)
              try simp only [List.getElem_toArray, List.getElem_cons_zero, List.getElem_cons_succ, Act.put, List.setIfInBounds_toArray, List.set_cons_zero, List.set_cons_succ]
              refine wpAnyH_take (i := 8) (v := ?_) rfl (by kernel_rfl) (by kernel_rfl) (by kernel_rfl) (fun _ _ _ h => h) (Or.inl ⟨by rfl, ?_⟩) (by assumption) ?_; rotate_left
              · (intro w hSw; (try dsimp only at hSw); go_simp; try with_reducible rfl)
              try simp only [List.getElem_toArray, List.getElem_cons_zero, List.getElem_cons_succ, Act.put, List.setIfInBounds_toArray, List.set_cons_zero, List.set_cons_succ]
              refine wpAnyH_done (by kernel_rfl) ?_ _
              go_wp2
              go_roundg g2
              case measure => omega
              case rel => exact ⟨i + 1, by omega, by omega, by go_num, HI2, Hid.mk' (gt hgy.out (gd (grownBy_refl _ _)))⟩
            · have hnn : ((b.toNat : Int) == (a.toNat : Int)) = false := by
                have : b.toNat ≠ a.toNat := fun h => hab (UInt8.toNat_inj.1 h)
                simp; omega
              have hst3 := hst2.out
              rw [if_neg hab] at hst3
              have hM2 : mt s L = 2 := by rw [hM.out, ← HI.out, hst3]
              have e := HJ3.out
              rw [frP, if_neg (by rw [hM2]; omega), if_neg (by rw [hM2]; omega)] at e
              have HJ4 := Hid.mk' e
              clear e hst2 hst3 HI hA hBb hab hM hM2 HJ3
              refine wp_region_held_drew (S := fun w' => w'.cell? ⟨g0, o0 + i, none⟩ = some (.int .u8 (b.toNat : Int)) ∧ w'.cell? ⟨QB, 0, none⟩ = some (.string t)) (by kernel_rfl) (hcl.out _ (gd (grownBy_refl _ _))) (fun hHeld => ?_)
              refine wpAnyH_take (i := 0) (v := ?_) rfl (by kernel_rfl) (by kernel_rfl) (by kernel_rfl) (fun _ _ _ h => h) (Or.inl ⟨by rfl, ?_⟩) (by assumption) ?_; rotate_left
              · (intro w hSw; (try dsimp only at hSw); go_simp; try with_reducible rfl)
              try simp only [List.getElem_toArray, List.getElem_cons_zero, Act.put, List.setIfInBounds_toArray, List.set_cons_zero, List.set_cons_succ]
              refine wpAnyH_take (i := 1) (v := ?_) rfl (by kernel_rfl) (by kernel_rfl) (by kernel_rfl) (fun _ _ _ h => h) (Or.inl ⟨by rfl, ?_⟩) (by assumption) ?_; rotate_left
              · (intro w hSw; (try dsimp only at hSw); go_simp; try with_reducible rfl)
              try simp only [List.getElem_toArray, List.getElem_cons_zero, List.getElem_cons_succ, Act.put, List.setIfInBounds_toArray, List.set_cons_zero, List.set_cons_succ]
              refine wpAnyH_take (i := 2) (v := ?_) rfl (by kernel_rfl) (by kernel_rfl) (by kernel_rfl) (fun _ _ _ h => h) (Or.inl ⟨by rfl, ?_⟩) (by assumption) ?_; rotate_left
              · (intro w hSw; (try dsimp only at hSw); go_simp; try with_reducible rfl)
              try simp only [List.getElem_toArray, List.getElem_cons_zero, List.getElem_cons_succ, Act.put, List.setIfInBounds_toArray, List.set_cons_zero, List.set_cons_succ]
              refine wpAnyH_take (i := 3) (v := ?_) rfl (by kernel_rfl) (by kernel_rfl) (by kernel_rfl) (fun _ _ _ h => h) (Or.inl ⟨by rfl, ?_⟩) (by assumption) ?_; rotate_left
              · (intro w hSw; (try dsimp only at hSw); go_simp; try with_reducible rfl)
              try simp only [List.getElem_toArray, List.getElem_cons_zero, List.getElem_cons_succ, Act.put, List.setIfInBounds_toArray, List.set_cons_zero, List.set_cons_succ]
              refine wpAnyH_take (i := 4) (v := ?_) rfl (by kernel_rfl) (by kernel_rfl) (by kernel_rfl) (fun _ _ _ h => h) (Or.inl ⟨by rfl, ?_⟩) (by assumption) ?_; rotate_left
              · (intro w hSw; (try dsimp only at hSw); go_simp; try with_reducible rfl)
              try simp only [List.getElem_toArray, List.getElem_cons_zero, List.getElem_cons_succ, Act.put, List.setIfInBounds_toArray, List.set_cons_zero, List.set_cons_succ]
              refine wpAnyH_take (i := 5) (v := ?_) rfl (by kernel_rfl) (by kernel_rfl) (by kernel_rfl) (fun _ _ _ h => h) (Or.inl ⟨by rfl, ?_⟩) (by assumption) ?_; rotate_left
              · (intro w hSw; (try dsimp only at hSw); go_simp; try with_reducible rfl)
              try simp only [List.getElem_toArray, List.getElem_cons_zero, List.getElem_cons_succ, Act.put, List.setIfInBounds_toArray, List.set_cons_zero, List.set_cons_succ]
              refine wpAnyH_take (i := 6) (v := ?_) rfl (by kernel_rfl) (by kernel_rfl) (by kernel_rfl) (fun _ _ _ h => h) (Or.inl ⟨by rfl, ?_⟩) (by assumption) ?_; rotate_left
              · (intro w hSw; (try dsimp only at hSw); go_simp; try with_reducible rfl)
              try simp only [List.getElem_toArray, List.getElem_cons_zero, List.getElem_cons_succ, Act.put, List.setIfInBounds_toArray, List.set_cons_zero, List.set_cons_succ]
              refine wpAnyH_take (i := 7) (v := ?_) rfl (by kernel_rfl) (by kernel_rfl) (by kernel_rfl) (fun _ _ _ h => h) (Or.inl ⟨by rfl, ?_⟩) (by assumption) ?_; rotate_left
              · (intro w hSw; (try dsimp only at hSw); go_simp; try with_reducible rfl)
              try simp only [List.getElem_toArray, List.getElem_cons_zero, List.getElem_cons_succ, Act.put, List.setIfInBounds_toArray, List.set_cons_zero, List.set_cons_succ]
              refine wpAnyH_take (i := 8) (v := ?_) rfl (by kernel_rfl) (by kernel_rfl) (by kernel_rfl) (fun _ _ _ h => h) (Or.inl ⟨by rfl, ?_⟩) (by assumption) ?_; rotate_left
              · (intro w hSw; (try dsimp only at hSw); go_simp; try with_reducible rfl)
              try simp only [List.getElem_toArray, List.getElem_cons_zero, List.getElem_cons_succ, Act.put, List.setIfInBounds_toArray, List.set_cons_zero, List.set_cons_succ]
              refine wpAnyH_done (by kernel_rfl) ?_ _
              go_wp2
              go_roundg g
              case measure => omega
              case rel => exact ⟨j + 1, by omega, by go_num, HJ4, Hid.mk' (gt HG3.out (gt hgy.out (gd (grownBy_refl _ _))))⟩
end Go.Proofs.Ytdobjijebalkkaa.C21

/- Layer 21, plain: what stands at the front, and what Get answers. -/
namespace Go.Proofs.Ytdobjijebalkkaa.C21
open Go.ChangeShapes Go.WideShapes Go.ChangeAt Go.RowKit Go.Proofs.Ytdobjijebalkkaa.Mem Go.Proofs.Ytdobjijebalkkaa.Cb Go.Proofs.Ytdobjijebalkkaa.Sp
set_option linter.unusedVariables false
set_option linter.unusedSimpArgs false

theorem mt_zero {s L : List UInt8} : mt s L = 0 ↔ bgn L s = true := by
  unfold bgn
  rw [decide_eq_true_iff]
  induction s generalizing L with
  | nil => simp [mt]
  | cons a s ih =>
    cases L with
    | nil => simp [mt]
    | cons b L =>
      unfold mt
      by_cases h : b = a
      · rw [if_pos h, ih]
        subst h
        simp
      · rw [if_neg h]
        simp [h]
theorem mt_one {s L : List UInt8} : mt s L = 1 ↔ L.length < s.length ∧ bgn s L = true := by
  unfold bgn
  rw [decide_eq_true_iff]
  induction s generalizing L with
  | nil => simp [mt]
  | cons a s ih =>
    cases L with
    | nil => simp [mt]
    | cons b L =>
      unfold mt
      by_cases h : b = a
      · rw [if_pos h, ih]
        subst h
        simp
      · rw [if_neg h]
        have : ¬ a = b := fun e => h e.symm
        simp [this]
/-- What Get answers, by what stands at the front. -/
def gF (k : Int) (m : Nat) (L : List UInt8) : Int × Int × Int × Int × Int :=
  let f := frP L (sqs k m)
  if f.2.2 = 0 then (0, (f.1.length : Int), 0, 0, f.2.1) else if f.2.2 = 1 then (1, 0, 0, 0, 0) else match L with
    | [] => (1, 0, 0, 0, 0)
    | b :: r => if k = 83 then jC m b.toNat r else kC m b.toNat r
theorem frP_yes {L s : List UInt8} {v : Int} {Q : List (List UInt8 × Int)} (h : mt s L = 0) : frP L ((s, v) :: Q) = (s, v, 0) := by rw [frP, if_pos h]
theorem frP_more {L s : List UInt8} {v : Int} {Q : List (List UInt8 × Int)} (h : mt s L = 1) : frP L ((s, v) :: Q) = ([], 0, 1) := by rw [frP, if_neg (by simp only; omega), if_pos h]
theorem frP_no {L s : List UInt8} {v : Int} {Q : List (List UInt8 × Int)} (h0 : mt s L ≠ 0) (h1 : mt s L ≠ 1) : frP L ((s, v) :: Q) = frP L Q := by rw [frP, if_neg h0, if_neg h1]
def frJ (L : List UInt8) (l : List Nat) : List UInt8 × Int × Int := frP L (l.map (fun i => (sq i, (sqM i : Int))))
theorem frJ_jF (L : List UInt8) (l : List Nat) : match jF L l with
    | some (some md) => (frJ L l).1.length = 3 ∧ (frJ L l).2 = ((md : Int), 0)
    | some none => (frJ L l).2.2 = 1
    | none => (frJ L l).2.2 = 11 := by
  induction l with
  | nil => rfl
  | cons i l ih =>
    unfold jF
    by_cases h0 : bgn L (sq i) = true
    · rw [if_pos h0]
      have e : frJ L (i :: l) = (sq i, (sqM i : Int), 0) := frP_yes (mt_zero.2 h0)
      simp only [e]
      exact ⟨sq_len i, by trivial⟩
    · rw [if_neg h0]
      by_cases h1 : L.length < 3 ∧ bgn (sq i) L = true
      · rw [if_pos h1]
        have e : frJ L (i :: l) = ([], 0, 1) := frP_more (mt_one.2 (by rw [sq_len]; exact h1))
        simp only [e]
      · rw [if_neg h1]
        have e : frJ L (i :: l) = frJ L l := frP_no (fun h => h0 (mt_zero.1 h)) (fun h => h1 (by have := mt_one.1 h; rwa [sq_len] at this))
        rw [e]
        exact ih
theorem gF_eq {k : Int} (hk : k = 83 ∨ k = 88) {m : Nat} (hm : m < 3) (L : List UInt8) : gE k m L = gF k m L := by
  rcases hk with rfl | rfl
  · rw [gE_jp hm]
    have e : sqs 83 m = [0, 1, 2, 3].map (fun i => (sq i, (sqM i : Int))) := rfl
    have key := frJ_jF L [0, 1, 2, 3]
    unfold frJ at key
    unfold gF
    rw [e]
    simp only
    cases L with
    | nil =>
      have : jF [] [0, 1, 2, 3] = some none := rfl
      rw [this] at key
      simp only at key
      rw [if_neg (by omega), if_pos key]
      rfl
    | cons b r =>
      unfold gJ
      simp only
      cases hj : jF (b :: r) [0, 1, 2, 3] with
      | none =>
        rw [hj] at key
        simp only at key
        rw [if_neg (by omega), if_neg (by omega)]
        simp
      | some x =>
        cases x with
        | none =>
          rw [hj] at key
          simp only at key
          rw [if_neg (by omega), if_pos key]
        | some md =>
          rw [hj] at key
          simp only at key
          obtain ⟨k1, k2⟩ := key
          simp only [k1, k2]
          rfl
  · rw [gE_kr hm]
    unfold gF
    simp only
    cases L with
    | nil =>
      have e : frP [] (sqs 88 m) = ([], 0, 1) := by
        match m, hm with
        | 0, _ => rfl
        | 1, _ => rfl
        | 2, _ => rfl
      rw [e]
      rfl
    | cons b r =>
      unfold gK
      simp only
      have e : ∃ v Q, sqs 88 m = (hd, v) :: Q ∧ v = ((max 1 m : Nat) : Int) ∧ Q = (if m = 0 then [] else [([14], 2), ([15], 1)]) := by
        match m, hm with
        | 0, _ => exact ⟨_, _, rfl, rfl, rfl⟩
        | 1, _ => exact ⟨_, _, rfl, rfl, rfl⟩
        | 2, _ => exact ⟨_, _, rfl, rfl, rfl⟩
      obtain ⟨v, Q, e, ev, eQ⟩ := e
      rw [e]
      by_cases h0 : bgn (b :: r) hd = true
      · rw [if_pos h0, frP_yes (mt_zero.2 h0)]
        rw [ev]
        rfl
      · rw [if_neg h0]
        by_cases h1 : (b :: r).length < 4 ∧ bgn hd (b :: r) = true
        · rw [if_pos h1, frP_more (mt_one.2 h1)]
          rfl
        · rw [if_neg h1, frP_no (fun h => h0 (mt_zero.1 h)) (fun h => h1 (mt_one.1 h)), eQ]
          by_cases hm0 : m = 0
          · rw [if_pos hm0]
            rfl
          · rw [if_neg hm0]
            by_cases h14 : b = 14
            · subst h14
              have e2 : frP ((14 : UInt8) :: r) [([14], 2), ([15], 1)] = ([14], 2, 0) := frP_yes rfl
              rw [e2]
              unfold kC
              have q : (14 : UInt8).toNat = 14 := rfl
              rw [q, if_neg (by omega), if_neg hm0, if_pos rfl]
              rfl
            · have c1 : mt [14] (b :: r) = 2 := by unfold mt; rw [if_neg h14]
              by_cases h15 : b = 15
              · subst h15
                have e2 : frP ((15 : UInt8) :: r) [([14], 2), ([15], 1)] = ([15], 1, 0) := by rw [frP_no (by rw [c1]; omega) (by rw [c1]; omega)]; exact frP_yes rfl
                rw [e2]
                unfold kC
                have q : (15 : UInt8).toNat = 15 := rfl
                rw [q, if_neg (by omega), if_neg hm0, if_neg (by omega), if_pos rfl]
                rfl
              · have c2 : mt [15] (b :: r) = 2 := by unfold mt; rw [if_neg h15]
                have e2 : frP (b :: r) [([14], 2), ([15], 1)] = ([], 0, 11) := by rw [frP_no (by rw [c1]; omega) (by rw [c1]; omega), frP_no (by rw [c2]; omega) (by rw [c2]; omega)]; rfl
                rw [e2]
                rfl
theorem frP_nil {k : Int} (hk : k = 83 ∨ k = 88) {m : Nat} (hm : m < 3) : (frP [] (sqs k m)).2.2 = 1 := by
  rcases hk with rfl | rfl
  · rfl
  · match m, hm with
    | 0, _ => rfl
    | 1, _ => rfl
    | 2, _ => rfl
/-- Of an error there are three. -/
theorem frP_err (L : List UInt8) (Q : List (List UInt8 × Int)) : (frP L Q).2.2 = 0 ∨ (frP L Q).2.2 = 1 ∨ (frP L Q).2.2 = 11 := by
  induction Q with
  | nil => exact .inr (.inr rfl)
  | cons q Q ih =>
    unfold frP
    by_cases h0 : mt q.1 L = 0
    · rw [if_pos h0]; exact .inl rfl
    · rw [if_neg h0]
      by_cases h1 : mt q.1 L = 1
      · rw [if_pos h1]; exact .inr (.inl rfl)
      · rw [if_neg h1]; exact ih
theorem frP_len (L : List UInt8) (Q : List (List UInt8 × Int)) (h : ∀ q ∈ Q, q.1.length ≤ 4) : (frP L Q).1.length ≤ 4 := by
  induction Q with
  | nil => simp [frP]
  | cons q Q ih =>
    unfold frP
    by_cases h0 : mt q.1 L = 0
    · rw [if_pos h0]; exact h q (by simp)
    · rw [if_neg h0]
      by_cases h1 : mt q.1 L = 1
      · rw [if_pos h1]; simp
      · rw [if_neg h1]; exact ih (fun q hq => h q (by simp [hq]))
theorem sqs_len (k : Int) (m : Nat) : (sqs k m).length ≤ 4 ∧ ∀ q ∈ sqs k m, q.1.length ≤ 4 := by
  unfold sqs
  repeat' split
  all_goals simp
theorem frP_14 {b : UInt8} {r : List UInt8} {m : Nat} (hm : m < 3) (h0 : m ≠ 0) (h : (frP (b :: r) (sqs 88 m)).2.2 = 11) : b.toNat ≠ 14 ∧ b.toNat ≠ 15 := by
  have hh : ∀ n : UInt8, (n = 14 ∨ n = 15) → b = n → False := fun n hn e => by
    subst e
    have e : ∃ v, sqs 88 m = [(hd, v), ([14], 2), ([15], 1)] := by
      match m, hm, h0 with
      | 1, _, _ => exact ⟨_, rfl⟩
      | 2, _, _ => exact ⟨_, rfl⟩
    obtain ⟨v, e⟩ := e
    rw [e] at h
    rcases hn with rfl | rfl
    · have c0 : mt hd ((14 : UInt8) :: r) = 2 := rfl
      rw [frP_no (by rw [c0]; omega) (by rw [c0]; omega), frP_yes rfl] at h
      cases h
    · have c0 : mt hd ((15 : UInt8) :: r) = 2 := rfl
      have c1 : mt [14] ((15 : UInt8) :: r) = 2 := rfl
      rw [frP_no (by rw [c0]; omega) (by rw [c0]; omega), frP_no (by rw [c1]; omega) (by rw [c1]; omega), frP_yes rfl] at h
      cases h
  exact ⟨fun e => hh 14 (.inl rfl) (UInt8.toNat_inj.1 e), fun e => hh 15 (.inr rfl) (UInt8.toNat_inj.1 e)⟩
end Go.Proofs.Ytdobjijebalkkaa.C21

/- The program's Parse of layer 23: walks. -/
import Derived.Test.YtljkncgbabiojaaDoorPF23
import Derived.Test.YtljkncgbabiojaaDoorPS23
import Derived.Test.YtljkncgbabiojaaDoorNY23
import Derived.Deep.RegionHeld3
import Derived.BigQuiet
namespace Go.Proofs.YtljkncgbabiojaaDoor.C23
open Go.ChangeShapes Go.WideShapes Go.ChangeAt Go.RowKit Go.Proofs.YtljkncgbabiojaaDoor.Mem Go.Proofs.YtljkncgbabiojaaDoor.El Go.Proofs.YtljkncgbabiojaaDoor.St Go.Proofs.YtljkncgbabiojaaDoor.Ri Go.Proofs.YtljkncgbabiojaaDoor.Sx Go.Proofs.YtljkncgbabiojaaDoor.Cb Go.Proofs.YtljkncgbabiojaaDoor.Ar
set_option linter.unusedVariables false
set_option linter.unusedSimpArgs false

set_option maxRecDepth 100000 in
set_option maxHeartbeats 1000000 in
theorem pParse_long (s : List UInt8) (h : 64 < s.length) (w : World) : Calls Tryd.prog 6 #[.string (str s)] w fun e w' => e = .returned (.tuple #[.agg (wC 0 false false), .int .i64 8]) ∧ w.grownBy w' none := by
  have hsz : (str s).size = s.length := str_size s
  have h' : (64 : Int) < (s.length : Int) := by omega
  go_enter Tryd.func6, Tryd.ntmps6
  go_upto_region 1 with (refine wpList_allocC _ rfl 24 rfl (wC 0 false false) (zeroWp _) ?_; intro w1 rs1 hg1)
  obtain ⟨B, hBe⟩ : ∃ B, Hid (w.heap.size = B) := ⟨_, Hid.mk' rfl⟩
  have hB2 : Hid (w.heap.size ≤ B) := Hid.mk' (by rw [← hBe.out]; exact Nat.le_refl _)
  have hG1 := Hid.mk' hg1
  rw [hBe.out] at rs1
  rw [hBe.out]
  clear hg1
  go_wp2_with (refine wpList_storeC _ rfl 24 _ _ rfl B (wC 0 false false) (wC 0 false false) infoWp rfl (wC_one _ _ _) rfl rfl rs1 ?_; intro wz rsz hgz)
  refine bodyPost_ret (v := .tuple #[.agg (wC 0 false false), .int .i64 8]) (results_cell_row_tmp Tryd.results6 _ wz B 24 _ (0, 0) _ rfl rsz Tryd.underlying24 rfl infoWp _ rfl) rfl ⟨rfl, ?_⟩
  exact grownBy_new hG1.out hgz (fun k hk => by have h5 := Option.some.inj hk; have h6 := hB2.out; omega)
set_option maxRecDepth 100000 in
set_option maxHeartbeats 1000000 in
theorem pParse_name (s : List UInt8) (h : s.length ≤ 64) (h0 : fd ((pts [] s).headD []) = 0) (w : World) (hw : VM w) : Calls Tryd.prog 6 #[.string (str s)] w fun e w' => e = .returned (.tuple #[.agg (wC 0 false false), .int .i64 20]) ∧ w.grownBy w' none := by
  have hsz : (str s).size = s.length := str_size s
  have h' : ¬ (64 : Int) < (s.length : Int) := by omega
  obtain ⟨l, hl⟩ : ∃ l, Hid (pts [] s = l) := ⟨_, Hid.mk' rfl⟩
  have a1 : Hid (∀ w, VM w → Calls Tryd.prog 15 #[.string (str s), .string ⟨#[47, 47]⟩] w fun e w' => ∃ g, e = .returned (.slice (some ⟨g, 0, none⟩) l.length l.length) ∧ StE.Own w' (some ⟨g, 0, none⟩) l.length l ∧ w.grownBy w' none) := Hid.mk' (fun w hw => by rw [← hl.out]; exact pSplit s h w hw)
  have hln : Hid (l ≠ []) := Hid.mk' (by rw [← hl.out]; exact pts_ne s [])
  have hll : l.length ≤ 65 := by have := (pts_len s []).1; rw [hl.out] at this; omega
  have hlx : Hid (∀ x ∈ l, x.length ≤ 64) := Hid.mk' (fun x hx => by have := (pts_len s []).2 x (by rw [hl.out]; exact hx); simp at this; omega)
  obtain ⟨y, ly, rfl⟩ : ∃ y ly, l = y :: ly := by cases l with | nil => exact absurd rfl hln.out | cons a b => exact ⟨a, b, rfl⟩
  have hy64 : y.length ≤ 140737488351232 := by have := hlx.out y (by simp); omega
  obtain ⟨n, hn⟩ : ∃ n, Hid (ly.length = n) := ⟨_, Hid.mk' rfl⟩
  have hn64 : n ≤ 64 := by rw [← hn.out]; simp at hll; omega
  have hq := Hid.mk' hw
  have hcn : (y :: ly).length = n + 1 := by rw [← hn.out]; rfl
  rw [hcn] at a1
  clear hw hll hcn
  rw [hl.out] at h0
  have h1 : fd y = 0 := h0
  have a2 := Hid.mk' (pNamed y hy64 0 20 (Hid.mk' (by rw [h1]; exact ⟨rfl, rfl⟩)))
  clear h0 h1 hl
  go_enter Tryd.func6, Tryd.ntmps6
  go_upto_region 1 with (refine wpList_allocC _ rfl 24 rfl (wC 0 false false) (zeroWp _) ?_; intro w1 rs1 hg1)
  obtain ⟨B, hBe⟩ : ∃ B, Hid (w.heap.size = B) := ⟨_, Hid.mk' rfl⟩
  have hB2 : Hid (w.heap.size ≤ B) := Hid.mk' (by rw [← hBe.out]; exact Nat.le_refl _)
  have hG1 := Hid.mk' hg1
  rw [hBe.out] at rs1
  rw [hBe.out]
  clear hg1
  go_upto_region 4 with (go_at_call 15; refine (a1.out _ (hq.out.keep hG1.out)).mono ?_; rintro e w2 ⟨g, rfl, oL, hg2⟩)
  have rs2 := rs1.kept0 hg2
  have hG2 := Hid.mk' (gt hG1.out hg2)
  have hgl : g < w2.heap.size := oL.lt rfl
  have x0 : w2.cell? ⟨g, 0, none⟩ = some (.string (str y)) := oL.cells 0 _ rfl
  have rL := Hid.mk' oL.rd
  have n0 : (0 : Int) < (n : Int) + 1 := by omega
  clear oL hg2 rs1
  go_upto_region 5 with (go_at_call 16; refine (a2.out _).mono ?_; rintro e w3 ⟨rfl, hg3⟩)
  have rs3 := rs2.kept0 hg3
  have hG3 := Hid.mk' (gt hG2.out hg3)
  clear hg3 rs2 rL x0
  go_wp2_with (refine wpList_storeC _ rfl 24 _ _ rfl B (wC 0 false false) (wC 0 false false) infoWp rfl (wC_one _ _ _) rfl rfl rs3 ?_; intro wz rsz hgz)
  refine bodyPost_ret (v := .tuple #[.agg (wC 0 false false), .int .i64 20]) (results_cell_row_tmp Tryd.results6 _ wz B 24 _ (0, 0) _ rfl rsz Tryd.underlying24 rfl infoWp _ rfl) rfl ⟨rfl, ?_⟩
  exact grownBy_new hG3.out hgz (fun k hk => by have h5 := Option.some.inj hk; have h6 := hB2.out; omega)
set_option maxRecDepth 100000 in
set_option maxHeartbeats 1000000 in
theorem pParse_one (s : List UInt8) (h : s.length ≤ 64) (h0 : fd ((pts [] s).headD []) ≠ 0) (F : Option (Bool × Bool)) (hF : Hid (fl (pts [] s).tail false false = F)) (hone : (pts [] s).tail = []) (w : World) (hw : VM w) : Calls Tryd.prog 6 #[.string (str s)] w fun e w' => e = .returned (pyV (fd ((pts [] s).headD [])) F) ∧ w.grownBy w' none := by
  have hsz : (str s).size = s.length := str_size s
  have h' : ¬ (64 : Int) < (s.length : Int) := by omega
  obtain ⟨l, hl⟩ : ∃ l, Hid (pts [] s = l) := ⟨_, Hid.mk' rfl⟩
  have a1 : Hid (∀ w, VM w → Calls Tryd.prog 15 #[.string (str s), .string ⟨#[47, 47]⟩] w fun e w' => ∃ g, e = .returned (.slice (some ⟨g, 0, none⟩) l.length l.length) ∧ StE.Own w' (some ⟨g, 0, none⟩) l.length l ∧ w.grownBy w' none) := Hid.mk' (fun w hw => by rw [← hl.out]; exact pSplit s h w hw)
  have hln : Hid (l ≠ []) := Hid.mk' (by rw [← hl.out]; exact pts_ne s [])
  have hll : l.length ≤ 65 := by have := (pts_len s []).1; rw [hl.out] at this; omega
  have hlx : Hid (∀ x ∈ l, x.length ≤ 64) := Hid.mk' (fun x hx => by have := (pts_len s []).2 x (by rw [hl.out]; exact hx); simp at this; omega)
  obtain ⟨y, ly, rfl⟩ : ∃ y ly, l = y :: ly := by cases l with | nil => exact absurd rfl hln.out | cons a b => exact ⟨a, b, rfl⟩
  have hy64 : y.length ≤ 140737488351232 := by have := hlx.out y (by simp); omega
  obtain ⟨n, hn⟩ : ∃ n, Hid (ly.length = n) := ⟨_, Hid.mk' rfl⟩
  have hn64 : n ≤ 64 := by rw [← hn.out]; simp at hll; omega
  have hq := Hid.mk' hw
  have hcn : (y :: ly).length = n + 1 := by rw [← hn.out]; rfl
  rw [hcn] at a1
  clear hw hll hcn
  rw [hl.out] at hone
  rw [hl.out] at h0 hF
  have hK0 : (y :: ly).headD [] = y := rfl
  rw [hK0] at h0
  obtain ⟨K, hK⟩ : ∃ K, Hid (fd y = K) := ⟨_, Hid.mk' rfl⟩
  rw [hl.out, hK0, hK.out]
  have hF2 : Hid (fl ly false false = F) := hF
  have a2 := Hid.mk' (pNamed y hy64 (K : Int) 0 (Hid.mk' (by rw [hK.out]; exact ⟨rfl, by unfold lkE; rw [if_neg (by rw [← hK.out]; exact h0)]⟩)))
  clear h0 hK0 hl hF
  have hly : ly = [] := hone
  subst hly
  obtain rfl : n = 0 := by rw [← hn.out]; rfl
  have hFs : F = some (false, false) := by rw [← hF2.out]; rfl
  subst hFs
  clear hF2 hn hone
  simp only [Nat.zero_add] at a1
  go_enter Tryd.func6, Tryd.ntmps6
  go_upto_region 1 with (refine wpList_allocC _ rfl 24 rfl (wC 0 false false) (zeroWp _) ?_; intro w1 rs1 hg1)
  obtain ⟨B, hBe⟩ : ∃ B, Hid (w.heap.size = B) := ⟨_, Hid.mk' rfl⟩
  have hB2 : Hid (w.heap.size ≤ B) := Hid.mk' (by rw [← hBe.out]; exact Nat.le_refl _)
  have hG1 := Hid.mk' hg1
  rw [hBe.out] at rs1
  rw [hBe.out]
  clear hg1
  go_upto_region 4 with (go_at_call 15; refine (a1.out _ (hq.out.keep hG1.out)).mono ?_; rintro e w2 ⟨g, rfl, oL, hg2⟩)
  have rs2 := rs1.kept0 hg2
  have hG2 := Hid.mk' (gt hG1.out hg2)
  have hgl : g < w2.heap.size := oL.lt rfl
  have x0 : w2.cell? ⟨g, 0, none⟩ = some (.string (str y)) := oL.cells 0 _ rfl
  have rL := Hid.mk' oL.rd
  have n0 : (0 : Int) < 1 := by omega
  clear oL hg2 rs1
  go_upto_region 7 with (go_at_call 16; refine (a2.out _).mono ?_; rintro e w3 ⟨rfl, hg3⟩)
  have rs3 := rs2.kept0 hg3
  have hG3 := Hid.mk' (gt hG2.out hg3)
  have rL3 := Hid.mk' (rL.out.kept0 hg3)
  have hgV : Hid (g < w3.heap.size) := Hid.mk' (Nat.lt_of_lt_of_le hgl hg3.size)
  have hBV : Hid (B < w3.heap.size) := Hid.mk' rs3.lt
  clear hg3 rs2 rL x0 hgl
  go_upto_region 8 with (first
    | (refine wpList_allocC _ rfl 24 rfl (wC 0 false false) (zeroWp _) ?_; intro w4 va4 hg4)
    | (refine wpList_storeC _ rfl 24 _ _ rfl w3.heap.size (wC 0 false false) (wC (K : Int) false false) infoWp rfl (wC_one _ _ _) rfl rfl va4 ?_; intro w5 va5 hg5))
  have rs5 := (rs3.kept0 hg4).kept hg5 (by have := hBV.out; intro e; have h5 := Option.some.inj e; omega)
  have rL5 := Hid.mk' ((rL3.out.kept0 hg4).kept hg5 (.inr (by have := hgV.out; intro e; simp [blk] at e; omega)))
  have hG5 := Hid.mk' (grownBy_new (gt hG3.out hg4) hg5 (fun q hq => by have h5 := Option.some.inj hq; have h6 := hG3.out.size; omega))
  have hVw : Hid (w.heap.size ≤ w3.heap.size) := Hid.mk' hG3.out.size
  obtain ⟨V, hV⟩ : ∃ V, Hid (w3.heap.size = V) := ⟨_, Hid.mk' rfl⟩
  rw [hV.out] at va5 hgV hBV hVw
  rw [hV.out]
  have hva := Hid.mk' va5
  have hrs := Hid.mk' rs5
  clear hg4 hg5 va4 rs3 rL3 va5 rs5
  go_wp2
  go_loopw [32] (fun t wx => t = .int .i64 0 ∧ Hid (CA wx V 24 (wC (K : Int) false false)) ∧ Hid (CA wx B 24 (wC 0 false false)) ∧ Hid (w.grownBy wx none)) (fun _ _ => 0)
  case atStart => exact ⟨rfl, hva, hrs, hG5⟩
  case round =>
    obtain ⟨rfl, va0, rs0, hG⟩ := hrel
    have va := va0.out
    have rs := rs0.out
    go_upto_region 18 with fail
    go_wp2_with (first
      | (refine wpList_loadC _ rfl 24 _ rfl _ Tryd.underlying24 rfl V (wC (K : Int) false false) infoWp rfl va ?_)
      | (refine wpList_storeC _ rfl 24 _ _ rfl B (wC 0 false false) (wC (K : Int) false false) infoWp rfl (wC_one _ _ _) rfl rfl rs ?_; intro wz rsz hgz))
    refine bodyPost_ret (v := .tuple #[.agg (wC (K : Int) false false), .int .i64 0]) (results_cell_row_tmp Tryd.results6 _ wz B 24 _ (0, 0) _ rfl rsz Tryd.underlying24 rfl infoWp _ rfl) rfl ⟨rfl, ?_⟩
    exact grownBy_new hG.out hgz (fun k hk => by have h5 := Option.some.inj hk; have h6 := hB2.out; omega)
set_option maxRecDepth 100000 in
set_option maxHeartbeats 4000000 in
theorem pParse_more (s : List UInt8) (h : s.length ≤ 64) (h0 : fd ((pts [] s).headD []) ≠ 0) (F : Option (Bool × Bool)) (hF : Hid (fl (pts [] s).tail false false = F)) (hmore : (pts [] s).tail ≠ []) (w : World) (hw : VM w) : Calls Tryd.prog 6 #[.string (str s)] w fun e w' => e = .returned (pyV (fd ((pts [] s).headD [])) F) ∧ w.grownBy w' none := by
  have hsz : (str s).size = s.length := str_size s
  have h' : ¬ (64 : Int) < (s.length : Int) := by omega
  obtain ⟨l, hl⟩ : ∃ l, Hid (pts [] s = l) := ⟨_, Hid.mk' rfl⟩
  have a1 : Hid (∀ w, VM w → Calls Tryd.prog 15 #[.string (str s), .string ⟨#[47, 47]⟩] w fun e w' => ∃ g, e = .returned (.slice (some ⟨g, 0, none⟩) l.length l.length) ∧ StE.Own w' (some ⟨g, 0, none⟩) l.length l ∧ w.grownBy w' none) := Hid.mk' (fun w hw => by rw [← hl.out]; exact pSplit s h w hw)
  have hln : Hid (l ≠ []) := Hid.mk' (by rw [← hl.out]; exact pts_ne s [])
  have hll : l.length ≤ 65 := by have := (pts_len s []).1; rw [hl.out] at this; omega
  have hlx : Hid (∀ x ∈ l, x.length ≤ 64) := Hid.mk' (fun x hx => by have := (pts_len s []).2 x (by rw [hl.out]; exact hx); simp at this; omega)
  obtain ⟨y, ly, rfl⟩ : ∃ y ly, l = y :: ly := by cases l with | nil => exact absurd rfl hln.out | cons a b => exact ⟨a, b, rfl⟩
  have hy64 : y.length ≤ 140737488351232 := by have := hlx.out y (by simp); omega
  obtain ⟨n, hn⟩ : ∃ n, Hid (ly.length = n) := ⟨_, Hid.mk' rfl⟩
  have hn64 : n ≤ 64 := by rw [← hn.out]; simp at hll; omega
  have hq := Hid.mk' hw
  have hcn : (y :: ly).length = n + 1 := by rw [← hn.out]; rfl
  rw [hcn] at a1
  clear hw hll hcn
  rw [hl.out] at hmore
  rw [hl.out] at h0 hF
  have hK0 : (y :: ly).headD [] = y := rfl
  rw [hK0] at h0
  obtain ⟨K, hK⟩ : ∃ K, Hid (fd y = K) := ⟨_, Hid.mk' rfl⟩
  rw [hl.out, hK0, hK.out]
  have hF2 : Hid (fl ly false false = F) := hF
  have a2 := Hid.mk' (pNamed y hy64 (K : Int) 0 (Hid.mk' (by rw [hK.out]; exact ⟨rfl, by unfold lkE; rw [if_neg (by rw [← hK.out]; exact h0)]⟩)))
  clear h0 hK0 hl hF
  have hly : Hid (ly ≠ []) := Hid.mk' hmore
  have n1 : ¬ n + 1 = 1 := by have h5 := List.length_pos_iff.2 hly.out; have h6 := hn.out; omega
  have n2 : ¬ n = 0 := by omega
  clear hmore
  go_enter Tryd.func6, Tryd.ntmps6
  go_upto_region 1 with (refine wpList_allocC _ rfl 24 rfl (wC 0 false false) (zeroWp _) ?_; intro w1 rs1 hg1)
  obtain ⟨B, hBe⟩ : ∃ B, Hid (w.heap.size = B) := ⟨_, Hid.mk' rfl⟩
  have hB2 : Hid (w.heap.size ≤ B) := Hid.mk' (by rw [← hBe.out]; exact Nat.le_refl _)
  have hG1 := Hid.mk' hg1
  rw [hBe.out] at rs1
  rw [hBe.out]
  clear hg1
  go_upto_region 4 with (go_at_call 15; refine (a1.out _ (hq.out.keep hG1.out)).mono ?_; rintro e w2 ⟨g, rfl, oL, hg2⟩)
  have rs2 := rs1.kept0 hg2
  have hG2 := Hid.mk' (gt hG1.out hg2)
  have hgl : g < w2.heap.size := oL.lt rfl
  have x0 : w2.cell? ⟨g, 0, none⟩ = some (.string (str y)) := oL.cells 0 _ rfl
  have rL := Hid.mk' oL.rd
  have n0 : (0 : Int) < (n : Int) + 1 := by omega
  clear oL hg2 rs1
  go_upto_region 7 with (go_at_call 16; refine (a2.out _).mono ?_; rintro e w3 ⟨rfl, hg3⟩)
  have rs3 := rs2.kept0 hg3
  have hG3 := Hid.mk' (gt hG2.out hg3)
  have rL3 := Hid.mk' (rL.out.kept0 hg3)
  have hgV : Hid (g < w3.heap.size) := Hid.mk' (Nat.lt_of_lt_of_le hgl hg3.size)
  have hBV : Hid (B < w3.heap.size) := Hid.mk' rs3.lt
  clear hg3 rs2 rL x0 hgl
  go_upto_region 8 with (first
    | (refine wpList_allocC _ rfl 24 rfl (wC 0 false false) (zeroWp _) ?_; intro w4 va4 hg4)
    | (refine wpList_storeC _ rfl 24 _ _ rfl w3.heap.size (wC 0 false false) (wC (K : Int) false false) infoWp rfl (wC_one _ _ _) rfl rfl va4 ?_; intro w5 va5 hg5))
  have rs5 := (rs3.kept0 hg4).kept hg5 (by have := hBV.out; intro e; have h5 := Option.some.inj e; omega)
  have rL5 := Hid.mk' ((rL3.out.kept0 hg4).kept hg5 (.inr (by have := hgV.out; intro e; simp [blk] at e; omega)))
  have hG5 := Hid.mk' (grownBy_new (gt hG3.out hg4) hg5 (fun q hq => by have h5 := Option.some.inj hq; have h6 := hG3.out.size; omega))
  have hVw : Hid (w.heap.size ≤ w3.heap.size) := Hid.mk' hG3.out.size
  obtain ⟨V, hV⟩ : ∃ V, Hid (w3.heap.size = V) := ⟨_, Hid.mk' rfl⟩
  rw [hV.out] at va5 hgV hBV hVw
  rw [hV.out]
  have hva := Hid.mk' va5
  have hrs := Hid.mk' rs5
  clear hg4 hg5 va4 rs3 rL3 va5 rs5
  go_wp2
  go_loopw [32] (fun t32 wx => ∃ (i : Nat) (t ig : Bool), i ≤ n ∧ t32 = .int .i64 (i : Int) ∧ Hid (CA wx V 24 (wC (K : Int) t ig)) ∧ Hid (fl (ly.drop i) t ig = F) ∧ Hid (CA wx B 24 (wC 0 false false)) ∧ Hid (StE.Rd wx (some ⟨g, 0, none⟩) (y :: ly)) ∧ Hid (w.grownBy wx none)) (fun t32 _ => n - (intOf t32).toNat)
  case atStart => exact ⟨0, false, false, by omega, rfl, hva, hF2, hrs, rL5, hG5⟩
  case round =>
    obtain ⟨i, t, ig, hi, rfl, va0, hfl, rs0, rLx, hG⟩ := hrel
    have va := va0.out
    have rs := rs0.out
    by_cases hlt : i < n
    · have hiL : i < ly.length := by rw [hn.out]; exact hlt
      have hiM : i + 1 < (y :: ly).length := by simpa using hiL
      have hlt' : (i : Int) < (n : Int) := by omega
      have hi0 : (0 : Int) ≤ (i : Int) := by omega
      obtain ⟨b', o', e', hb', x0⟩ := stcell rLx.out hiM
      cases e'
      obtain ⟨x, hx⟩ : ∃ x, Hid (ly[i] = x) := ⟨_, Hid.mk' rfl⟩
      have hx1 : (y :: ly)[i + 1] = x := hx.out
      rw [hx1, Nat.zero_add, Nat.add_comm i 1] at x0
      have hxl : x.length ≤ 64 := hlx.out x (by rw [← hx.out]; exact List.mem_cons_of_mem _ (List.getElem_mem hiL))
      have hfl2 : Hid (F = if large x = [84, 82, 65, 78, 83, 76, 73, 84] then fl (ly.drop (i + 1)) true ig else if large x = [73, 71, 78, 79, 82, 69] then fl (ly.drop (i + 1)) t true else if large x = [] then fl (ly.drop (i + 1)) t ig else none) := Hid.mk' (by
        rw [← hfl.out, List.drop_eq_getElem_cons hiL, hx.out, fl])
      have s1 := fun R hR => pSame x [84, 82, 65, 78, 83, 76, 73, 84] (by omega) (by simp) R (Hid.mk' hR)
      have s2 := fun R hR => pSame x [73, 71, 78, 79, 82, 69] (by omega) (by simp) R (Hid.mk' hR)
      have g1 : large [84, 82, 65, 78, 83, 76, 73, 84] = [84, 82, 65, 78, 83, 76, 73, 84] := by decide
      have g2 : large [73, 71, 78, 79, 82, 69] = [73, 71, 78, 79, 82, 69] := by decide
      rw [g1] at s1
      rw [g2] at s2
      obtain ⟨xs, hxs⟩ : ∃ xs, Hid (str x = xs) := ⟨_, Hid.mk' rfl⟩
      rw [hxs.out] at s1 s2 x0
      have htl : xs.toList = x := by rw [← hxs.out, str_toList]
      clear hfl hx hx1 hxl hxs hiL hiM hb' g1 g2
      by_cases h3 : x = []
      · have f3 : xs.toList.isEmpty = true := by rw [htl, h3]; rfl
        have hnx : Hid (fl (ly.drop (i + 1)) t ig = F) := Hid.mk' (by rw [hfl2.out, h3]; rfl)
        clear htl hfl2 h3 s1 s2
        go_wp2
        go_roundw
        case rel => exact ⟨i + 1, t, ig, by omega, by go_num, Hid.mk' va, hnx, Hid.mk' rs, rLx, hG⟩
        all_goals (simp [intOf] <;> omega)
      · have f3 : xs.toList.isEmpty = false := by rw [htl]; simpa using h3
        clear htl
        by_cases h1 : large x = [84, 82, 65, 78, 83, 76, 73, 84]
        · have a3 := Hid.mk' (s1 true (decide_eq_true h1))
          have hnx : Hid (fl (ly.drop (i + 1)) true ig = F) := Hid.mk' (by rw [hfl2.out, if_pos h1])
          clear hfl2 h1 h3 s1 s2
          go_upto_region 14 with (go_at_call 17; refine (a3.out _).mono ?_; rintro e w6 ⟨rfl, hg6⟩)
          have z1 := (va.kept0 hg6).free 1
          have y1 := (va.kept0 hg6).cell 1 rfl
          clear x0
          go_wp2
          go_roundw
          case rel => refine ⟨i + 1, true, ig, by omega, by go_num, Hid.mk' ((va.kept0 hg6).set 1 (.bool true)), hnx, Hid.mk' ((rs.kept0 hg6).other (by have := hBV.out; omega) 1 _), Hid.mk' ((rLx.out.kept0 hg6).kept (grownBy_setCell _ _ _) (.inr (by have := hgV.out; intro e; simp [blk] at e; omega))), Hid.mk' (grownBy_new (gt hG.out hg6) (grownBy_setCell _ ⟨V, 1, none⟩ _) (fun q hq => by have h5 : V = q := Option.some.inj hq; have h6 := hVw.out; omega))⟩
          all_goals (simp [intOf] <;> omega)
        · have a3 := Hid.mk' (s1 false (decide_eq_false h1))
          by_cases h2 : large x = [73, 71, 78, 79, 82, 69]
          · have a4 := Hid.mk' (s2 true (decide_eq_true h2))
            have hnx : Hid (fl (ly.drop (i + 1)) t true = F) := Hid.mk' (by rw [hfl2.out, if_neg h1, if_pos h2])
            clear hfl2 h1 h2 h3 s1 s2
            go_upto_region 15 with (go_at_call 17; refine (a3.out _).mono ?_; rintro e w6 ⟨rfl, hg6⟩)
            clear x0
            go_upto_region 16 with (go_at_call 17; refine (a4.out _).mono ?_; rintro e w7 ⟨rfl, hg7⟩)
            have hg67 := gt hg6 hg7
            have z2 := (va.kept0 hg67).free 2
            have y2 := (va.kept0 hg67).cell 2 rfl
            go_wp2
            go_roundw
            case rel => refine ⟨i + 1, t, true, by omega, by go_num, Hid.mk' ((va.kept0 hg67).set 2 (.bool true)), hnx, Hid.mk' ((rs.kept0 hg67).other (by have := hBV.out; omega) 2 _), Hid.mk' ((rLx.out.kept0 hg67).kept (grownBy_setCell _ _ _) (.inr (by have := hgV.out; intro e; simp [blk] at e; omega))), Hid.mk' (grownBy_new (gt hG.out hg67) (grownBy_setCell _ ⟨V, 2, none⟩ _) (fun q hq => by have h5 : V = q := Option.some.inj hq; have h6 := hVw.out; omega))⟩
            all_goals (simp [intOf] <;> omega)
          · have a4 := Hid.mk' (s2 false (decide_eq_false h2))
            have hFn : F = none := by rw [hfl2.out, if_neg h1, if_neg h2, if_neg (fun e => h3 (by have := congrArg List.length e; rw [large_len] at this; exact List.eq_nil_of_length_eq_zero this))]
            subst hFn
            clear hfl2 h1 h2 h3 s1 s2 hF2
            go_upto_region 15 with (go_at_call 17; refine (a3.out _).mono ?_; rintro e w6 ⟨rfl, hg6⟩)
            clear x0
            go_upto_region 11 with (go_at_call 17; refine (a4.out _).mono ?_; rintro e w7 ⟨rfl, hg7⟩)
            have hg67 := gt hg6 hg7
            have rs7 := rs.kept0 hg67
            go_wp2_with (refine wpList_storeC _ rfl 24 _ _ rfl B (wC 0 false false) (wC 0 false false) infoWp rfl (wC_one _ _ _) rfl rfl rs7 ?_; intro wz rsz hgz)
            refine bodyPost_ret (v := .tuple #[.agg (wC 0 false false), .int .i64 3]) (results_cell_row_tmp Tryd.results6 _ wz B 24 _ (0, 0) _ rfl rsz Tryd.underlying24 rfl infoWp _ rfl) rfl ⟨rfl, ?_⟩
            exact grownBy_new (gt hG.out hg67) hgz (fun k hk => by have h5 := Option.some.inj hk; have h6 := hB2.out; omega)
    · have hlt' : ¬ (i : Int) < (n : Int) := by omega
      have hFs : F = some (t, ig) := by
        rw [← hfl.out, List.drop_eq_nil_of_le (by rw [hn.out]; omega), fl]
      subst hFs
      clear hfl hF2
      go_upto_region 18 with fail
      go_wp2_with (first
        | (refine wpList_loadC _ rfl 24 _ rfl _ Tryd.underlying24 rfl V (wC (K : Int) t ig) infoWp rfl va ?_)
        | (refine wpList_storeC _ rfl 24 _ _ rfl B (wC 0 false false) (wC (K : Int) t ig) infoWp rfl (wC_one _ _ _) rfl rfl rs ?_; intro wz rsz hgz))
      refine bodyPost_ret (v := .tuple #[.agg (wC (K : Int) t ig), .int .i64 0]) (results_cell_row_tmp Tryd.results6 _ wz B 24 _ (0, 0) _ rfl rsz Tryd.underlying24 rfl infoWp _ rfl) rfl ⟨rfl, ?_⟩
      exact grownBy_new hG.out hgz (fun k hk => by have h5 := Option.some.inj hk; have h6 := hB2.out; omega)
end Go.Proofs.YtljkncgbabiojaaDoor.C23

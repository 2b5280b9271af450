/- The document's Parse and Print of layer 23: walks. -/
import Derived.Test.YtljkncgbabiojaaDoorNP23
import Derived.Test.YtljkncgbabiojaaDoorCb
import Derived.Test.YtljkncgbabiojaaDoorAr
namespace Go.Proofs.YtljkncgbabiojaaDoor.C23
open Go.ChangeShapes Go.WideShapes Go.ChangeAt Go.RowKit Go.Proofs.YtljkncgbabiojaaDoor.Mem Go.Proofs.YtljkncgbabiojaaDoor.El Go.Proofs.YtljkncgbabiojaaDoor.St Go.Proofs.YtljkncgbabiojaaDoor.Ri Go.Proofs.YtljkncgbabiojaaDoor.Sx Go.Proofs.YtljkncgbabiojaaDoor.Cb Go.Proofs.YtljkncgbabiojaaDoor.Ar
set_option linter.unusedVariables false
set_option linter.unusedSimpArgs false

/-- What is asked for behind a name. -/
def fl : List (List UInt8) → Bool → Bool → Option (Bool × Bool)
  | [], t, i => some (t, i)
  | x :: r, t, i => if large x = [84, 82, 65, 78, 83, 76, 73, 84] then fl r true i else if large x = [73, 71, 78, 79, 82, 69] then fl r t true else if large x = [] then fl r t i else none
/-- What Parse answers: the kind, what is asked for, the error. -/
def prs (s : List UInt8) : Int × Bool × Bool × Int :=
  if 64 < s.length then (0, false, false, 8) else
  if fd ((pts [] s).headD []) = 0 then (0, false, false, 20) else
  match fl (pts [] s).tail false false with
  | some (t, i) => ((fd ((pts [] s).headD []) : Nat), t, i, 0)
  | none => (0, false, false, 3)
/-- What Print answers. -/
def prt (k : Int) (t i : Bool) : List UInt8 := if nm k = [] then [] else nm k ++ (if t then [47, 47, 84, 82, 65, 78, 83, 76, 73, 84] else []) ++ (if i then [47, 47, 73, 71, 78, 79, 82, 69] else [])
abbrev wC (k : Int) (t i : Bool) : Array Value := #[.int .i64 k, .bool t, .bool i]
theorem infoW : (Tryd.prog.info? 23).map (·.size) = some 3 := by kernel_rfl
theorem zeroW (w : World) : (zeroValue 23).run Tryd.prog w = .ok (.agg (wC 0 false false)) w := by kernel_rfl
theorem wC_one (k : Int) (t i : Bool) : (wC k t i).all (·.oneCell') = true := by kernel_rfl
theorem pts_ne : ∀ (L cur : List UInt8), pts cur L ≠ []
  | [], cur => by rw [pts]; simp
  | [a], cur => by rw [pts]; simp
  | a :: b :: r, cur => by
    rw [pts_cons]
    split
    · simp
    · exact pts_ne (b :: r) _
theorem pts_len : ∀ (L cur : List UInt8), (pts cur L).length ≤ L.length + 1 ∧ ∀ x ∈ pts cur L, x.length ≤ cur.length + L.length
  | [], cur => by rw [pts]; simp
  | [a], cur => by rw [pts]; simp
  | a :: b :: r, cur => by
    rw [pts_cons]
    split
    · have h := pts_len r []
      refine ⟨by simp only [List.length_cons]; omega, fun x hx => ?_⟩
      rcases List.mem_cons.1 hx with rfl | hx
      · simp only [List.length_cons]; omega
      · have := h.2 x hx; simp only [List.length_cons, List.length_nil] at *; omega
    · have h := pts_len (b :: r) (cur ++ [a])
      refine ⟨by simp only [List.length_cons] at *; omega, fun x hx => ?_⟩
      have := h.2 x hx
      simp only [List.length_cons, List.length_append, List.length_nil] at *
      omega
/-- What Parse answers of a name that is one. -/
def pyV (K : Nat) (F : Option (Bool × Bool)) : Value := match F with | some (t, i) => .tuple #[.agg (wC (K : Int) t i), .int .i64 0] | none => .tuple #[.agg (wC 0 false false), .int .i64 3]
theorem prs_long {s : List UInt8} (h : 64 < s.length) : prs s = (0, false, false, 8) := by unfold prs; rw [if_pos h]
set_option maxRecDepth 100000 in
set_option maxHeartbeats 1000000 in
theorem parse_long (s : List UInt8) (h : 64 < s.length) (w : World) : Calls Tryd.prog 7 #[.string (str s)] w fun e w' => e = .returned (.tuple #[.agg (wC 0 false false), .int .i64 8]) ∧ w.grownBy w' none := by
  have hsz : (str s).size = s.length := str_size s
  have h' : (64 : Int) < (s.length : Int) := by omega
  go_enter Tryd.func7, Tryd.ntmps7
  go_upto_region 1 with (refine wpList_allocC _ rfl 23 rfl (wC 0 false false) (zeroW _) ?_; intro w1 rs1 hg1)
  obtain ⟨B, hBe⟩ : ∃ B, Hid (w.heap.size = B) := ⟨_, Hid.mk' rfl⟩
  have hB2 : Hid (w.heap.size ≤ B) := Hid.mk' (by rw [← hBe.out]; exact Nat.le_refl _)
  have hG1 := Hid.mk' hg1
  rw [hBe.out] at rs1
  rw [hBe.out]
  clear hg1
  go_wp2_with (refine wpList_storeC _ rfl 23 _ _ rfl B (wC 0 false false) (wC 0 false false) infoW rfl (wC_one _ _ _) rfl rfl rs1 ?_; intro wz rsz hgz)
  refine bodyPost_ret (v := .tuple #[.agg (wC 0 false false), .int .i64 8]) (results_cell_row_tmp Tryd.results7 _ wz B 23 _ (0, 0) _ rfl rsz Tryd.underlying23 rfl infoW _ rfl) rfl ⟨rfl, ?_⟩
  exact grownBy_new hG1.out hgz (fun k hk => by have h5 := Option.some.inj hk; have h6 := hB2.out; omega)
set_option maxRecDepth 100000 in
set_option maxHeartbeats 1000000 in
theorem parse_name (s : List UInt8) (h : s.length ≤ 64) (h0 : fd ((pts [] s).headD []) = 0) (w : World) : Calls Tryd.prog 7 #[.string (str s)] w fun e w' => e = .returned (.tuple #[.agg (wC 0 false false), .int .i64 20]) ∧ w.grownBy w' none := by
  have hsz : (str s).size = s.length := str_size s
  have h' : ¬ (64 : Int) < (s.length : Int) := by omega
  obtain ⟨l, hl⟩ : ∃ l, Hid (pts [] s = l) := ⟨_, Hid.mk' rfl⟩
  have a1 := Hid.mk' (fun w => parts_any s (by omega) w)
  rw [hl.out] at a1
  have hln : Hid (l ≠ []) := Hid.mk' (by rw [← hl.out]; exact pts_ne s [])
  have hll : l.length ≤ 65 := by have := (pts_len s []).1; rw [hl.out] at this; omega
  have hlx : Hid (∀ x ∈ l, x.length ≤ 64) := Hid.mk' (fun x hx => by have := (pts_len s []).2 x (by rw [hl.out]; exact hx); simp at this; omega)
  obtain ⟨y, ly, rfl⟩ : ∃ y ly, l = y :: ly := by cases l with | nil => exact absurd rfl hln.out | cons a b => exact ⟨a, b, rfl⟩
  have a2 := Hid.mk' (fun w => find_any y (by have := hlx.out y (by simp); omega) w)
  obtain ⟨K, hK⟩ : ∃ K, Hid (fd y = K) := ⟨_, Hid.mk' rfl⟩
  rw [hK.out] at a2
  rw [hl.out] at h0
  have k0 : ((K : Int) == 0) = true := by
    have h5 : K = 0 := by rw [← hK.out]; exact h0
    rw [h5]; rfl
  clear h0
  go_enter Tryd.func7, Tryd.ntmps7
  go_upto_region 1 with (refine wpList_allocC _ rfl 23 rfl (wC 0 false false) (zeroW _) ?_; intro w1 rs1 hg1)
  obtain ⟨B, hBe⟩ : ∃ B, Hid (w.heap.size = B) := ⟨_, Hid.mk' rfl⟩
  have hB2 : Hid (w.heap.size ≤ B) := Hid.mk' (by rw [← hBe.out]; exact Nat.le_refl _)
  have hG1 := Hid.mk' hg1
  rw [hBe.out] at rs1
  rw [hBe.out]
  clear hg1
  go_upto_region 4 with (go_at_call 18; refine (a1.out _).mono ?_; rintro e w2 ⟨lo, lc, rfl, oL, hg2, fL⟩)
  have rs2 := rs1.kept0 hg2
  have hG2 := Hid.mk' (gt hG1.out hg2)
  obtain ⟨g, rfl, hgl, hfr, hcl⟩ := oL.at (by simp)
  have x0 : w2.cell? ⟨g, 0, none⟩ = some (.string (str y)) := hcl 0 (by simp) 0 _ rfl
  have rL := Hid.mk' oL.rd
  have q1 := oL.cap_le
  have q2 := oL.cap_max
  have hgw : Hid (w.heap.size ≤ g) := Hid.mk' (by have := fL g rfl; have := hG1.out.size; omega)
  have n0 : (0 : Int) < (ly.length : Int) + 1 := by omega
  clear hcl hfr oL hg2 rs1 fL
  go_upto_region 5 with (first
    | (go_at_call 19; refine (a2.out _).mono ?_; rintro e w3 ⟨rfl, hg3⟩)
    | (refine wpList_allocC _ rfl 23 rfl (wC 0 false false) (zeroW _) ?_; intro w4 va4 hg4)
    | (refine wpList_storeC _ rfl 23 _ _ rfl w3.heap.size (wC 0 false false) (wC (K : Int) false false) infoW rfl (wC_one _ _ _) rfl rfl va4 ?_; intro w5 va5 hg5))
  have hgV : Hid (g < w3.heap.size) := Hid.mk' (Nat.lt_of_lt_of_le hgl hg3.size)
  have hBV : Hid (B < w3.heap.size) := Hid.mk' (Nat.lt_of_lt_of_le rs2.lt hg3.size)
  have rs5 := ((rs2.kept0 hg3).kept0 hg4).kept hg5 (by have := hBV.out; intro e; have h5 := Option.some.inj e; omega)
  have rL5 := Hid.mk' (((rL.out.kept0 hg3).kept0 hg4).kept hg5 (.inr (by have := hgV.out; intro e; simp [blk] at e; omega)))
  have hG5 := Hid.mk' (grownBy_new (gt hG2.out (gt hg3 hg4)) hg5 (fun q hq => by have h5 := Option.some.inj hq; have h6 := (gt hG2.out hg3).size; omega))
  have hVw : Hid (w.heap.size ≤ w3.heap.size) := Hid.mk' (gt hG2.out hg3).size
  obtain ⟨V, hV⟩ : ∃ V, Hid (w3.heap.size = V) := ⟨_, Hid.mk' rfl⟩
  rw [hV.out] at va5 hgV hBV hVw
  rw [hV.out]
  have c0 := va5.cell 0 rfl
  clear hg3 hg4 hg5 va4 rs2 rL x0
  go_wp2_with (refine wpList_storeC _ rfl 23 _ _ rfl B (wC 0 false false) (wC 0 false false) infoW rfl (wC_one _ _ _) rfl rfl rs5 ?_; intro wz rsz hgz)
  refine bodyPost_ret (v := .tuple #[.agg (wC 0 false false), .int .i64 20]) (results_cell_row_tmp Tryd.results7 _ wz B 23 _ (0, 0) _ rfl rsz Tryd.underlying23 rfl infoW _ rfl) rfl ⟨rfl, ?_⟩
  exact grownBy_new hG5.out hgz (fun k hk => by have h5 := Option.some.inj hk; have h6 := hB2.out; omega)
set_option maxRecDepth 100000 in
set_option maxHeartbeats 4000000 in
theorem parse_yes (s : List UInt8) (h : s.length ≤ 64) (h0 : fd ((pts [] s).headD []) ≠ 0) (F : Option (Bool × Bool)) (hF : Hid (fl (pts [] s).tail false false = F)) (w : World) : Calls Tryd.prog 7 #[.string (str s)] w fun e w' => e = .returned (pyV (fd ((pts [] s).headD [])) F) ∧ w.grownBy w' none := by
  have hsz : (str s).size = s.length := str_size s
  have h' : ¬ (64 : Int) < (s.length : Int) := by omega
  obtain ⟨l, hl⟩ : ∃ l, Hid (pts [] s = l) := ⟨_, Hid.mk' rfl⟩
  have a1 := Hid.mk' (fun w => parts_any s (by omega) w)
  rw [hl.out] at a1
  have hln : Hid (l ≠ []) := Hid.mk' (by rw [← hl.out]; exact pts_ne s [])
  have hll : l.length ≤ 65 := by have := (pts_len s []).1; rw [hl.out] at this; omega
  have hlx : Hid (∀ x ∈ l, x.length ≤ 64) := Hid.mk' (fun x hx => by have := (pts_len s []).2 x (by rw [hl.out]; exact hx); simp at this; omega)
  obtain ⟨y, ly, rfl⟩ : ∃ y ly, l = y :: ly := by cases l with | nil => exact absurd rfl hln.out | cons a b => exact ⟨a, b, rfl⟩
  have a2 := Hid.mk' (fun w => find_any y (by have := hlx.out y (by simp); omega) w)
  obtain ⟨K, hK⟩ : ∃ K, Hid (fd y = K) := ⟨_, Hid.mk' rfl⟩
  rw [hK.out] at a2
  rw [hl.out] at h0 hF
  rw [hl.out]
  have hK2 : (y :: ly).headD [] = y := rfl
  rw [hK2] at h0
  rw [hK2]
  rw [hK.out] at h0
  rw [hK.out]
  have k0 : ((K : Int) == 0) = false := by simp; omega
  go_enter Tryd.func7, Tryd.ntmps7
  go_upto_region 1 with (refine wpList_allocC _ rfl 23 rfl (wC 0 false false) (zeroW _) ?_; intro w1 rs1 hg1)
  obtain ⟨B, hBe⟩ : ∃ B, Hid (w.heap.size = B) := ⟨_, Hid.mk' rfl⟩
  have hB2 : Hid (w.heap.size ≤ B) := Hid.mk' (by rw [← hBe.out]; exact Nat.le_refl _)
  have hG1 := Hid.mk' hg1
  rw [hBe.out] at rs1
  rw [hBe.out]
  clear hg1
  go_upto_region 4 with (go_at_call 18; refine (a1.out _).mono ?_; rintro e w2 ⟨lo, lc, rfl, oL, hg2, fL⟩)
  have rs2 := rs1.kept0 hg2
  have hG2 := Hid.mk' (gt hG1.out hg2)
  obtain ⟨g, rfl, hgl, hfr, hcl⟩ := oL.at (by simp)
  have x0 : w2.cell? ⟨g, 0, none⟩ = some (.string (str y)) := hcl 0 (by simp) 0 _ rfl
  have rL := Hid.mk' oL.rd
  have q1 := oL.cap_le
  have q2 := oL.cap_max
  have hgw : Hid (w.heap.size ≤ g) := Hid.mk' (by have := fL g rfl; have := hG1.out.size; omega)
  have n0 : (0 : Int) < (ly.length : Int) + 1 := by omega
  clear hcl hfr oL hg2 rs1 fL
  go_upto_region 5 with (first
    | (go_at_call 19; refine (a2.out _).mono ?_; rintro e w3 ⟨rfl, hg3⟩)
    | (refine wpList_allocC _ rfl 23 rfl (wC 0 false false) (zeroW _) ?_; intro w4 va4 hg4)
    | (refine wpList_storeC _ rfl 23 _ _ rfl w3.heap.size (wC 0 false false) (wC (K : Int) false false) infoW rfl (wC_one _ _ _) rfl rfl va4 ?_; intro w5 va5 hg5))
  have hgV : Hid (g < w3.heap.size) := Hid.mk' (Nat.lt_of_lt_of_le hgl hg3.size)
  have hBV : Hid (B < w3.heap.size) := Hid.mk' (Nat.lt_of_lt_of_le rs2.lt hg3.size)
  have rs5 := ((rs2.kept0 hg3).kept0 hg4).kept hg5 (by have := hBV.out; intro e; have h5 := Option.some.inj e; omega)
  have rL5 := Hid.mk' (((rL.out.kept0 hg3).kept0 hg4).kept hg5 (.inr (by have := hgV.out; intro e; simp [blk] at e; omega)))
  have hG5 := Hid.mk' (grownBy_new (gt hG2.out (gt hg3 hg4)) hg5 (fun q hq => by have h5 := Option.some.inj hq; have h6 := (gt hG2.out hg3).size; omega))
  have hVw : Hid (w.heap.size ≤ w3.heap.size) := Hid.mk' (gt hG2.out hg3).size
  obtain ⟨V, hV⟩ : ∃ V, Hid (w3.heap.size = V) := ⟨_, Hid.mk' rfl⟩
  rw [hV.out] at va5 hgV hBV hVw
  rw [hV.out]
  have c0 := va5.cell 0 rfl
  clear hg3 hg4 hg5 va4 rs2 rL x0
  have hva := Hid.mk' va5
  have hrs := Hid.mk' rs5
  go_upto_region 8 with fail
  clear c0 va5 rs5 k0
  go_loopw [6] (fun t6 wx => ∃ (i : Nat) (t ig : Bool), 1 ≤ i ∧ i ≤ ly.length + 1 ∧ t6 = .int .i64 (i : Int) ∧ Hid (CA wx V 23 (wC (K : Int) t ig)) ∧ Hid (fl ((y :: ly).drop i) t ig = F) ∧ Hid (CA wx B 23 (wC 0 false false)) ∧ Hid (StE.Rd wx (some ⟨g, 0, none⟩) (y :: ly)) ∧ Hid (w.grownBy wx none)) (fun t6 _ => ly.length + 1 - (intOf t6).toNat)
  case atStart => exact ⟨1, false, false, by omega, by omega, rfl, hva, hF, hrs, rL5, hG5⟩
  case round =>
    obtain ⟨i, t, ig, hi1, hi, rfl, va0, hfl, rs0, rLx, hG⟩ := hrel
    have va := va0.out
    have rs := rs0.out
    by_cases hlt : i < ly.length + 1
    · have hiL : i < (y :: ly).length := by simpa using hlt
      have hlt' : (i : Int) < (ly.length : Int) + 1 := by omega
      have hi0 : (0 : Int) ≤ (i : Int) := by omega
      obtain ⟨b', o', e', hb', x0⟩ := stcell rLx.out hiL
      cases e'
      rw [Nat.zero_add] at x0
      obtain ⟨x, hx⟩ : ∃ x, Hid ((y :: ly)[i] = x) := ⟨_, Hid.mk' rfl⟩
      rw [hx.out] at x0
      have hxl : x.length ≤ 64 := hlx.out x (by rw [← hx.out]; exact List.getElem_mem hiL)
      obtain ⟨T, hT⟩ : ∃ T, Hid (large x = T) := ⟨_, Hid.mk' rfl⟩
      have a3 := Hid.mk' (fun w => large_any x (by omega) w)
      rw [hT.out] at a3
      have hfl2 : Hid (F = if T = [84, 82, 65, 78, 83, 76, 73, 84] then fl ((y :: ly).drop (i + 1)) true ig else if T = [73, 71, 78, 79, 82, 69] then fl ((y :: ly).drop (i + 1)) t true else if T = [] then fl ((y :: ly).drop (i + 1)) t ig else none) := Hid.mk' (by
        rw [← hfl.out, List.drop_eq_getElem_cons hiL, hx.out, fl, hT.out])
      obtain ⟨ts, hts⟩ : ∃ ts, Hid (str T = ts) := ⟨_, Hid.mk' rfl⟩
      rw [hts.out] at a3
      have htl : Hid (ts.toList = T) := Hid.mk' (by rw [← hts.out, str_toList])
      clear hfl hx hxl hts
      by_cases h1 : T = [84, 82, 65, 78, 83, 76, 73, 84]
      · have f1 : (ts.toList == [84, 82, 65, 78, 83, 76, 73, 84]) = true := by rw [htl.out, h1]; decide
        have hnx : Hid (fl ((y :: ly).drop (i + 1)) true ig = F) := Hid.mk' (by rw [hfl2.out, if_pos h1])
        clear htl hfl2 h1
        go_wp2_with (go_at_call 20; refine (a3.out _).mono ?_; rintro e w6 ⟨rfl, hg6⟩; have z1 := (va.kept0 hg6).free 1; have z2 := (va.kept0 hg6).free 2; have y1 := (va.kept0 hg6).cell 1 rfl; have y2 := (va.kept0 hg6).cell 2 rfl)
        go_roundw
        case rel =>
          refine ⟨i + 1, true, ig, by omega, by omega, by go_num, Hid.mk' ((va.kept0 hg6).set 1 (.bool true)), hnx, Hid.mk' ((rs.kept0 hg6).other (by have := hBV.out; omega) 1 _), Hid.mk' ((rLx.out.kept0 hg6).kept (grownBy_setCell _ _ _) (.inr (by have := hgV.out; intro e; simp [blk] at e; omega))), Hid.mk' (grownBy_new (gt hG.out hg6) (grownBy_setCell _ ⟨V, 1, none⟩ _) (fun q hq => by have h5 := Option.some.inj hq; have h6 := hVw.out; simp at h5; omega))⟩
        all_goals (simp [intOf] <;> omega)
      · have f1 : (ts.toList == [84, 82, 65, 78, 83, 76, 73, 84]) = false := by rw [htl.out]; simpa using h1
        by_cases h2 : T = [73, 71, 78, 79, 82, 69]
        · have f2 : (ts.toList == [73, 71, 78, 79, 82, 69]) = true := by rw [htl.out, h2]; decide
          have hnx : Hid (fl ((y :: ly).drop (i + 1)) t true = F) := Hid.mk' (by rw [hfl2.out, if_neg h1, if_pos h2])
          clear htl hfl2 h1 h2
          go_wp2_with (go_at_call 20; refine (a3.out _).mono ?_; rintro e w6 ⟨rfl, hg6⟩; have z1 := (va.kept0 hg6).free 1; have z2 := (va.kept0 hg6).free 2; have y1 := (va.kept0 hg6).cell 1 rfl; have y2 := (va.kept0 hg6).cell 2 rfl)
          go_roundw
          case rel =>
            refine ⟨i + 1, t, true, by omega, by omega, by go_num, Hid.mk' ((va.kept0 hg6).set 2 (.bool true)), hnx, Hid.mk' ((rs.kept0 hg6).other (by have := hBV.out; omega) 2 _), Hid.mk' ((rLx.out.kept0 hg6).kept (grownBy_setCell _ _ _) (.inr (by have := hgV.out; intro e; simp [blk] at e; omega))), Hid.mk' (grownBy_new (gt hG.out hg6) (grownBy_setCell _ ⟨V, 2, none⟩ _) (fun q hq => by have h5 := Option.some.inj hq; have h6 := hVw.out; simp at h5; omega))⟩
          all_goals (simp [intOf] <;> omega)
        · have f2 : (ts.toList == [73, 71, 78, 79, 82, 69]) = false := by rw [htl.out]; simpa using h2
          by_cases h3 : T = []
          · have f3 : ts.toList.isEmpty = true := by rw [htl.out, h3]; rfl
            have hnx : Hid (fl ((y :: ly).drop (i + 1)) t ig = F) := Hid.mk' (by rw [hfl2.out, if_neg h1, if_neg h2, if_pos h3])
            clear htl hfl2 h1 h2 h3
            go_wp2_with (go_at_call 20; refine (a3.out _).mono ?_; rintro e w6 ⟨rfl, hg6⟩)
            go_roundw
            case rel => exact ⟨i + 1, t, ig, by omega, by omega, by go_num, Hid.mk' (va.kept0 hg6), Hid.mk' (hnx.out), Hid.mk' (rs.kept0 hg6), Hid.mk' (rLx.out.kept0 hg6), Hid.mk' (gt hG.out hg6)⟩
            all_goals (simp [intOf] <;> omega)
          · have f3 : ts.toList.isEmpty = false := by rw [htl.out]; simpa using h3
            have hFn : F = none := by rw [hfl2.out, if_neg h1, if_neg h2, if_neg h3]
            subst hFn
            clear htl hfl2 h1 h2 h3
            go_wp2_with (first
              | (go_at_call 20; refine (a3.out _).mono ?_; rintro e w6 ⟨rfl, hg6⟩)
              | (refine wpList_storeC _ rfl 23 _ _ rfl B (wC 0 false false) (wC 0 false false) infoW rfl (wC_one _ _ _) rfl rfl (rs.kept0 hg6) ?_; intro wz rsz hgz))
            refine bodyPost_ret (v := .tuple #[.agg (wC 0 false false), .int .i64 3]) (results_cell_row_tmp Tryd.results7 _ wz B 23 _ (0, 0) _ rfl rsz Tryd.underlying23 rfl infoW _ rfl) rfl ⟨rfl, ?_⟩
            exact grownBy_new (gt hG.out hg6) hgz (fun k hk => by have h5 := Option.some.inj hk; have h6 := hB2.out; omega)
    · obtain rfl : i = ly.length + 1 := by omega
      have hFs : F = some (t, ig) := by
        rw [← hfl.out]
        have e : (y :: ly).drop (ly.length + 1) = [] := List.drop_eq_nil_of_le (by simp)
        rw [e, fl]
      subst hFs
      clear hfl
      go_upto_region 17 with fail
      go_wp2_with (first
        | (refine wpList_loadC _ rfl 23 _ rfl _ Tryd.underlying23 rfl V (wC (K : Int) t ig) infoW rfl va ?_)
        | (refine wpList_storeC _ rfl 23 _ _ rfl B (wC 0 false false) (wC (K : Int) t ig) infoW rfl (wC_one _ _ _) rfl rfl rs ?_; intro wz rsz hgz))
      refine bodyPost_ret (v := .tuple #[.agg (wC (K : Int) t ig), .int .i64 0]) (results_cell_row_tmp Tryd.results7 _ wz B 23 _ (0, 0) _ rfl rsz Tryd.underlying23 rfl infoW _ rfl) rfl ⟨rfl, ?_⟩
      exact grownBy_new hG.out hgz (fun k hk => by have h5 := Option.some.inj hk; have h6 := hB2.out; omega)
def prV (p : Int × Bool × Bool × Int) : Value := .tuple #[.agg (wC p.1 p.2.1 p.2.2.1), .int .i64 p.2.2.2]
theorem parse_any (s : List UInt8) (w : World) : Calls Tryd.prog 7 #[.string (str s)] w fun e w' => e = .returned (prV (prs s)) ∧ w.grownBy w' none := by
  by_cases h : 64 < s.length
  · rw [prs_long h]
    exact parse_long s h w
  · unfold prs
    rw [if_neg h]
    by_cases h0 : fd ((pts [] s).headD []) = 0
    · rw [if_pos h0]
      exact parse_name s (by omega) h0 w
    · rw [if_neg h0]
      have := parse_yes s (by omega) h0 _ (Hid.mk' rfl) w
      cases hf : fl (pts [] s).tail false false with
      | none => rw [hf] at this; exact this
      | some p => obtain ⟨t, i⟩ := p; rw [hf] at this; exact this
end Go.Proofs.YtljkncgbabiojaaDoor.C23

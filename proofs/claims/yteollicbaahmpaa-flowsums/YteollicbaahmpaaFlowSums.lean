/- For every input FlowSums returns true and leaves its arguments as they were: no condition. -/
import Derived.Test.YteollicbaahmpaaRows
import Derived.WalkKit
import Derived.ProofKit
import Derived.OpenShut
import Derived.ShutString
import Derived.ChangeOld
import Derived.Below
import Derived.SizedLaws
import Derived.Test.YteollicbaahmpaaMoves
namespace Go.Proofs.Yteollicbaahmpaa.flowSums
open Go.ChangeShapes Go.WideShapes Go.ChangeAt Go.RowKit Go.Proofs.Yteollicbaahmpaa.Mem
open Go.ChangeMaps (open_string shut_string)
set_option linter.unusedVariables false

theorem own : ownKnob Try.prog.godebug = none := by kernel_rfl
theorem bytes3 : Try.prog.bytesOf 3 = 8 := by kernel_rfl
theorem bytes5 : Try.prog.bytesOf 5 = 1 := by kernel_rfl
theorem laidOut : laidOutB Try.prog = true := by kernel_rfl

def IsRow (k : IntKind) (w : World) (a : Option Addr) (len cap : Nat) (zs : List Int) : Prop :=
  (a = none ∧ len = 0 ∧ cap = 0 ∧ zs = []) ∨
  ∃ x, a = some x ∧ len ≤ cap ∧ cap ≤ 140737488351232 ∧ zs.length = cap ∧ (∀ i, i < zs.length → w.cell? (x.add i) = some (.int k (zs.getD i 0))) ∧ ∀ n ∈ zs, (Lit.int k n).wf = true

set_option maxHeartbeats 4000000 in
theorem walk (a0 : Option Addr) (len0 cap0 : Nat) (z0 : List Int) (a1 : Option Addr) (len1 cap1 : Nat) (z1 : List Int) (a2 : Int) (w : World) (w0 : IsRow .u8 w a0 len0 cap0 z0) (w1 : IsRow .i64 w a1 len1 cap1 z1) (w2 : (Lit.int .i64 a2).wf = true) :
    Calls Try.prog 5 #[.slice a0 len0 cap0, .slice a1 len1 cap1, .int .i64 a2] w fun e w' => e = .returned (.bool true) ∧ Below w.heap.size w w' := by
  obtain ⟨L, rfl, hB, hLc, hcm⟩ := bytes_of_row w0
  obtain ⟨⟨Z, hZ⟩, hlen⟩ := cells_of_row w1
  clear w0 w1
  obtain ⟨R, hR, hR2⟩ := mod_fit a2 1000 (by omega) (by omega)
  have HZ : Hid (∀ j, j < len1 → (Lit.int .i64 (Z j)).wf = true ∧ ∃ b o, a1 = some ⟨b, o, none⟩ ∧ b < w.heap.size ∧ w.cell? ⟨b, o + j, none⟩ = some (.int .i64 (Z j))) := hZ
  have HB : Hid (Bytes w a0 L) := hB
  clear hZ hB
  have hR' : wrap64 ((IntKind.u64.wrap a2).tmod 1000) = (R : Int) := hR
  clear hR
  go_enter Try.func5, Try.ntmps5
  go_wp2_with (first
    | (go_at_call 19; refine (works_any _).mono ?_; rintro e w1 ⟨rfl, hg1⟩)
    | (go_at_call 7; refine (newIn_any _ _ L _ ?_ (by omega)).mono ?_; exact HB.out.kept0 hg1; rintro e w2 ⟨b, ao, c, rfl, hI, hg2, hb, ho⟩)
    | (go_at_call 14; refine (newOut_any (R : Int) _ (by omega)).mono ?_; rintro e w3 ⟨d, rfl, hO, hg3, hd⟩))
  have hb' : w.heap.size ≤ b := Nat.le_trans hg1.size hb
  have hd' : w.heap.size ≤ d := Nat.le_trans hg1.size (Nat.le_trans hg2.size hd)
  have ho' : ∀ g, blk ao = some g → w.heap.size ≤ g := fun g e => Nat.le_trans hg1.size (ho g e)
  have B1 : Below w.heap.size w w1 := (Below.refl _ w).grown hg1 (Nat.le_refl _) (by simp)
  have B2 : Below w.heap.size w w2 := B1.grown hg2 B1.size (by simp)
  have B3 : Below w.heap.size w w3 := B2.grown hg3 B2.size (by simp)
  have hI3 : InAt w3 b ao c L 0 := hI.kept0 hg3
  have hO3 : OutAt w3 d none 0 (L.take 0) ((R : Int) - (0 : Nat)) := by
    have e : max (R : Int) 0 = (R : Int) - (0 : Nat) := by omega
    rw [e] at hO
    exact hO
  clear hg1 hg2 hg3 hb hd ho B1 B2 hI hO
  go_loopw [9] (fun i wr => ∃ (k p : Nat) (zo : Option Addr) (zc : Nat), i = .int .i64 k ∧ k ≤ 60 ∧ k ≤ len1 ∧ InAt wr b ao c L p ∧ OutAt wr d zo zc (L.take p) ((R : Int) - p) ∧ Below w.heap.size w wr ∧ (∀ g, blk zo = some g → blk ao ≠ some g) ∧ (∀ g, blk zo = some g → w.heap.size ≤ g)) (fun i _ => 60 - (intOf i).toNat)
  case atStart => exact ⟨0, 0, none, 0, rfl, by omega, by omega, hI3, hO3, B3, by simp [blk], by simp [blk]⟩
  case round =>
    clear hI3 hO3 B3
    obtain ⟨k, p, zo, zc, rfl, hk60, hkl, hI, hO, hbel, hsep, hlow⟩ := hrel
    by_cases hlt : k < len1 ∧ k < 60
    · obtain ⟨hk1, hk2⟩ := hlt
      obtain ⟨_, sb, so, rfl, hsb, hcell⟩ := HZ.out k hk1
      have hcw : wr.cell? ⟨sb, so + k, none⟩ = some (.int .i64 (Z k)) := (hbel.cell hsb).trans hcell
      obtain ⟨n, hn, hn9⟩ := mod_fit (Z k) 9 (by omega) (by omega)
      have hn' : wrap64 ((IntKind.u64.wrap (Z k)).tmod 9) = (n : Int) := hn
      clear hn
      obtain ⟨M, HM⟩ : ∃ M, Hid ((L.drop p).take n = M) := ⟨_, rfl⟩
      have HMl : Hid (M.length = min n (L.length - p)) := by show M.length = _; rw [← HM.out]; simp
      have hpL := hI.le
      have hMp : p + M.length ≤ L.length := by have := HMl.out; omega
      have hlL : Hid (∀ q, q ≤ L.length → (L.take q).length = q) := fun q hq => len_take hq
      by_cases hfit : (M.length : Int) ≤ (R : Int) - p
      · go_wp2_with (first
          | (go_at_call 8; refine (peek_is _ b ao c L p (n : Int) hI M HM.out M.length rfl).mono ?_; rintro e w3 ⟨xo, xc, rfl, hx, hg3, hxf⟩; have hcv := conv_is hx M.length rfl (str M) rfl; have hI3 := hI.kept0 hg3; have hO3 := hO.kept0 hg3; have B3 := hbel.grown hg3 hbel.size (by simp))
          | (go_at_call 17; refine (room_any _ d _ _ _ _ (by assumption)).mono ?_; rintro e w' ⟨rfl, hw⟩; obtain rfl := hw)
          | (go_at_call 15; refine (put_yes _ d zo zc (L.take p) _ (str M) hO3 (by rw [str_size]; exact hfit) (by rw [str_size, hlL.out p hpL]; omega)).mono ?_; rintro e w4 ⟨zo', zc', rfl, hO4', hk4, hz4⟩; have hO4 := out_more hO4' HM.out; have hI4 := in_put hI3 hO3 hk4 hsep; have hsep4 := put_sep hI3.own hsep hz4; have hlow4 := put_low B3.size hlow hz4; have B4 := Kept.below B3 hk4 B3.size (by rintro j (rfl | e); exact hd'; exact hlow j e); clear hO4')
          | (go_at_call 10; refine (skip_yes _ b ao c L p M.length hI4 hMp).mono ?_; rintro e w5 ⟨rfl, hI5, hg5⟩; have hO5 := hO4.aside hg5 hI4.blk (by decide) (by decide); have B5 := B4.grown hg5 B4.size (by intro j e; simp at e; omega); clear hI4 hO4)
          | (go_at_call 12; refine (left_any _ b ao c L _ (by assumption)).mono ?_; rintro e w' ⟨rfl, hw⟩; obtain rfl := hw)
          | (go_at_call 13; refine (at_any _ b ao c L _ (by assumption)).mono ?_; rintro e w' ⟨rfl, hw⟩; obtain rfl := hw)
          | (go_at_call 18; refine (bytes_any _ d _ _ _ _ (by assumption)).mono ?_; rintro e w6 ⟨yo, yc, rfl, hy, hg6, hyf⟩))
        go_roundw
        case rel => exact ⟨k + 1, p + M.length, zo', zc', by go_num, by omega, by omega, hI5.kept0 hg6, hO5.kept0 hg6, B5.grown hg6 B5.size (by simp), hsep4, hlow4⟩
        case measure => simp [intOf]; omega
      · have hfit' : (R : Int) - p < (M.length : Int) := by omega
        clear hfit
        go_wp2_with (first
          | (go_at_call 8; refine (peek_is _ b ao c L p (n : Int) hI M HM.out M.length rfl).mono ?_; rintro e w3 ⟨xo, xc, rfl, hx, hg3, hxf⟩; have hcv := conv_is hx M.length rfl (str M) rfl; have hI3 := hI.kept0 hg3; have hO3 := hO.kept0 hg3; have B3 := hbel.grown hg3 hbel.size (by simp))
          | (go_at_call 17; refine (room_any _ d _ _ _ _ (by assumption)).mono ?_; rintro e w' ⟨rfl, hw⟩; obtain rfl := hw)
          | (go_at_call 15; refine (put_no _ d zo zc (L.take p) _ (str M) (by assumption) (by rw [str_size]; exact hfit')).mono ?_; rintro e w' ⟨rfl, hw⟩; obtain rfl := hw)
          | (go_at_call 12; refine (left_any _ b ao c L _ (by assumption)).mono ?_; rintro e w' ⟨rfl, hw⟩; obtain rfl := hw)
          | (go_at_call 13; refine (at_any _ b ao c L _ (by assumption)).mono ?_; rintro e w' ⟨rfl, hw⟩; obtain rfl := hw)
          | (go_at_call 18; refine (bytes_any _ d _ _ _ _ (by assumption)).mono ?_; rintro e w6 ⟨yo, yc, rfl, hy, hg6, hyf⟩))
        go_roundw
        case rel => exact ⟨k + 1, p, zo, zc, by go_num, by omega, by omega, hI3.kept0 hg6, hO3.kept0 hg6, B3.grown hg6 B3.size (by simp), hsep, hlow⟩
        case measure => simp [intOf]; omega
    · have hpL := hI.le
      have p0 : (0 : Int) ≤ (p : Int) := by omega
      have p1 : (p : Int) ≤ (L.length : Int) := by omega
      have p2 : (p : Int) ≤ (cap0 : Int) := by omega
      rcases (show ¬ k < len1 ∨ (k < len1 ∧ ¬ k < 60) by omega) with hno | ⟨hyes, hno⟩
      all_goals
        obtain ⟨T, HT⟩ : ∃ T, Hid (L.take p = T) := ⟨_, rfl⟩
        have HTl : Hid (T.length = p) := by show T.length = p; rw [← HT.out]; exact len_take hpL
        have hBT : Bytes wr a0 T := by rw [← HT.out]; exact (HB.out.below hbel (Nat.le_refl _)).take p
        rw [HT.out] at hO
        have hO' := hO.kept0 (drew_grown wr)
        have hI' := hI.kept0 (drew_grown wr)
        go_wp2_with fail
        go_region_with (first
          | (go_at_call 18; refine (bytes_any _ d zo zc T ((R : Int) - p) hO').mono ?_; rintro e w7 ⟨yo, yc, rfl, hy, hg7, hyf⟩; have hcv := conv_is hy T.length rfl (str T) rfl; have hI7 := hI'.kept0 hg7; have hcb := conv_bytes (hBT.kept0 (grownBy_of_drew hg7)) cap0 p HTl.out; have B7 := hbel.grown (grownBy_of_drew hg7) hbel.size (by simp))
          | (go_at_call 13; refine (at_any _ b ao c L p hI7).mono ?_; rintro e w' ⟨rfl, hw⟩; obtain rfl := hw))
        all_goals
          go_wp2
          go_ret
          exact ⟨rfl, B7⟩

set_option maxRecDepth 100000 in
theorem lifted (os : Os) (started : os.Started) (H : Type) (enc : TypeId × Value → H) :
    ReturnsInHanded {} Try.checked os 5 .any (Rows.flowSumsSpec.pre6 enc Try.prog Try.f5 Rows.flowSumsRow.domain false) (Rows.flowSumsSpec.post enc Try.prog Try.f5 false true false false) := by
  refine returnsInHanded_of_change_sized (C := Try.checked) own started (by kernel_rfl) Try.func5
    (ChangeSpec.witness6 (enc := enc) (C := Try.checked) false ⟨#[], #[.slice none 0 0, .slice none 0 0, .int .i64 0], []⟩ 8 (by kernel_rfl) (by kernel_rfl) (by kernel_rfl) (by kernel_rfl)) ?_
  intro W base args ds gs before hval0 hW hcnd hsz0 _
  have hsz : (DataW.weightsEach Try.prog (Try.f5.params.toList ++ Rows.flowSumsSpec.plain.varTypes Try.prog) (ds ++ gs)).all (· ≤ reachBytes) = true := hsz0
  have hval : ∀ (j : Nat) t v, Try.f5.params[j]? = some t → args[j]? = some v → Value.okWide Try.prog W .any base t v := hval0
  have hW' := hW
  obtain ⟨p, q, hA0, hV, rfl, hfz, hnd⟩ := hW
  have hA : DataW.TrodAll enc Try.prog W 0 (fun _ => true) true Try.f5.params.toList args.toList ds p := hA0
  rw [Try.params5] at hA hval hsz
  obtain ⟨v0, vs0, d0, ds0, p0, q0, hargs, rfl, rfl, h0, r0⟩ := trodAll_cons hA
  obtain ⟨v1, vs1, d1, ds1, p1, q1, rfl, rfl, rfl, h1, r1⟩ := trodAll_cons r0
  obtain ⟨v2, vs2, d2, ds2, p2, q2, rfl, rfl, rfl, h2, r2⟩ := trodAll_cons r1
  obtain ⟨rfl, rfl, rfl⟩ := trodAll_nil r2
  obtain rfl : args = #[v0, v1, v2] := by cases args; simp_all
  obtain ⟨rfl, rfl⟩ := trodVars_none hV
  obtain ⟨a0, len0, cap0, rfl⟩ := okWide_slice Try.underlying22 (hval 0 22 v0 rfl rfl)
  have k0 := h0
  have lt0 : ∀ x ∈ p0, x.block < W.heap.size := by obtain ⟨m, hm⟩ := k0; exact DataW.trod_lt m _ _ _ hm
  obtain ⟨z0, w0⟩ : ∃ zs, IsRow .u8 W a0 len0 cap0 zs := by
    obtain ⟨fuel, hf⟩ := h0
    rcases open_ints Try.underlying22 Try.underlying5 (by kernel_rfl) hf with ⟨hcs, _⟩ | ⟨x, l, c, zs, hcs, _, hl, hm, hz, hx, hcell, hwz⟩
    · simp [Value.cells] at hcs
      obtain ⟨rfl, rfl, rfl⟩ := hcs
      exact ⟨[], .inl ⟨rfl, rfl, rfl, rfl⟩⟩
    · simp [Value.cells] at hcs
      obtain ⟨rfl, rfl, rfl⟩ := hcs
      simp only [Prod.mk.injEq] at hx
      have hr := sized_slice hsz (j := 0) (t := 22) (e := 5) rfl (by rw [hx.1]; rfl) Try.underlying22
      rw [bytes5] at hr
      simp only [lits, List.length_map, List.length_take, List.length_drop, reachBytes] at hr
      simp only [if_true] at hz
      exact ⟨zs, .inr ⟨_, rfl, hl, by omega, hz, hcell, hwz⟩⟩
  obtain ⟨a1, len1, cap1, rfl⟩ := okWide_slice Try.underlying23 (hval 1 23 v1 rfl rfl)
  have k1 := h1
  have lt1 : ∀ x ∈ p1, x.block < W.heap.size := by obtain ⟨m, hm⟩ := k1; exact DataW.trod_lt m _ _ _ hm
  obtain ⟨z1, w1⟩ : ∃ zs, IsRow .i64 W a1 len1 cap1 zs := by
    obtain ⟨fuel, hf⟩ := h1
    rcases open_ints Try.underlying23 Try.underlying3 (by kernel_rfl) hf with ⟨hcs, _⟩ | ⟨x, l, c, zs, hcs, _, hl, hm, hz, hx, hcell, hwz⟩
    · simp [Value.cells] at hcs
      obtain ⟨rfl, rfl, rfl⟩ := hcs
      exact ⟨[], .inl ⟨rfl, rfl, rfl, rfl⟩⟩
    · simp [Value.cells] at hcs
      obtain ⟨rfl, rfl, rfl⟩ := hcs
      simp only [Prod.mk.injEq] at hx
      have hr := sized_slice hsz (j := 1) (t := 23) (e := 3) rfl (by rw [hx.1]; rfl) Try.underlying23
      rw [bytes3] at hr
      simp only [lits, List.length_map, List.length_take, List.length_drop, reachBytes] at hr
      simp only [if_true] at hz
      exact ⟨zs, .inr ⟨_, rfl, hl, by omega, hz, hcell, hwz⟩⟩
  obtain ⟨a2, rfl, rfl, rfl, w2⟩ := open_int Try.underlying3 (hval 2 3 v2 rfl rfl) h2
  clear hA0 hval0
  refine (walk a0 len0 cap0 z0 a1 len1 cap1 z1 a2 W w0 w1 w2).mono fun e W' ⟨he, bel⟩ => ?_
  subst he
  exact ⟨_, rfl, _, _, _, [], _, [], hW', trodAll_mk1 (shut_bool Try.underlying4 _), (trodAll_cons_mk (Below.trod laidOut (by kernel_rfl) (of_decide_eq_true (by kernel_rfl)) k0 bel lt0) (trodAll_cons_mk (Below.trod laidOut (by kernel_rfl) (of_decide_eq_true (by kernel_rfl)) k1 bel lt1) (trodAll_cons_mk (shut_int Try.underlying3 w2) trodAll_mk0))), rfl, bel.frame _, fun h => by cases h⟩

theorem over : Rows.flowSumsRow.holds Try.pinned (OpenSpec.ofChange Rows.flowSumsSpec) :=
  OpenClaim.holds_of_wide 5 Try.f5 rfl rfl rfl rfl rfl rfl rfl ⟨rfl, rfl, rfl, rfl, rfl⟩ rfl rfl rfl rfl rfl (by kernel_rfl) Try.func5 (by kernel_rfl)
    (of_decide_eq_true (by kernel_rfl)) (by unfold Func.isWrapper; first | (rw [if_pos (by decide +kernel)]; kernel_rfl) | (rw [if_neg (by decide +kernel)]; exact ⟨rfl, rfl⟩))
    (fun os started H enc _ => lifted os started H enc)

theorem proved : Rows.FlowSumsSaid := over
end Go.Proofs.Yteollicbaahmpaa.flowSums
namespace Go.Proofs.Yteollicbaahmpaa
theorem flowSums_holds : Rows.FlowSumsSaid := flowSums.proved
#print axioms flowSums_holds
end Go.Proofs.Yteollicbaahmpaa

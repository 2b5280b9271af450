/- For every input FlowPieces returns true and leaves its arguments as they were: no condition. -/
import Derived.Test.YteollicbaahmpaaRows
import Derived.WalkKit
import Derived.ProofKit
import Derived.OpenShut
import Derived.ShutString
import Derived.ChangeOld
import Derived.Below
import Derived.SizedLaws
import Derived.Test.YteollicbaahmpaaMoves
namespace Go.Proofs.Yteollicbaahmpaa.flowPieces
open Go.ChangeShapes Go.WideShapes Go.ChangeAt Go.RowKit Go.Proofs.Yteollicbaahmpaa.Mem
open Go.ChangeMaps (open_string shut_string)
set_option linter.unusedVariables false

theorem own : ownKnob Try.prog.godebug = none := by kernel_rfl
theorem bytes3 : Try.prog.bytesOf 3 = 8 := by kernel_rfl
theorem bytes5 : Try.prog.bytesOf 5 = 1 := by kernel_rfl
theorem laidOut : laidOutB Try.prog = true := by kernel_rfl

def IsRow (k : IntKind) (w : World) (a : Option Addr) (len cap : Nat) (zs : List Int) : Prop :=
  (a = none ∧ len = 0 ∧ cap = 0 ∧ zs = []) ∨
  ∃ x, a = some x ∧ len ≤ cap ∧ cap ≤ 140737488351232 ∧ zs.length = cap ∧ (∀ i, i < zs.length → w.cell? (x.add i) = some (.int k (zs.getD i 0))) ∧ ∀ n ∈ zs, (Lit.int k n).wf = true

set_option maxHeartbeats 4000000 in
set_option maxRecDepth 100000 in
theorem walk (a0 : Option Addr) (len0 cap0 : Nat) (z0 : List Int) (a1 : Option Addr) (len1 cap1 : Nat) (z1 : List Int) (a2 : Int) (w : World) (w0 : IsRow .u8 w a0 len0 cap0 z0) (w1 : IsRow .i64 w a1 len1 cap1 z1) (w2 : (Lit.int .i64 a2).wf = true) :
    Calls Try.prog 6 #[.slice a0 len0 cap0, .slice a1 len1 cap1, .int .i64 a2] w fun e w' => e = .returned (.bool true) ∧ Below w.heap.size w w' := by
  obtain ⟨L, rfl, hB, hLc, hcm⟩ := bytes_of_row w0
  obtain ⟨⟨Z, hZ⟩, hlen⟩ := cells_of_row w1
  clear w0 w1
  obtain ⟨R, hR, hR2⟩ := mod_fit a2 50 (by omega) (by omega)
  have HZ : Hid (∀ j, j < len1 → (Lit.int .i64 (Z j)).wf = true ∧ ∃ b o, a1 = some ⟨b, o, none⟩ ∧ b < w.heap.size ∧ w.cell? ⟨b, o + j, none⟩ = some (.int .i64 (Z j))) := hZ
  have HB : Hid (Bytes w a0 L) := hB
  clear hZ hB
  have hR' : wrap64 ((IntKind.u64.wrap a2).tmod 50) = (R : Int) := hR
  clear hR
  go_enter Try.func6, Try.ntmps6
  go_wp2_with (first
    | (go_at_call 19; refine (works_any _).mono ?_; rintro e w1 ⟨rfl, hg1⟩)
    | (go_at_call 7; refine (newIn_any _ _ L _ ?_ (by omega)).mono ?_; exact HB.out.kept0 hg1; rintro e w2 ⟨b, ao, c, rfl, hI, hg2, hb, ho⟩))
  have hb' : w.heap.size ≤ b := Nat.le_trans hg1.size hb
  have B1 : Below w.heap.size w w1 := (Below.refl _ w).grown hg1 (Nat.le_refl _) (by simp)
  have B2 : Below w.heap.size w w2 := B1.grown hg2 B1.size (by simp)
  clear hg1 hg2 hb ho B1
  go_loopw [8, 9] (fun s i wr => ∃ (k p : Nat), s = .string (str (L.take p)) ∧ i = .int .i64 k ∧ k ≤ p ∧ InAt wr b ao c L p ∧ Below w.heap.size w wr) (fun _ i _ => L.length - (intOf i).toNat)
  case atStart => exact ⟨0, 0, rfl, rfl, by omega, hI, B2⟩
  case round =>
    clear hI B2
    obtain ⟨k, p, rfl, rfl, hkp, hI, hbel⟩ := hrel
    have hpL := hI.le
    obtain ⟨T, HT⟩ : ∃ T, Hid (L.take p = T) := ⟨_, rfl⟩
    have HTl : Hid (T.length = p) := by show T.length = p; rw [← HT.out]; exact len_take hpL
    rw [HT.out]
    by_cases hlt : p < L.length
    · have hl0 : (0 : Int) < (L.length : Int) - p := by omega
      have hl1 : (k : Int) < (L.length : Int) + 60 := by omega
      obtain ⟨m, hm, hm8⟩ := mod_fit (Z k) 8 (by omega) (by omega)
      have hm' : wrap64 ((IntKind.u64.wrap (Z k)).tmod 8) = (m : Int) := hm
      clear hm
      obtain ⟨M, HM⟩ : ∃ M, Hid ((L.drop p).take ((if k < len1 then 1 + (m : Int) else 1) : Int).toNat = M) := ⟨_, rfl⟩
      have HMl : Hid (M.length = min ((if k < len1 then 1 + (m : Int) else 1) : Int).toNat (L.length - p)) := by show M.length = _; rw [← HM.out]; simp
      have HM2 : Hid (T ++ M = L.take (p + M.length)) := by show T ++ M = _; rw [← HM.out, ← HT.out, take_more]
      have hMp : p + M.length ≤ L.length := by have := HMl.out; omega
      have hM1 : 1 ≤ M.length := by have := HMl.out; split at this <;> omega
      have hadd : ∀ wx, (Op.stringOp .add (str T) (str M)).run Try.prog wx = .ok (.string (str (T ++ M))) wx := fun wx => by rw [run_string_add_sum wx _ _ (by rw [str_size, str_size, HTl.out]; omega), str_append]
      by_cases hk : k < len1
      · rw [if_pos hk] at HM HMl
        obtain ⟨_, sb, so, rfl, hsb, hcell⟩ := HZ.out k hk
        have hcw : wr.cell? ⟨sb, so + k, none⟩ = some (.int .i64 (Z k)) := (hbel.cell hsb).trans hcell
        rcases (show (M.length : Int) = 1 + (m : Int) ∨ ((M.length : Int) < 1 + (m : Int) ∧ (L.length : Int) - p ≤ (M.length : Int) ∧ (M.length : Int) ≤ (L.length : Int) - p) by have := HMl.out; omega) with heq | ⟨h1, h2, h3⟩
        · have hm'' : wrap64 ((IntKind.u64.wrap (Z k)).tmod 8) = (M.length : Int) - 1 := by rw [hm']; omega
          have e : (1 + (m : Int)).toNat = M.length := by omega
          rw [e] at HM
          clear hm' heq e
          go_wp2_with (first
            | (go_at_call 8; refine (peek_at _ b ao c L p _ M.length (by omega) hI M HM.out).mono ?_; rintro e w3 ⟨xo, xc, rfl, hx, hg3, hxf⟩; have hI3 := hI.kept0 hg3; have B3 := hbel.grown hg3 hbel.size (by simp); clear hI)
            | (go_at_call 12; refine (left_any _ b ao c L p (by assumption)).mono ?_; rintro e w' ⟨rfl, hw⟩; obtain rfl := hw)
            | (go_at_call 10; refine (skip_is _ b ao c L p _ M.length (by omega) hI3 hMp).mono ?_; rintro e w5 ⟨rfl, hI5, hg5⟩; have hx5 := hx.kept hg5 (.inr (hx.apart hI3.blk (by decide))); have hcv := conv_is hx5 M.length rfl (str M) rfl; have B5 := B3.grown hg5 B3.size (by intro j e; simp at e; omega); clear hI3))
          all_goals first
            | (exfalso; have := HMl.out; omega)
            | (go_roundw
               case rel => exact ⟨k + 1, p + M.length, by rw [HM2.out], by go_num, by omega, hI5, B5⟩
               case measure => simp [intOf]; omega)
        · have e : (1 + (m : Int)).toNat = 1 + m := by omega
          rw [e] at HM HMl
          clear e h2 h3
          go_wp2_with (first
            | (go_at_call 8; refine (peek_at _ b ao c L p _ (1 + m) (by omega) hI M HM.out).mono ?_; rintro e w3 ⟨xo, xc, rfl, hx, hg3, hxf⟩; have hI3 := hI.kept0 hg3; have B3 := hbel.grown hg3 hbel.size (by simp); clear hI)
            | (go_at_call 12; refine (left_any _ b ao c L p (by assumption)).mono ?_; rintro e w' ⟨rfl, hw⟩; obtain rfl := hw)
            | (go_at_call 10; refine (skip_is _ b ao c L p _ M.length (by omega) hI3 hMp).mono ?_; rintro e w5 ⟨rfl, hI5, hg5⟩; have hx5 := hx.kept hg5 (.inr (hx.apart hI3.blk (by decide))); have hcv := conv_is hx5 M.length rfl (str M) rfl; have B5 := B3.grown hg5 B3.size (by intro j e; simp at e; omega); clear hI3))
          all_goals first
            | (exfalso; have := HMl.out; omega)
            | (go_roundw
               case rel => exact ⟨k + 1, p + M.length, by rw [HM2.out], by go_num, by omega, hI5, B5⟩
               case measure => simp [intOf]; omega)
      · rw [if_neg hk] at HM HMl
        have e : ((1 : Int)).toNat = 1 := rfl
        rw [e] at HM HMl
        have hle : (M.length : Int) ≤ 1 := by have := HMl.out; omega
        go_wp2_with (first
            | (go_at_call 8; refine (peek_at _ b ao c L p _ 1 (by omega) hI M HM.out).mono ?_; rintro e w3 ⟨xo, xc, rfl, hx, hg3, hxf⟩; have hI3 := hI.kept0 hg3; have B3 := hbel.grown hg3 hbel.size (by simp); clear hI)
            | (go_at_call 12; refine (left_any _ b ao c L p (by assumption)).mono ?_; rintro e w' ⟨rfl, hw⟩; obtain rfl := hw)
            | (go_at_call 10; refine (skip_is _ b ao c L p _ M.length (by omega) hI3 hMp).mono ?_; rintro e w5 ⟨rfl, hI5, hg5⟩; have hx5 := hx.kept hg5 (.inr (hx.apart hI3.blk (by decide))); have hcv := conv_is hx5 M.length rfl (str M) rfl; have B5 := B3.grown hg5 B3.size (by intro j e; simp at e; omega); clear hI3))
        all_goals first
          | (exfalso; have := HMl.out; omega)
          | (go_roundw
             case rel => exact ⟨k + 1, p + M.length, by rw [HM2.out], by go_num, by omega, hI5, B5⟩
             case measure => simp [intOf]; omega)
    · obtain rfl : p = L.length := by omega
      obtain rfl : T = L := by rw [← HT.out]; simp
      have hcb := conv_bytes (HB.out.below hbel (Nat.le_refl _)) cap0 T.length rfl
      have hmk : ∀ W, (Instr.makeSlice 22 (.int .i64 ((R : Int) + 1)) (.int .i64 ((R : Int) + 1))).run Try.prog W = .ok (.slice (some ⟨W.heap.size, 0, none⟩) (R + 1) (R + 1)) (W.alloc (.cells (madeCells #[.int .u8 0] (R + 1)) 5)) := fun W => by
        have := make_zero (R + 1) (by omega) W
        have e : ((R + 1 : Nat) : Int) = (R : Int) + 1 := by omega
        rw [e] at this
        exact this
      obtain ⟨s, hs⟩ : ∃ s, str (List.replicate (R + 1) 0) = s := ⟨_, rfl⟩
      have hss : s.size = R + 1 := by rw [← hs, str_size]; simp
      have hcz := conv_zero (R + 1)
      rw [hs] at hcz
      clear hs
      have hex : (s.extract 0 R).size = R := by rw [ByteArray.size_extract]; omega
      have HS : Hid (s.size = R + 1) := hss
      have HX : Hid ((s.extract 0 R).size = R) := hex
      have hs1 : (R : Int) ≤ (s.size : Int) := by omega
      have hs2 : (R : Int) < (s.size : Int) := by omega
      clear hss hex
      go_wp2_with (first
        | (go_at_call 12; refine (left_any _ b ao c T _ hI).mono ?_; rintro e w' ⟨rfl, hw⟩; obtain rfl := hw)
        | (go_at_call 13; refine (at_any _ b ao c T _ hI).mono ?_; rintro e w' ⟨rfl, hw⟩; obtain rfl := hw)
        | (go_at_call 14; refine (newOut_any (R : Int) _ (by omega)).mono ?_; rintro e w3 ⟨d, rfl, hO, hg3, hd⟩)
        | (go_at_call_of 15 (Value.string s); refine (put_no _ d none 0 [] (max (R : Int) 0) s (hO.kept0 (World.grownBy_alloc _ _ _)) (by omega)).mono ?_; rintro e w' ⟨rfl, hw⟩)
        | (go_at_call_of 15 (Value.string (s.extract 0 R)); refine (put_yes _ d none 0 [] (max (R : Int) 0) (s.extract 0 R) (hO.kept0 (World.grownBy_alloc _ _ _)) (by rw [HX.out]; omega) (by rw [HX.out]; simp; omega)).mono ?_; rintro e w5 ⟨zo, zc, rfl, hO5', hk5, hz5⟩; obtain ⟨X, hX, hO5⟩ := out_is hO5' 0 (by rw [HX.out]; omega) R (by rw [HX.out]; simp); clear hO5')
        | (go_at_call_of 15 (Value.string ⟨#[120]⟩); refine (put_no _ d zo zc X 0 ⟨#[120]⟩ hO5 (by decide)).mono ?_; rintro e w' ⟨rfl, hw⟩; obtain rfl := hw)
        | (go_at_call_of 15 (Value.string ⟨#[]⟩); refine (put_yes _ d zo zc X 0 ⟨#[]⟩ hO5 (by decide) (by rw [hX.out]; show R + 0 ≤ _; omega)).mono ?_; rintro e w6 ⟨zo', zc', rfl, hO6', hk6, hz6⟩; obtain ⟨Y, hY, hO6⟩ := out_is hO6' 0 rfl R (by rw [hX.out]; rfl); clear hO6')
        | (go_at_call 17; refine (room_any _ d zo' zc' Y 0 hO6).mono ?_; rintro e w' ⟨rfl, hw⟩; obtain rfl := hw)
        | (go_at_call 18; refine (bytes_any _ d zo' zc' Y 0 hO6).mono ?_; rintro e w7 ⟨yo, yc, rfl, hy, hg7, hyf⟩))
      go_ret
      have B3 := hbel.grown hg3 hbel.size (by simp)
      have hd2 : w.heap.size ≤ d := Nat.le_trans hbel.size hd
      have B4 := B3.alloc B3.size (.cells (madeCells #[.int .u8 0] (R + 1)) 5)
      have l5 := put_low B4.size (B := w.heap.size) (zo := none) (by simp [blk]) hz5
      have B5 := Kept.below B4 hk5 B4.size (by rintro j (rfl | e); exact hd2; simp [blk] at e)
      have B6 := Kept.below B5 hk6 B5.size (by rintro j (rfl | e); exact hd2; exact l5 j e)
      have B7 := B6.grown hg7 B6.size (by simp)
      exact ⟨ret_bool (by rw [hY.out]; simp), B7⟩

set_option maxRecDepth 100000 in
theorem lifted (os : Os) (started : os.Started) (H : Type) (enc : TypeId × Value → H) :
    ReturnsInHanded {} Try.checked os 6 .any (Rows.flowPiecesSpec.pre6 enc Try.prog Try.f6 Rows.flowPiecesRow.domain false) (Rows.flowPiecesSpec.post enc Try.prog Try.f6 false true false false) := by
  refine returnsInHanded_of_change_sized (C := Try.checked) own started (by kernel_rfl) Try.func6
    (ChangeSpec.witness6 (enc := enc) (C := Try.checked) false ⟨#[], #[.slice none 0 0, .slice none 0 0, .int .i64 0], []⟩ 8 (by kernel_rfl) (by kernel_rfl) (by kernel_rfl) (by kernel_rfl)) ?_
  intro W base args ds gs before hval0 hW hcnd hsz0 _
  have hsz : (DataW.weightsEach Try.prog (Try.f6.params.toList ++ Rows.flowPiecesSpec.plain.varTypes Try.prog) (ds ++ gs)).all (· ≤ reachBytes) = true := hsz0
  have hval : ∀ (j : Nat) t v, Try.f6.params[j]? = some t → args[j]? = some v → Value.okWide Try.prog W .any base t v := hval0
  have hW' := hW
  obtain ⟨p, q, hA0, hV, rfl, hfz, hnd⟩ := hW
  have hA : DataW.TrodAll enc Try.prog W 0 (fun _ => true) true Try.f6.params.toList args.toList ds p := hA0
  rw [Try.params6] at hA hval hsz
  obtain ⟨v0, vs0, d0, ds0, p0, q0, hargs, rfl, rfl, h0, r0⟩ := trodAll_cons hA
  obtain ⟨v1, vs1, d1, ds1, p1, q1, rfl, rfl, rfl, h1, r1⟩ := trodAll_cons r0
  obtain ⟨v2, vs2, d2, ds2, p2, q2, rfl, rfl, rfl, h2, r2⟩ := trodAll_cons r1
  obtain ⟨rfl, rfl, rfl⟩ := trodAll_nil r2
  obtain rfl : args = #[v0, v1, v2] := by cases args; simp_all
  obtain ⟨rfl, rfl⟩ := trodVars_none hV
  obtain ⟨a0, len0, cap0, rfl⟩ := okWide_slice Try.underlying22 (hval 0 22 v0 rfl rfl)
  have k0 := h0
  have lt0 : ∀ x ∈ p0, x.block < W.heap.size := by obtain ⟨m, hm⟩ := k0; exact DataW.trod_lt m _ _ _ hm
  obtain ⟨z0, w0⟩ : ∃ zs, IsRow .u8 W a0 len0 cap0 zs := by
    obtain ⟨fuel, hf⟩ := h0
    rcases open_ints Try.underlying22 Try.underlying5 (by kernel_rfl) hf with ⟨hcs, _⟩ | ⟨x, l, c, zs, hcs, _, hl, hm, hz, hx, hcell, hwz⟩
    · simp [Value.cells] at hcs
      obtain ⟨rfl, rfl, rfl⟩ := hcs
      exact ⟨[], .inl ⟨rfl, rfl, rfl, rfl⟩⟩
    · simp [Value.cells] at hcs
      obtain ⟨rfl, rfl, rfl⟩ := hcs
      simp only [Prod.mk.injEq] at hx
      have hr := sized_slice hsz (j := 0) (t := 22) (e := 5) rfl (by rw [hx.1]; rfl) Try.underlying22
      rw [bytes5] at hr
      simp only [lits, List.length_map, List.length_take, List.length_drop, reachBytes] at hr
      simp only [if_true] at hz
      exact ⟨zs, .inr ⟨_, rfl, hl, by omega, hz, hcell, hwz⟩⟩
  obtain ⟨a1, len1, cap1, rfl⟩ := okWide_slice Try.underlying23 (hval 1 23 v1 rfl rfl)
  have k1 := h1
  have lt1 : ∀ x ∈ p1, x.block < W.heap.size := by obtain ⟨m, hm⟩ := k1; exact DataW.trod_lt m _ _ _ hm
  obtain ⟨z1, w1⟩ : ∃ zs, IsRow .i64 W a1 len1 cap1 zs := by
    obtain ⟨fuel, hf⟩ := h1
    rcases open_ints Try.underlying23 Try.underlying3 (by kernel_rfl) hf with ⟨hcs, _⟩ | ⟨x, l, c, zs, hcs, _, hl, hm, hz, hx, hcell, hwz⟩
    · simp [Value.cells] at hcs
      obtain ⟨rfl, rfl, rfl⟩ := hcs
      exact ⟨[], .inl ⟨rfl, rfl, rfl, rfl⟩⟩
    · simp [Value.cells] at hcs
      obtain ⟨rfl, rfl, rfl⟩ := hcs
      simp only [Prod.mk.injEq] at hx
      have hr := sized_slice hsz (j := 1) (t := 23) (e := 3) rfl (by rw [hx.1]; rfl) Try.underlying23
      rw [bytes3] at hr
      simp only [lits, List.length_map, List.length_take, List.length_drop, reachBytes] at hr
      simp only [if_true] at hz
      exact ⟨zs, .inr ⟨_, rfl, hl, by omega, hz, hcell, hwz⟩⟩
  obtain ⟨a2, rfl, rfl, rfl, w2⟩ := open_int Try.underlying3 (hval 2 3 v2 rfl rfl) h2
  clear hA0 hval0
  refine (walk a0 len0 cap0 z0 a1 len1 cap1 z1 a2 W w0 w1 w2).mono fun e W' ⟨he, bel⟩ => ?_
  subst he
  exact ⟨_, rfl, _, _, _, [], _, [], hW', trodAll_mk1 (shut_bool Try.underlying4 _), (trodAll_cons_mk (Below.trod laidOut (by kernel_rfl) (of_decide_eq_true (by kernel_rfl)) k0 bel lt0) (trodAll_cons_mk (Below.trod laidOut (by kernel_rfl) (of_decide_eq_true (by kernel_rfl)) k1 bel lt1) (trodAll_cons_mk (shut_int Try.underlying3 w2) trodAll_mk0))), rfl, bel.frame _, fun h => by cases h⟩

theorem over : Rows.flowPiecesRow.holds Try.pinned (OpenSpec.ofChange Rows.flowPiecesSpec) :=
  OpenClaim.holds_of_wide 6 Try.f6 rfl rfl rfl rfl rfl rfl rfl ⟨rfl, rfl, rfl, rfl, rfl⟩ rfl rfl rfl rfl rfl (by kernel_rfl) Try.func6 (by kernel_rfl)
    (of_decide_eq_true (by kernel_rfl)) (by unfold Func.isWrapper; first | (rw [if_pos (by decide +kernel)]; kernel_rfl) | (rw [if_neg (by decide +kernel)]; exact ⟨rfl, rfl⟩))
    (fun os started H enc _ => lifted os started H enc)

theorem proved : Rows.FlowPiecesSaid := over
end Go.Proofs.Yteollicbaahmpaa.flowPieces
namespace Go.Proofs.Yteollicbaahmpaa
theorem flowPieces_holds : Rows.FlowPiecesSaid := flowPieces.proved
#print axioms flowPieces_holds
end Go.Proofs.Yteollicbaahmpaa

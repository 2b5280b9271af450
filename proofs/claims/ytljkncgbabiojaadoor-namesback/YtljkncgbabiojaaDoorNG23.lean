/- NamesFlags: a walk. -/
import Derived.Test.YtljkncgbabiojaaDoorNX23
import Derived.Test.YtljkncgbabiojaaDoorArgs
namespace Go.Proofs.YtljkncgbabiojaaDoor.C23
open Go.ChangeShapes Go.WideShapes Go.ChangeAt Go.RowKit Go.Proofs.YtljkncgbabiojaaDoor.Mem Go.Proofs.YtljkncgbabiojaaDoor.El Go.Proofs.YtljkncgbabiojaaDoor.St Go.Proofs.YtljkncgbabiojaaDoor.Ri Go.Proofs.YtljkncgbabiojaaDoor.Sx Go.Proofs.YtljkncgbabiojaaDoor.Cb Go.Proofs.YtljkncgbabiojaaDoor.Ar
set_option linter.unusedVariables false
set_option linter.unusedSimpArgs false

def word : Nat → List UInt8
  | 0 => [84, 82, 65, 78, 83, 76, 73, 84]
  | 1 => [105, 103, 110, 111, 114, 101]
  | 2 => [84, 114, 97, 110, 115, 108, 105, 116]
  | 3 => [73, 71, 78, 79, 82, 69]
  | _ => []
def segs (ms : List Nat) : List UInt8 := ms.flatMap (fun m => 47 :: 47 :: word m)
def fT (m : Nat) : Bool := m == 0 || m == 2
def fI (m : Nat) : Bool := m == 1 || m == 3
theorem word_plain : ∀ m, m < 5 → ∀ c ∈ word m, c ≠ 47 := by decide +kernel
theorem word_len : ∀ m, m < 5 → (word m).length ≤ 8 := by decide +kernel
theorem pts_run : ∀ (W R cur : List UInt8), (∀ c ∈ W, c ≠ 47) → pts cur (W ++ R) = pts (cur ++ W) R
  | [], R, cur, _ => by rw [List.nil_append, List.append_nil]
  | a :: W, R, cur, h => by
    have ih := pts_run W R (cur ++ [a]) (fun c hc => h c (List.mem_cons_of_mem _ hc))
    have e : cur ++ a :: W = (cur ++ [a]) ++ W := by rw [List.append_assoc]; rfl
    rw [e, ← ih, List.cons_append]
    cases hx : W ++ R with
    | nil => rw [pts, pts]
    | cons b r => rw [pts_cons, if_neg (fun e => h a (by simp) e.1)]
theorem pts_segs : ∀ (ms : List Nat) (cur : List UInt8), (∀ m ∈ ms, m < 5) → pts cur (segs ms) = cur :: ms.map word
  | [], cur, _ => by show pts cur [] = _; rw [pts]; rfl
  | m :: ms, cur, h => by
    have hm := h m (by simp)
    have e : segs (m :: ms) = 47 :: 47 :: (word m ++ segs ms) := by unfold segs; rw [List.flatMap_cons]; rfl
    rw [e, pts_cons, if_pos ⟨rfl, rfl⟩, pts_run (word m) _ _ (word_plain m hm), List.nil_append, pts_segs ms _ (fun x hx => h x (List.mem_cons_of_mem _ hx))]
    rfl
theorem fl_word : ∀ (ms : List Nat) (t i : Bool), (∀ m ∈ ms, m < 5) → fl (ms.map word) t i = some (t || ms.any fT, i || ms.any fI)
  | [], t, i, _ => by rw [List.map_nil, fl]; simp
  | m :: ms, t, i, h => by
    have hm := h m (by simp)
    have ih := fun t i => fl_word ms t i (fun x hx => h x (List.mem_cons_of_mem _ hx))
    rw [List.map_cons, fl]
    match m, hm with
    | 0, _ => rw [if_pos (by decide), ih]; simp [fT, fI]
    | 1, _ => rw [if_neg (by decide), if_pos (by decide), ih]; simp [fT, fI]
    | 2, _ => rw [if_pos (by decide), ih]; simp [fT, fI]
    | 3, _ => rw [if_neg (by decide), if_pos (by decide), ih]; simp [fT, fI]
    | 4, _ => rw [if_neg (by decide), if_neg (by decide), if_pos (by decide), ih]; simp [fT, fI]
theorem segs_len : ∀ (ms : List Nat), (∀ m ∈ ms, m < 5) → (segs ms).length ≤ 10 * ms.length
  | [], _ => by simp [segs]
  | m :: ms, h => by
    have ih := segs_len ms (fun x hx => h x (List.mem_cons_of_mem _ hx))
    have hm := word_len m (h m (by simp))
    unfold segs at *
    rw [List.flatMap_cons, List.length_append]
    simp only [List.length_cons]
    omega
theorem segs_snoc (n : List UInt8) (ms : List Nat) (m : Nat) : (n ++ segs ms) ++ (47 :: 47 :: word m) = n ++ segs (ms ++ [m]) := by
  unfold segs
  rw [List.flatMap_append, List.append_assoc]
  simp
theorem flags_plain {p : Nat × List (List UInt8)} (hp : p ∈ alT) (ms : List Nat) (hms : ∀ m ∈ ms, m < 5) (hl : ms.length ≤ 4) : prs (nm (p.1 : Int) ++ segs ms) = ((p.1 : Int), ms.any fT, ms.any fI, 0) := by
  have hat := al_at p hp
  have hn20 := nm_len (p.1 : Int)
  have hsl := segs_len ms hms
  have hmem : nm (p.1 : Int) ∈ p.2 := by
    unfold nm
    rw [hat.1]
    cases hx : p.2 with
    | nil => exact absurd hx hat.2.1
    | cons a b => simp
  obtain ⟨u1, u2, u3⟩ := al_upper p hp _ hmem
  have hpt : pts [] (nm (p.1 : Int) ++ segs ms) = nm (p.1 : Int) :: ms.map word := by
    rw [pts_run _ _ _ u2, List.nil_append, pts_segs ms _ hms]
  unfold prs
  rw [if_neg (by rw [List.length_append]; omega), hpt]
  show (if fd (nm (p.1 : Int)) = 0 then _ else _) = _
  rw [u3, if_neg (by have := hat.2.2.2.1; omega)]
  show (match fl (ms.map word) false false with | some (t, i) => (((fd (nm (p.1 : Int)) : Nat) : Int), t, i, (0 : Int)) | none => (0, false, false, 3)) = _
  rw [fl_word ms false false hms, u3]
  simp
theorem mod5 (a : Int) : ∃ m : Nat, (IntKind.u64.wrap a).tmod 5 = (m : Int) ∧ m < 5 := by
  have h : 0 ≤ IntKind.u64.wrap a := by rw [IntKind.wrap_u64]; omega
  refine ⟨((IntKind.u64.wrap a) % 5).toNat, ?_, by omega⟩
  rw [Int.tmod_eq_emod_of_nonneg h]
  omega
theorem str_app' (A B : List UInt8) : str A ++ (⟨B.toArray⟩ : ByteArray) = str (A ++ B) := str_app A B
set_option maxRecDepth 100000 in
set_option maxHeartbeats 6000000 in
theorem flags_walk {P : World → Prop} (C : ConD P) (k0 : Int) (hk0 : I64 k0) (po : Option Addr) (pc : Nat) (PS : List Int) (w : World) (hw : P w) (hPS : IiE.Rd w po PS) (hT1 : PS.length ≤ pc) (hT2 : pc ≤ 9223372036854775807) : Calls Tryd.prog 5 #[.int .i64 k0, .slice po PS.length pc] w fun e w' => e = .returned (.bool true) ∧ w.grownBy w' none := by
  obtain ⟨r, hr, hrl⟩ := mod_fit k0 56 (by omega) (by omega)
  replace hr : wrap64 ((IntKind.u64.wrap k0).tmod 56) = (r : Int) := hr
  have hrT : r < alT.length := by rw [alT_len]; exact hrl
  obtain ⟨z, hz⟩ : ∃ z, Hid (((alT[r]).1 : Int) = z) := ⟨_, Hid.mk' rfl⟩
  have hpT := Hid.mk' (List.getElem_mem hrT)
  have hz64 : I64 z := by rw [← hz.out]; have := (al_at _ hpT.out).2.2.1; unfold I64; omega
  have a0 := Hid.mk' (fun w hw => works_any C w hw)
  have a1 := Hid.mk' (fun w hw => C.kinds w hw)
  obtain ⟨n, hn⟩ : ∃ n, Hid (nm z = n) := ⟨_, Hid.mk' rfl⟩
  have a2 : Hid (∀ w, P w → Calls Tryd.prog 14 #[.int .i64 z] w fun e w' => e = .returned (.string (str n)) ∧ w.grownBy w' none) := Hid.mk' (fun w hw => by have h := C.name z hz64 w hw; rwa [hn.out] at h)
  have a3 : Hid (∀ ms : List Nat, (∀ m ∈ ms, m < 5) → ms.length ≤ 4 → ∀ w, P w → Calls Tryd.prog 6 #[.string (str (n ++ segs ms))] w fun e w' => e = .returned (.tuple #[.agg (wC z (ms.any fT) (ms.any fI)), .int .i64 0]) ∧ w.grownBy w' none) := Hid.mk' (fun ms hms hl w hw => by
    have h5 := nm_len z
    have h6 := segs_len ms hms
    have h := C.parse (n ++ segs ms) (by rw [List.length_append, ← hn.out]; omega) w hw
    have e : prs (n ++ segs ms) = (z, ms.any fT, ms.any fI, 0) := by rw [← hn.out, ← hz.out]; exact flags_plain hpT.out ms hms hl
    rw [e] at h
    exact h)
  have hn20 : n.length ≤ 20 := by rw [← hn.out]; exact nm_len z
  have hKI : Hid (kdI[r]'(by rw [kdI_len]; exact hrl) = z) := Hid.mk' (by rw [← hz.out]; exact kdI_at hrT)
  have K := Hid.mk' (fun (a b : World) (h : P a) (g : a.grownBy b none) => C.keep h g)
  have hq := Hid.mk' hw
  have hPS' := Hid.mk' hPS
  obtain ⟨pl, hpl⟩ : ∃ n, Hid (PS.length = n) := ⟨_, Hid.mk' rfl⟩
  have hT1' : pl ≤ pc := by rw [← hpl.out]; exact hT1
  rw [hpl.out]
  clear C hw hPS hpT hT1 hn
  go_enter Tryd.func5, Tryd.ntmps5
  go_upto_region 3 with (go_at_call 10; refine (a0.out _ hq.out).mono ?_; rintro e w1 ⟨rfl, hg1⟩; have hP1 := Hid.mk' (K.out _ _ hq.out hg1))
  go_upto_region 4 with (go_at_call 11; refine (a1.out _ hP1.out).mono ?_; rintro e w2 ⟨ko, kc, rfl, oK, hg2, fK⟩)
  have hG2 := Hid.mk' (gt hg1 hg2)
  have hP2 := Hid.mk' (K.out _ _ hP1.out hg2)
  obtain ⟨kb, kof, rfl, hkb, x0⟩ := icell oK.rd (i := r) (by rw [kdI_len]; exact hrl)
  rw [hKI.out] at x0
  have hr1 : (r : Int) < 56 := by omega
  have hr2 : (0 : Int) ≤ (r : Int) := by omega
  have q0 : 56 ≤ kc := by have := oK.cap_le; rw [kdI_len] at this; exact this
  have q00 := oK.cap_max
  clear oK hg1 hg2 fK hKI hz hrT a0 a1
  go_upto_region 7 with fail
  clear x0
  go_upto_region 8 with (go_at_call 14; refine (a2.out _ hP2.out).mono ?_; rintro e w3 ⟨rfl, hg3⟩)
  go_upto_region 10 with (first
    | (refine wpList_allocC _ rfl 24 rfl (wC 0 false false) (zeroWp _) ?_; intro w4 va4 hg4)
    | (refine wpList_storeC _ rfl 24 _ _ rfl w3.heap.size (wC 0 false false) (wC z false false) infoWp rfl (wC_one _ _ _) rfl rfl va4 ?_; intro w5 va5 hg5))
  have hG5 := Hid.mk' (grownBy_new (gt hG2.out (gt hg3 hg4)) hg5 (fun q hq => by have h5 := Option.some.inj hq; have h6 := (gt hG2.out hg3).size; omega))
  have hVw : Hid (w.heap.size ≤ w3.heap.size) := Hid.mk' (gt hG2.out hg3).size
  obtain ⟨V, hV⟩ : ∃ Y, Hid (w3.heap.size = Y) := ⟨_, Hid.mk' rfl⟩
  rw [hV.out] at va5 hVw
  rw [hV.out]
  have hva := Hid.mk' va5
  clear hg3 hg4 hg5 va4 va5 a2
  go_loopw [6, 8] (fun t6 t8 wx => ∃ (j : Nat) (ms : List Nat), j ≤ 4 ∧ j ≤ pl ∧ t8 = .int .i64 (j : Int) ∧ t6 = .string (str (n ++ segs ms)) ∧ ms.length = j ∧ Hid (∀ m ∈ ms, m < 5) ∧ Hid (CA wx V 24 (wC z (ms.any fT) (ms.any fI))) ∧ Hid (w.grownBy wx none)) (fun _ t8 _ => 4 - (intOf t8).toNat)
  case atStart => exact ⟨0, [], by omega, by omega, rfl, by simp [segs], rfl, Hid.mk' (by simp), hva, hG5⟩
  case round =>
    obtain ⟨j, ms, hj4, hjp, rfl, rfl, hml, hms, va0, hG⟩ := hrel
    have va := va0.out
    obtain ⟨S, hS⟩ : ∃ s, Hid (str (n ++ segs ms) = s) := ⟨_, Hid.mk' rfl⟩
    have hSz : Hid (S.size ≤ 60) := Hid.mk' (by rw [← hS.out, str_size, List.length_append]; have := segs_len ms hms.out; omega)
    rw [hS.out]
    by_cases hlt : j < pl ∧ j < 4
    · obtain ⟨hlt1, hlt4⟩ := hlt
      have f1 : decide ((j : Int) < (pl : Int)) = true := by simp; omega
      have f2 : decide ((j : Int) < 4) = true := by simp; omega
      have hlt' : (j : Int) < (pl : Int) := by omega
      have hj0 : (0 : Int) ≤ (j : Int) := by omega
      have hjP : j < PS.length := by rw [hpl.out]; exact hlt1
      obtain ⟨pb, pof, rfl, hpb, x0⟩ := icell (hPS'.out.kept0 hG.out) hjP
      generalize PS[j] = a at x0
      clear hjP
      obtain ⟨m, hm, hm5⟩ := mod5 a
      obtain ⟨S2, hS2⟩ : ∃ s, Hid (str (n ++ segs (ms ++ [m])) = s) := ⟨_, Hid.mk' rfl⟩
      have hms3 : Hid (∀ x ∈ ms ++ [m], x < 5) := Hid.mk' (fun x hx => by
        rcases List.mem_append.1 hx with h | h
        · exact hms.out x h
        · simp at h; omega)
      have hms2 := Hid.mk' hms.out
      match m, hm5, hm, hS2, hms3 with
      | 0, hm5, hm, hS2, hms3 =>
          replace hm : (IntKind.u64.wrap a).tmod 5 = 0 := hm
          have e1 : S ++ ({ data := #[47, 47, 84, 82, 65, 78, 83, 76, 73, 84] } : ByteArray) = S2 := by
            rw [← hS.out, ← hS2.out, ← segs_snoc]
            exact str_app' _ [47, 47, 84, 82, 65, 78, 83, 76, 73, 84]
          have e2 : ¬ 9223372036854775807 < S.size + ({ data := #[47, 47, 84, 82, 65, 78, 83, 76, 73, 84] } : ByteArray).size := by
            show ¬ 9223372036854775807 < S.size + 10
            have := hSz.out
            omega
          have z1 := va.free 1
          have z2 := va.free 2
          have y1 := va.cell 1 rfl
          have y2 := va.cell 2 rfl
          clear hS hms2
          go_wp2
          go_roundw
          case rel =>
            refine ⟨j + 1, ms ++ [0], by omega, by omega, by go_num, by rw [hS2.out], by rw [List.length_append, hml]; rfl, hms3, Hid.mk' ?_, Hid.mk' (grownBy_new hG.out (grownBy_setCell _ ⟨V, 1, none⟩ _) (fun q hq => by have h5 := Option.some.inj hq; have h6 := hVw.out; simp at h5; omega))⟩
            have h9 := va.set 1 (.bool true)
            have eT : (ms ++ [0]).any fT = true := by rw [List.any_append]; simp [fT]
            have eI : (ms ++ [0]).any fI = ms.any fI := by rw [List.any_append]; simp [fI]
            rw [eT, eI]
            exact h9
          all_goals (simp [intOf] <;> omega)
      | 1, hm5, hm, hS2, hms3 =>
          replace hm : (IntKind.u64.wrap a).tmod 5 = 1 := hm
          have e1 : S ++ ({ data := #[47, 47, 105, 103, 110, 111, 114, 101] } : ByteArray) = S2 := by
            rw [← hS.out, ← hS2.out, ← segs_snoc]
            exact str_app' _ [47, 47, 105, 103, 110, 111, 114, 101]
          have e2 : ¬ 9223372036854775807 < S.size + ({ data := #[47, 47, 105, 103, 110, 111, 114, 101] } : ByteArray).size := by
            show ¬ 9223372036854775807 < S.size + 8
            have := hSz.out
            omega
          have z1 := va.free 1
          have z2 := va.free 2
          have y1 := va.cell 1 rfl
          have y2 := va.cell 2 rfl
          clear hS hms2
          go_wp2
          go_roundw
          case rel =>
            refine ⟨j + 1, ms ++ [1], by omega, by omega, by go_num, by rw [hS2.out], by rw [List.length_append, hml]; rfl, hms3, Hid.mk' ?_, Hid.mk' (grownBy_new hG.out (grownBy_setCell _ ⟨V, 2, none⟩ _) (fun q hq => by have h5 := Option.some.inj hq; have h6 := hVw.out; simp at h5; omega))⟩
            have h9 := va.set 2 (.bool true)
            have eT : (ms ++ [1]).any fT = ms.any fT := by rw [List.any_append]; simp [fT]
            have eI : (ms ++ [1]).any fI = true := by rw [List.any_append]; simp [fI]
            rw [eT, eI]
            exact h9
          all_goals (simp [intOf] <;> omega)
      | 2, hm5, hm, hS2, hms3 =>
          replace hm : (IntKind.u64.wrap a).tmod 5 = 2 := hm
          have e1 : S ++ ({ data := #[47, 47, 84, 114, 97, 110, 115, 108, 105, 116] } : ByteArray) = S2 := by
            rw [← hS.out, ← hS2.out, ← segs_snoc]
            exact str_app' _ [47, 47, 84, 114, 97, 110, 115, 108, 105, 116]
          have e2 : ¬ 9223372036854775807 < S.size + ({ data := #[47, 47, 84, 114, 97, 110, 115, 108, 105, 116] } : ByteArray).size := by
            show ¬ 9223372036854775807 < S.size + 10
            have := hSz.out
            omega
          have z1 := va.free 1
          have z2 := va.free 2
          have y1 := va.cell 1 rfl
          have y2 := va.cell 2 rfl
          clear hS hms2
          go_wp2
          go_roundw
          case rel =>
            refine ⟨j + 1, ms ++ [2], by omega, by omega, by go_num, by rw [hS2.out], by rw [List.length_append, hml]; rfl, hms3, Hid.mk' ?_, Hid.mk' (grownBy_new hG.out (grownBy_setCell _ ⟨V, 1, none⟩ _) (fun q hq => by have h5 := Option.some.inj hq; have h6 := hVw.out; simp at h5; omega))⟩
            have h9 := va.set 1 (.bool true)
            have eT : (ms ++ [2]).any fT = true := by rw [List.any_append]; simp [fT]
            have eI : (ms ++ [2]).any fI = ms.any fI := by rw [List.any_append]; simp [fI]
            rw [eT, eI]
            exact h9
          all_goals (simp [intOf] <;> omega)
      | 3, hm5, hm, hS2, hms3 =>
          replace hm : (IntKind.u64.wrap a).tmod 5 = 3 := hm
          have e1 : S ++ ({ data := #[47, 47, 73, 71, 78, 79, 82, 69] } : ByteArray) = S2 := by
            rw [← hS.out, ← hS2.out, ← segs_snoc]
            exact str_app' _ [47, 47, 73, 71, 78, 79, 82, 69]
          have e2 : ¬ 9223372036854775807 < S.size + ({ data := #[47, 47, 73, 71, 78, 79, 82, 69] } : ByteArray).size := by
            show ¬ 9223372036854775807 < S.size + 8
            have := hSz.out
            omega
          have z1 := va.free 1
          have z2 := va.free 2
          have y1 := va.cell 1 rfl
          have y2 := va.cell 2 rfl
          clear hS hms2
          go_wp2
          go_roundw
          case rel =>
            refine ⟨j + 1, ms ++ [3], by omega, by omega, by go_num, by rw [hS2.out], by rw [List.length_append, hml]; rfl, hms3, Hid.mk' ?_, Hid.mk' (grownBy_new hG.out (grownBy_setCell _ ⟨V, 2, none⟩ _) (fun q hq => by have h5 := Option.some.inj hq; have h6 := hVw.out; simp at h5; omega))⟩
            have h9 := va.set 2 (.bool true)
            have eT : (ms ++ [3]).any fT = ms.any fT := by rw [List.any_append]; simp [fT]
            have eI : (ms ++ [3]).any fI = true := by rw [List.any_append]; simp [fI]
            rw [eT, eI]
            exact h9
          all_goals (simp [intOf] <;> omega)
      | 4, hm5, hm, hS2, hms3 =>
          replace hm : (IntKind.u64.wrap a).tmod 5 = 4 := hm
          have e1 : S ++ ({ data := #[47, 47] } : ByteArray) = S2 := by
            rw [← hS.out, ← hS2.out, ← segs_snoc]
            exact str_app' _ [47, 47]
          have e2 : ¬ 9223372036854775807 < S.size + ({ data := #[47, 47] } : ByteArray).size := by
            show ¬ 9223372036854775807 < S.size + 2
            have := hSz.out
            omega
          have z1 := va.free 1
          have z2 := va.free 2
          have y1 := va.cell 1 rfl
          have y2 := va.cell 2 rfl
          clear hS hms2
          go_wp2
          go_roundw
          case rel =>
            refine ⟨j + 1, ms ++ [4], by omega, by omega, by go_num, by rw [hS2.out], by rw [List.length_append, hml]; rfl, hms3, Hid.mk' ?_, hG⟩
            have eT : (ms ++ [4]).any fT = ms.any fT := by rw [List.any_append]; simp [fT]
            have eI : (ms ++ [4]).any fI = ms.any fI := by rw [List.any_append]; simp [fI]
            rw [eT, eI]
            exact va
          all_goals (simp [intOf] <;> omega)
    · have hend : Hid (¬ (j < pl ∧ j < 4)) := Hid.mk' hlt
      have hPx := Hid.mk' (K.out _ _ hq.out hG.out)
      have a4 : Hid (∀ w, P w → Calls Tryd.prog 6 #[.string S] w fun e w' => e = .returned (.tuple #[.agg (wC z (ms.any fT) (ms.any fI)), .int .i64 0]) ∧ w.grownBy w' none) := Hid.mk' (fun w hw => by have h := a3.out ms hms.out (by omega) w hw; rwa [hS.out] at h)
      have f9 : ¬ (64 : Int) < (S.size : Int) := by have := hSz.out; omega
      generalize ms.any fT = tt at *
      generalize ms.any fI = ti at *
      by_cases h1 : j < pl
      · have g1 : decide ((j : Int) < (pl : Int)) = true := by simp; omega
        have g2 : decide ((j : Int) < 4) = false := by simp; omega
        clear hlt
        go_upto_region 27 with (first
          | (go_at_call 6; refine (a4.out _ hPx.out).mono ?_; rintro e w6 ⟨rfl, hg6⟩)
          | (refine wpList_allocC _ rfl 24 rfl (wC 0 false false) (zeroWp _) ?_; intro w7 va7 hg7)
          | (refine wpList_storeC _ rfl 24 _ _ rfl w6.heap.size (wC 0 false false) (wC z tt ti) infoWp rfl (wC_one _ _ _) rfl rfl va7 ?_; intro w8 va8 hg8))
        have vv := ((va.kept0 hg6).kept0 hg7).kept hg8 (by have := va.lt; have := hg6.size; intro e; have h5 := Option.some.inj e; omega)
        have hG8 := Hid.mk' (grownBy_new (gt hG.out (gt hg6 hg7)) hg8 (fun q hq => by have h5 := Option.some.inj hq; have h6 := (gt hG.out hg6).size; omega))
        have c0 := vv.cell 0 rfl
        have c1 := vv.cell 1 rfl
        have c2 := vv.cell 2 rfl
        have d0 := va8.cell 0 rfl
        have d1 := va8.cell 1 rfl
        have d2 := va8.cell 2 rfl
        clear hg6 hg7 hg8 va7 vv va8
        go_wp2
        go_ret
        exact ⟨by simp, hG8.out⟩
      · have g1 : decide ((j : Int) < (pl : Int)) = false := by simp; omega
        clear hlt
        go_upto_region 27 with (first
          | (go_at_call 6; refine (a4.out _ hPx.out).mono ?_; rintro e w6 ⟨rfl, hg6⟩)
          | (refine wpList_allocC _ rfl 24 rfl (wC 0 false false) (zeroWp _) ?_; intro w7 va7 hg7)
          | (refine wpList_storeC _ rfl 24 _ _ rfl w6.heap.size (wC 0 false false) (wC z tt ti) infoWp rfl (wC_one _ _ _) rfl rfl va7 ?_; intro w8 va8 hg8))
        have vv := ((va.kept0 hg6).kept0 hg7).kept hg8 (by have := va.lt; have := hg6.size; intro e; have h5 := Option.some.inj e; omega)
        have hG8 := Hid.mk' (grownBy_new (gt hG.out (gt hg6 hg7)) hg8 (fun q hq => by have h5 := Option.some.inj hq; have h6 := (gt hG.out hg6).size; omega))
        have c0 := vv.cell 0 rfl
        have c1 := vv.cell 1 rfl
        have c2 := vv.cell 2 rfl
        have d0 := va8.cell 0 rfl
        have d1 := va8.cell 1 rfl
        have d2 := va8.cell 2 rfl
        clear hg6 hg7 hg8 va7 vv va8
        go_wp2
        go_ret
        exact ⟨by simp, hG8.out⟩
end Go.Proofs.YtljkncgbabiojaaDoor.C23

/- The document's First of layer 22: a walk. -/
import Derived.Test.YtjhdepbiakekaaaTC22
import Derived.Test.YtjhdepbiakekaaaRu
import Derived.Test.YtjhdepbiakekaaaSp
import Derived.Test.YtjhdepbiakekaaaConv
import Derived.Test.YtjhdepbiakekaaaWGets
import Derived.Deep.RegionHeld3
namespace Go.Proofs.Ytjhdepbiakekaaa.C22
open Go.ChangeShapes Go.WideShapes Go.ChangeAt Go.RowKit Go.Proofs.Ytjhdepbiakekaaa.Mem Go.Proofs.Ytjhdepbiakekaaa.El Go.Proofs.Ytjhdepbiakekaaa.St Go.Proofs.Ytjhdepbiakekaaa.Ru Go.Proofs.Ytjhdepbiakekaaa.Cb Go.Proofs.Ytjhdepbiakekaaa.Sp
set_option linter.unusedVariables false
set_option linter.unusedSimpArgs false

/-- The numbers of a text's bytes: bytes that are no unit count as FFFD each. -/
def decF : Nat → List UInt8 → List Int
  | 0, _ => []
  | f + 1, L => match L with
    | [] => []
    | b :: r => match U8.get (b :: r) with
      | some (.inr (n, u)) => (u : Int) :: decF f ((b :: r).drop n)
      | _ => 65533 :: decF f r
def dec (L : List UInt8) : List Int := decF L.length L
theorem decF_fuel : ∀ (f g : Nat) (L : List UInt8), L.length ≤ f → L.length ≤ g → decF f L = decF g L
  | 0, 0, L, _, _ => rfl
  | 0, g + 1, L, h, _ => by obtain rfl : L = [] := List.eq_nil_of_length_eq_zero (by omega); rfl
  | f + 1, 0, L, _, h => by obtain rfl : L = [] := List.eq_nil_of_length_eq_zero (by omega); rfl
  | f + 1, g + 1, [], _, _ => rfl
  | f + 1, g + 1, b :: r, h1, h2 => by
    simp only [List.length_cons] at h1 h2
    unfold decF
    simp only
    cases hR : U8.get (b :: r) with
    | none => simp only; rw [decF_fuel f g r (by omega) (by omega)]
    | some x =>
      cases x with
      | inl n => simp only; rw [decF_fuel f g r (by omega) (by omega)]
      | inr p =>
        obtain ⟨n, u⟩ := p
        have hn := U8.ok_n hR
        simp only
        rw [decF_fuel f g ((b :: r).drop n) (by rw [List.length_drop, List.length_cons]; omega) (by rw [List.length_drop, List.length_cons]; omega)]
theorem dec_nil : dec [] = [] := rfl
theorem dec_cons (b : UInt8) (r : List UInt8) : dec (b :: r) = (match U8.get (b :: r) with | some (.inr (n, u)) => (u : Int) :: decF r.length ((b :: r).drop n) | _ => 65533 :: decF r.length r) := rfl
theorem dec_ok {L : List UInt8} {n u : Nat} (h : U8.get L = .ok n u) : dec L = (u : Int) :: dec (L.drop n) := by
  have hn := U8.ok_n h
  cases L with
  | nil => simp at hn; omega
  | cons b r =>
    rw [dec_cons, h]
    show (u : Int) :: decF r.length ((b :: r).drop n) = (u : Int) :: decF ((b :: r).drop n).length ((b :: r).drop n)
    rw [decF_fuel r.length ((b :: r).drop n).length _ (by rw [List.length_drop, List.length_cons]; omega) (Nat.le_refl _)]
theorem dec_bad {L : List UInt8} (hL : L ≠ []) (h : (U8.get L).k = 0) : dec L = 65533 :: dec (L.drop 1) := by
  cases L with
  | nil => exact absurd rfl hL
  | cons b r =>
    rw [dec_cons]
    cases hR : U8.get (b :: r) with
    | none => rfl
    | some x =>
      cases x with
      | inl n => rfl
      | inr p =>
        rw [hR] at h
        cases h
theorem dec_len : ∀ (m : Nat) (L : List UInt8), L.length ≤ m → (dec L).length ≤ L.length
  | 0, L, h => by obtain rfl : L = [] := List.eq_nil_of_length_eq_zero (by omega); exact Nat.le_refl _
  | m + 1, L, h => by
    by_cases hL : L = []
    · subst hL; exact Nat.le_refl _
    · have hp := List.length_pos_iff.2 hL
      by_cases hk : (U8.get L).k = 0
      · rw [dec_bad hL hk, List.length_cons]
        have := dec_len m (L.drop 1) (by rw [List.length_drop]; omega)
        rw [List.length_drop] at this
        omega
      · cases hR : U8.get L with
        | none => rw [hR] at hk; exact absurd rfl hk
        | some x =>
          cases x with
          | inl n => rw [hR] at hk; exact absurd rfl hk
          | inr p =>
            obtain ⟨n, u⟩ := p
            have hn := U8.ok_n hR
            rw [dec_ok hR, List.length_cons]
            have := dec_len m (L.drop n) (by rw [List.length_drop]; omega)
            rw [List.length_drop] at this
            omega
def hasI (A : List Int) (r : Int) : Bool := A.any (fun a => decide (a = r))
def fits (A : List Int) (U : List Nat) : Bool := U.all (fun r => hasI A (r : Int))
/-- What First answers: the first candidate of which all numbers are among A. -/
def fstP (C : List (List UInt8)) (A : List Int) : Option (List UInt8) := C.find? (fun s => fits A (U8.scanAll s).1)
theorem fits_step (A : List Int) (U : List Nat) (k : Nat) (h : k < U.length) : fits A (U.take (k + 1)) = (fits A (U.take k) && hasI A (U[k] : Int)) := by
  unfold fits
  rw [List.take_add_one, List.getElem?_eq_getElem h, List.all_append]
  simp
theorem hasI_step (A : List Int) (j : Nat) (h : j < A.length) (r : Int) : hasI (A.take (j + 1)) r = (hasI (A.take j) r || decide (A[j] = r)) := by
  unfold hasI
  rw [List.take_add_one, List.getElem?_eq_getElem h, List.any_append]
  simp
def lenOf : Value → Nat | .slice _ n _ => n | _ => 0
theorem conv_str (w : World) (L : List UInt8) (hl : L.length ≤ 1000000) : ∃ c w', (convert 9 35 (.string (str L))).run Try.prog w = .ok (.slice (some ⟨w.heap.size, 0, none⟩) L.length c) w' ∧ Bytes w' (some ⟨w.heap.size, 0, none⟩) L ∧ w.grownBy w' none ∧ L.length ≤ c ∧ c ≤ 9223372036854775807 := by
  have h := conv_new (P := Try.prog) w 9 35 (str L) Try.underlying9 Try.underlying35 Try.underlying5 (by rw [str_size]; exact hl)
  rwa [str_size, str_toList] at h
theorem get_at (ao : Option Addr) (n cap : Nat) (L : List UInt8) (w : World) (hB : Bytes w ao L) (hn : L.length = n) (hl : n ≤ 140737488355328) (hc : n ≤ cap) (hcm : cap ≤ 9223372036854775807) (R : U8.Res) (hR : U8.get L = R) : Calls Try.prog 24 #[.slice ao n cap] w fun e w' => e = .returned (.agg (gZ R.err (R.n : Int) R.k (R.a : Int))) ∧ w.grownBy w' none := U8.refget_at ao n cap L w hB hn hl hc hcm R hR
set_option maxRecDepth 100000 in
set_option maxHeartbeats 2500000 in
theorem first_any (u : Int) (L : List UInt8) (hl : L.length ≤ 300) (w : World) (D : List Int) (hD : Hid (dec L = D)) (C : List (List UInt8)) (hC : Hid (cands u = C)) (P : Option (List UInt8)) (hP : Hid (fstP C D = P)) : Calls Try.prog 11 #[.int .i32 u, .string (str L)] w fun e w' => e = .returned (.tuple #[.string (str (P.getD [])), .bool P.isSome]) ∧ w.grownBy w' none := by
  obtain ⟨c0, w0, hcv, hB0, hg0, hc0, hc1⟩ := conv_str w L (by omega)
  have hB1 := Hid.mk' hB0
  have hG0 := Hid.mk' hg0
  clear hB0 hg0
  go_enter Try.func11, Try.ntmps11
  go_upto_region 3 with fail
  clear hcv
  obtain ⟨g0, hg0⟩ : ∃ g0, Hid (w.heap.size = g0) := ⟨_, Hid.mk' rfl⟩
  rw [hg0.out] at hB1
  rw [hg0.out]
  go_loopw [6, 7] (fun t6 t7 wx => ∃ (k o m bc : Nat) (ro : Option Addr) (rc : Nat) (A : List Int), k ≤ L.length ∧ t7 = .slice (some ⟨g0, o, none⟩) m bc ∧ Hid ((L.drop k).length = m) ∧ m ≤ bc ∧ bc ≤ 9223372036854775807 ∧ t6 = .slice ro A.length rc ∧ Hid (Bytes wx (some ⟨g0, o, none⟩) (L.drop k)) ∧ Hid (RuE.Own wx ro rc A) ∧ Hid (∀ q, blk ro = some q → w0.heap.size ≤ q) ∧ Hid (dec L = A ++ dec (L.drop k)) ∧ A.length ≤ k ∧ Hid (w0.grownBy wx none)) (fun _ t7 _ => lenOf t7)
  case atStart => exact ⟨0, 0, L.length, c0, none, 0, [], by omega, rfl, Hid.mk' rfl, hc0, hc1, rfl, Hid.mk' hB1.out, Hid.mk' (.inl ⟨rfl, rfl, rfl⟩), Hid.mk' (by simp [blk]), Hid.mk' rfl, by simp, Hid.mk' (grownBy_refl _ _)⟩
  case round =>
    obtain ⟨k, o, m, bc, ro, rc, A, hk, rfl, hm, hmb, hbm, rfl, hBk, ho, hf, hA, hAl, hG⟩ := hrel
    by_cases hlt : 0 < m
    · have hne : Hid (L.drop k ≠ []) := Hid.mk' (List.ne_nil_of_length_pos (by rw [hm.out]; exact hlt))
      have hlt0 : Hid (g0 < w0.heap.size) := Hid.mk' (by
        obtain ⟨b', o', e, hq⟩ := U8.Bytes.at hB1.out (by intro e; rw [e] at hne; simp at hne; exact hne.out)
        cases e
        exact World.block_lt_of_cell? w0 _ (hq 0 (by have h5 := hm.out; rw [List.length_drop] at h5; omega)))
      have hlt' : (0 : Int) < (m : Int) := by omega
      have hml : m ≤ 300 := by have h5 := hm.out; rw [List.length_drop] at h5; omega
      obtain ⟨R, hR⟩ : ∃ R, Hid (U8.get (L.drop k) = R) := ⟨_, Hid.mk' rfl⟩
      by_cases hk1 : ∃ n x, R = .ok n x
      · obtain ⟨n, x, rfl⟩ := hk1
        have hn := U8.ok_n hR.out
        rw [hm.out] at hn
        obtain ⟨hn1, hn2⟩ := hn
        have hx := U8.sc_le (U8.get_ok hR.out).1
        obtain ⟨A2, hA2⟩ : ∃ A2, Hid (A ++ [(x : Int)] = A2) := ⟨_, Hid.mk' rfl⟩
        have hA3 : Hid (dec L = A2 ++ dec (L.drop (k + n))) := Hid.mk' (by rw [hA.out, dec_ok hR.out, ← hA2.out, List.drop_drop, List.append_assoc]; rfl)
        have hAl2 : Hid (A2.length ≤ k + 1 ∧ k + n ≤ L.length) := Hid.mk' (by rw [← hA2.out, List.length_append]; have h5 := hm.out; rw [List.length_drop] at h5; simp; omega)
        obtain ⟨m1, rfl⟩ : ∃ m1, m = m1 + 1 := ⟨m - 1, by omega⟩
        have a1 : Hid (∀ wx, wr.grownBy wx none → Calls Try.prog 24 #[.slice (some ⟨g0, o, none⟩) (m1 + 1) bc] wx fun e w' => e = .returned (.agg (gZ 0 (n : Int) 1 (x : Int))) ∧ wx.grownBy w' none) := Hid.mk' (fun wx hgx => by
          have := get_at _ (m1 + 1) bc (L.drop k) wx (hBk.out.kept0 hgx) hm.out (by omega) hmb hbm _ hR.out
          exact this)
        go_upto_region 5 with (first
          | (go_at_call 24; refine (a1.out _ (grownBy_refl _ _)).mono ?_; rintro e w1 ⟨rfl, hg1⟩)
          | (refine wpList_allocC _ rfl 50 rfl (gZ 0 0 0 0) (zeroG _) ?_; intro w2 ca2 hg2)
          | (refine wpList_storeC _ rfl 50 _ _ rfl w1.heap.size (gZ 0 0 0 0) (gZ 0 (n : Int) 1 (x : Int)) infoG rfl (gC_one _ _ _ _ _ _ _ _ _) rfl rfl ca2 ?_; intro w3 ca3 hg3))
        have hG3 : Hid (wr.grownBy w3 none) := Hid.mk' (grownBy_new (gt hg1 hg2) hg3 (fun q hq => by have h5 := Option.some.inj hq; have h6 := hg1.size; omega))
        have hlt3 : Hid (∀ q, blk ro = some q → q < w1.heap.size) := Hid.mk' (fun q hq => Nat.lt_of_lt_of_le (ho.out.lt hq) hg1.size)
        have ho3 : Hid (RuE.Own w3 ro rc A) := Hid.mk' (ho.out.kept0 hG3.out)
        obtain ⟨G, hGe⟩ : ∃ G, Hid (w1.heap.size = G) := ⟨_, Hid.mk' rfl⟩
        rw [hGe.out] at ca3 hlt3
        rw [hGe.out]
        have ca3' := Hid.mk' ca3
        have c1 := ca3.cell 1 rfl
        have c2 := ca3.cell 2 rfl
        have c3 := ca3.cell 3 rfl
        clear ca2 ca3 hg1 hg2 hg3 a1
        go_upto_region 7 with (at_builtin; refine wpList_rune _ rfl _ _ rfl ro rc A rfl (ho3.out.alloc _) _ rfl [(x : Int)] (src_rune1 _ _) (by simp; omega) A2 hA2.out ?_; intro ro2 rc2 w4 o4 g4 at4)
        have c1' : w4.cell? ⟨G, 1, none⟩ = some (.int .i64 (n : Int)) := ((ca3'.out.kept0 (World.grownBy_alloc _ _ _)).kept g4 (by intro e; have := hlt3.out G e.symm; omega)).cell 1 rfl
        clear c1 c2 c3
        have hG4 : Hid (w0.grownBy w4 none) := Hid.mk' (grownBy_new (gt hG.out (gt hG3.out (World.grownBy_alloc _ _ _))) g4 (fun q hq => hf.out q hq))
        have hf4 : Hid (∀ q, blk ro2 = some q → w0.heap.size ≤ q) := Hid.mk' (by
          intro q hq
          rcases at4 with rfl | rfl
          · exact hf.out q hq
          · simp [blk] at hq; have := (gt hG.out hG3.out).size; omega)
        have hB4 : Hid (Bytes w4 (if bc = n then some ⟨g0, o, none⟩ else some ⟨g0, o + n, none⟩) (L.drop (k + n))) := Hid.mk' (by
          have h := (hBk.out.kept0 (gt hG3.out (World.grownBy_alloc _ _ _))).kept g4 (.inr (by intro e; have h5 := hf.out g0 e.symm; have h6 := hlt0.out; omega))
          have h2 := h.drop n bc (by rw [hm.out]; exact hmb)
          rw [List.drop_drop] at h2
          have hnz : ¬ n = 0 := by omega
          simpa [Addr.add, hnz] using h2)
        have b0 : (0 : Int) ≤ (n : Int) := by omega
        have b1 : (n : Int) ≤ (m1 : Int) + 1 := by omega
        have b2 : (m1 : Int) + 1 ≤ (bc : Int) := by omega
        have b3 : n ≤ m1 + 1 := by omega
        have b4 : n ≤ bc := by omega
        clear ca3' ho3 at4 hGe g4
        by_cases hbc : bc = n
        · have hB5 := hB4.out
          rw [if_pos hbc] at hB5
          have hB6 := Hid.mk' hB5
          clear hB4 hB5
          subst hbc
          go_wp2
          go_roundw
          case rel => exact ⟨k + bc, o, _, _, ro2, rc2, A2, hAl2.out.2, rfl, Hid.mk' (by rw [List.length_drop]; have := hm.out; rw [List.length_drop] at this; omega), by omega, by omega, rfl, hB6, Hid.mk' o4, hf4, hA3, by have := hAl2.out; omega, hG4⟩
          all_goals (simp [lenOf] <;> omega)
        · have hB5 := hB4.out
          rw [if_neg hbc] at hB5
          have hB6 := Hid.mk' hB5
          have hbc2 : ¬ (bc : Int) = (n : Int) := by omega
          have hbc3 : ¬ n = bc := fun e => hbc e.symm
          clear hB4 hB5
          go_wp2
          go_roundw
          case rel => exact ⟨k + n, o + n, _, _, ro2, rc2, A2, hAl2.out.2, rfl, Hid.mk' (by rw [List.length_drop]; have := hm.out; rw [List.length_drop] at this; omega), by omega, by omega, rfl, hB6, Hid.mk' o4, hf4, hA3, by have := hAl2.out; omega, hG4⟩
          all_goals (simp [lenOf] <;> omega)
      · have hk0 : Hid (R.k = 0) := Hid.mk' (by
          cases R with
          | none => rfl
          | some y =>
            cases y with
            | inl n => rfl
            | inr p => exact absurd ⟨p.1, p.2, rfl⟩ hk1)
        clear hk1
        obtain ⟨A2, hA2⟩ : ∃ A2, Hid (A ++ [(65533 : Int)] = A2) := ⟨_, Hid.mk' rfl⟩
        have hA3 : Hid (dec L = A2 ++ dec (L.drop (k + 1))) := Hid.mk' (by rw [hA.out, dec_bad hne.out (by rw [hR.out]; exact hk0.out), ← hA2.out, List.drop_drop, List.append_assoc]; rfl)
        have hAl2 : Hid (A2.length ≤ k + 1 ∧ k + 1 ≤ L.length) := Hid.mk' (by rw [← hA2.out, List.length_append]; have h5 := hm.out; rw [List.length_drop] at h5; simp; omega)
        obtain ⟨m1, rfl⟩ : ∃ m1, m = m1 + 1 := ⟨m - 1, by omega⟩
        have a1 : Hid (∀ wx, wr.grownBy wx none → Calls Try.prog 24 #[.slice (some ⟨g0, o, none⟩) (m1 + 1) bc] wx fun e w' => e = .returned (.agg (gZ R.err (R.n : Int) 0 (R.a : Int))) ∧ wx.grownBy w' none) := Hid.mk' (fun wx hgx => by
          have := get_at _ (m1 + 1) bc (L.drop k) wx (hBk.out.kept0 hgx) hm.out (by omega) hmb hbm _ hR.out
          rwa [hk0.out] at this)
        go_upto_region 5 with (first
          | (go_at_call 24; refine (a1.out _ (grownBy_refl _ _)).mono ?_; rintro e w1 ⟨rfl, hg1⟩)
          | (refine wpList_allocC _ rfl 50 rfl (gZ 0 0 0 0) (zeroG _) ?_; intro w2 ca2 hg2)
          | (refine wpList_storeC _ rfl 50 _ _ rfl w1.heap.size (gZ 0 0 0 0) (gZ R.err (R.n : Int) 0 (R.a : Int)) infoG rfl (gC_one _ _ _ _ _ _ _ _ _) rfl rfl ca2 ?_; intro w3 ca3 hg3))
        have hG3 : Hid (wr.grownBy w3 none) := Hid.mk' (grownBy_new (gt hg1 hg2) hg3 (fun q hq => by have h5 := Option.some.inj hq; have h6 := hg1.size; omega))
        have hlt3 : Hid (∀ q, blk ro = some q → q < w1.heap.size) := Hid.mk' (fun q hq => Nat.lt_of_lt_of_le (ho.out.lt hq) hg1.size)
        have ho3 : Hid (RuE.Own w3 ro rc A) := Hid.mk' (ho.out.kept0 hG3.out)
        obtain ⟨G, hGe⟩ : ∃ G, Hid (w1.heap.size = G) := ⟨_, Hid.mk' rfl⟩
        rw [hGe.out] at ca3 hlt3
        rw [hGe.out]
        have ca3' := Hid.mk' ca3
        have c1 := ca3.cell 1 rfl
        have c2 := ca3.cell 2 rfl
        have c3 := ca3.cell 3 rfl
        clear ca2 ca3 hg1 hg2 hg3 a1
        go_upto_region 9 with (at_builtin; refine wpList_rune _ rfl _ _ rfl ro rc A rfl (ho3.out.alloc _) _ rfl [65533] (src_rune1 _ _) (by simp; omega) A2 hA2.out ?_; intro ro2 rc2 w4 o4 g4 at4)
        have c1' : w4.cell? ⟨G, 1, none⟩ = some (.int .i64 (R.n : Int)) := ((ca3'.out.kept0 (World.grownBy_alloc _ _ _)).kept g4 (by intro e; have := hlt3.out G e.symm; omega)).cell 1 rfl
        clear c1 c2 c3
        have hG4 : Hid (w0.grownBy w4 none) := Hid.mk' (grownBy_new (gt hG.out (gt hG3.out (World.grownBy_alloc _ _ _))) g4 (fun q hq => hf.out q hq))
        have hf4 : Hid (∀ q, blk ro2 = some q → w0.heap.size ≤ q) := Hid.mk' (by
          intro q hq
          rcases at4 with rfl | rfl
          · exact hf.out q hq
          · simp [blk] at hq; have := (gt hG.out hG3.out).size; omega)
        have hB4 : Hid (Bytes w4 (if bc = 1 then some ⟨g0, o, none⟩ else some ⟨g0, o + 1, none⟩) (L.drop (k + 1))) := Hid.mk' (by
          have h := (hBk.out.kept0 (gt hG3.out (World.grownBy_alloc _ _ _))).kept g4 (.inr (by intro e; have h5 := hf.out g0 e.symm; have h6 := hlt0.out; omega))
          have h2 := h.drop 1 bc (by rw [hm.out]; exact hmb)
          rw [List.drop_drop] at h2
          have hnz : ¬ 1 = 0 := by omega
          simpa [Addr.add, hnz] using h2)
        have b0 : (0 : Int) ≤ 1 := by omega
        have b1 : (1 : Int) ≤ (m1 : Int) + 1 := by omega
        have b2 : (m1 : Int) + 1 ≤ (bc : Int) := by omega
        have b3 : 1 ≤ m1 + 1 := by omega
        have b4 : 1 ≤ bc := by omega
        clear ca3' ho3 at4 hGe g4
        by_cases hbc : bc = 1
        · have hB5 := hB4.out
          rw [if_pos hbc] at hB5
          have hB6 := Hid.mk' hB5
          clear hB4 hB5
          subst hbc
          go_wp2
          go_roundw
          case rel => exact ⟨k + 1, o, _, _, ro2, rc2, A2, hAl2.out.2, rfl, Hid.mk' (by rw [List.length_drop]; have := hm.out; rw [List.length_drop] at this; omega), by omega, by omega, rfl, hB6, Hid.mk' o4, hf4, hA3, by have := hAl2.out; omega, hG4⟩
          all_goals (simp [lenOf] <;> omega)
        · have hB5 := hB4.out
          rw [if_neg hbc] at hB5
          have hB6 := Hid.mk' hB5
          have hbc2 : ¬ (bc : Int) = 1 := by omega
          have hbc3 : ¬ 1 = bc := fun e => hbc e.symm
          clear hB4 hB5
          go_wp2
          go_roundw
          case rel => exact ⟨k + 1, o + 1, _, _, ro2, rc2, A2, hAl2.out.2, rfl, Hid.mk' (by rw [List.length_drop]; have := hm.out; rw [List.length_drop] at this; omega), by omega, by omega, rfl, hB6, Hid.mk' o4, hf4, hA3, by have := hAl2.out; omega, hG4⟩
          all_goals (simp [lenOf] <;> omega)
    · obtain rfl : m = 0 := by omega
      have hD2 : Hid (A = D) := Hid.mk' (by
        rw [← hD.out, hA.out, List.eq_nil_of_length_eq_zero hm.out, dec_nil, List.append_nil])
      obtain rfl := hD2.out
      clear hA hD2 hBk hf hB1
      have hcn : Hid (∀ w, Calls Try.prog 9 #[.int .i32 u] w fun e w' => STold w C e w') := Hid.mk' (fun w => by rw [← hC.out]; exact cand_any u w)
      have hsh : Hid (∀ i (h : i < C.length), (C[i]).length ≤ 8) := Hid.mk' (fun i h => by
        have := (cands_short u).2.1 C[i] (by rw [hC.out]; exact List.getElem_mem h)
        exact this.1)
      go_upto_region 12 with (go_at_call 9; refine (hcn.out _).mono ?_; rintro e w5 ⟨co, cc, rfl, oC, g5, f5⟩)
      have hRC := Hid.mk' oC.rd
      have hRA := Hid.mk' (ho.out.rd.kept0 g5)
      have hG5 := Hid.mk' (gt hG0.out (gt hG.out g5))
      have q1 := oC.cap_le
      have q2 := oC.cap_max
      have q3 := ho.out.cap_le
      have q4 := ho.out.cap_max
      have hCl : C.length ≤ 3 := by rw [← hC.out]; exact (cands_short u).1
      have hDl : A.length ≤ 300 := by omega
      clear oC ho hG g5 f5 hcn hG0 hD hC
      go_loopw [10] (fun t10 wx => ∃ i : Nat, i ≤ C.length ∧ t10 = .int .i64 (i : Int) ∧ Hid (∀ j (h : j < C.length), j < i → fits A (U8.scanAll C[j]).1 = false) ∧ Hid (w5.grownBy wx none)) (fun t10 _ => C.length - (intOf t10).toNat)
      case atStart => exact ⟨0, by omega, rfl, Hid.mk' (by omega), Hid.mk' (grownBy_refl _ _)⟩
      case round =>
        obtain ⟨i, hi, rfl, hn, hgx⟩ := hrel
        by_cases hlt : i < C.length
        · obtain ⟨s, hs⟩ : ∃ s, Hid (C[i] = s) := ⟨_, Hid.mk' rfl⟩
          obtain ⟨cb, cof, rfl, hcb, x0⟩ := stcell (hRC.out.kept0 hgx.out) hlt
          rw [hs.out] at x0
          have hs8 : s.length ≤ 8 := by rw [← hs.out]; exact hsh.out i hlt
          have hlt' : (i : Int) < (C.length : Int) := by omega
          have hi0 : (0 : Int) ≤ (i : Int) := by omega
          obtain ⟨c6, w6, hcv6, hB6, hg6, hc6, hd6⟩ := conv_str wr s (by omega)
          obtain ⟨⟨U, NN, EE⟩, hE⟩ : ∃ p, U8.scanAll s = p := ⟨_, rfl⟩
          have hU8 : U.length ≤ 8 := by have := (U8.scan_le s.length s (Nat.le_refl _)).2.1; rw [hE] at this; simp at this; omega
          have a2 := Hid.mk' (U8.refscalars_any _ c6 s w6 hB6 (by omega) hc6 hd6 EE NN U (Hid.mk' hE))
          have hg6' := Hid.mk' hg6
          have hfs : Hid ((U8.scanAll s).1 = U) := Hid.mk' (by rw [hE])
          clear hB6 hE hg6
          go_upto_region 17 with (go_at_call 16; refine a2.out.mono ?_; rintro e w7 ⟨lo, lc, rfl, hU, g7⟩)
          have hU7 := Hid.mk' hU
          have hG7 := Hid.mk' (gt hgx.out (gt hg6'.out g7))
          clear hcv6 hU g7 a2 hg6'
          go_loopw [14, 15] (fun t14 t15 wx => ∃ k : Nat, k ≤ U.length ∧ t15 = .int .i64 (k : Int) ∧ t14 = .bool (fits A (U.take k)) ∧ Hid (w7.grownBy wx none)) (fun _ t15 _ => U.length - (intOf t15).toNat)
          case atStart => exact ⟨0, by omega, rfl, by simp [fits], Hid.mk' (grownBy_refl _ _)⟩
          case round =>
            obtain ⟨k, hk, rfl, rfl, hg8⟩ := hrel
            by_cases hkl : k < U.length
            · have hkl' : (k : Int) < (U.length : Int) := by omega
              have hk0 : (0 : Int) ≤ (k : Int) := by omega
              obtain ⟨r, hr⟩ : ∃ r, Hid (U[k] = r) := ⟨_, Hid.mk' rfl⟩
              obtain ⟨bA, hbA⟩ : ∃ b, Hid (fits A (U.take k) = b) := ⟨_, Hid.mk' rfl⟩
              rw [hbA.out]
              have hnx : Hid (fits A (U.take (k + 1)) = (bA && hasI A (r : Int))) := Hid.mk' (by
                rw [fits_step A U k hkl, hbA.out, hr.out])
              obtain ⟨lb, lf, rfl, hlq⟩ := U8.runes_cell hU7.out (by intro e; have h5 := congrArg List.length e; simp [U8.ints] at h5; rw [h5] at hkl; simp at hkl)
              have hy : Hid (∀ wx, w7.grownBy wx none → wx.cell? ⟨lb, lf + k, none⟩ = some (.int .i32 (r : Int))) := Hid.mk' (fun wx hg => by
                have := hg.cell (hlq k (by simp [U8.ints]; exact hkl)) (by simp)
                simpa [U8.ints, hr.out] using this)
              clear hlq
              go_upto_region 21 with fail
              go_loopw [16, 17] (fun t16 t17 wx => ∃ j : Nat, j ≤ A.length ∧ t17 = .int .i64 (j : Int) ∧ t16 = .bool (hasI (A.take j) (r : Int)) ∧ Hid (w7.grownBy wx none)) (fun _ t17 _ => A.length - (intOf t17).toNat)
              case atStart => exact ⟨0, by omega, rfl, by simp [hasI], hg8⟩
              case round =>
                obtain ⟨j, hj, rfl, rfl, hg9⟩ := hrel
                by_cases hjl : j < A.length
                · have hjl' : (j : Int) < (A.length : Int) := by omega
                  have hj0 : (0 : Int) ≤ (j : Int) := by omega
                  obtain ⟨z, hz⟩ : ∃ z, Hid (A[j] = z) := ⟨_, Hid.mk' rfl⟩
                  obtain ⟨bI, hbI⟩ : ∃ b, Hid (hasI (A.take j) (r : Int) = b) := ⟨_, Hid.mk' rfl⟩
                  rw [hbI.out]
                  have hnj : Hid (hasI (A.take (j + 1)) (r : Int) = (bI || decide (z = (r : Int)))) := Hid.mk' (by
                    rw [hasI_step A j hjl, hbI.out, hz.out])
                  obtain ⟨ab, af, rfl, hab, xz⟩ := rucell (hRA.out.kept0 (gt hG7.out hg9.out)) hjl
                  rw [hz.out] at xz
                  have xr := hy.out _ hg9.out
                  cases bI with
                  | true =>
                    go_wp2
                    go_quiet (fail)
                    go_wp2
                    go_roundw
                    case rel => exact ⟨j + 1, by omega, by go_num, by rw [hnj.out]; rfl, Hid.mk' (gt hg9.out ⟨rfl, rfl, rfl, Nat.le_refl _, fun _ _ _ => rfl⟩)⟩
                    all_goals (simp [intOf]; omega)
                  | false =>
                    by_cases hzr : z = (r : Int)
                    · have hzr' : (z == (r : Int)) = true := by simpa using hzr
                      go_wp2
                      go_quiet (fail)
                      go_wp2
                      go_roundw
                      case rel => exact ⟨j + 1, by omega, by go_num, by rw [hnj.out]; simp [hzr], Hid.mk' (gt hg9.out ⟨rfl, rfl, rfl, Nat.le_refl _, fun _ _ _ => rfl⟩)⟩
                      all_goals (simp [intOf]; omega)
                    · have hzr' : (z == (r : Int)) = false := by simpa using hzr
                      go_wp2
                      go_quiet (fail)
                      go_wp2
                      go_roundw
                      case rel => exact ⟨j + 1, by omega, by go_num, by rw [hnj.out]; simp [hzr], Hid.mk' (gt hg9.out ⟨rfl, rfl, rfl, Nat.le_refl _, fun _ _ _ => rfl⟩)⟩
                      all_goals (simp [intOf]; omega)
                · obtain rfl : j = A.length := by omega
                  rw [List.take_length]
                  obtain ⟨bH, hbH⟩ : ∃ b, Hid (hasI A (r : Int) = b) := ⟨_, Hid.mk' rfl⟩
                  rw [hbH.out]
                  have hnx2 : Hid (fits A (U.take (k + 1)) = (bA && bH)) := Hid.mk' (by rw [hnx.out, hbH.out])
                  cases bA <;> cases bH <;>
                  · go_wp2
                    go_roundw
                    case rel => exact ⟨k + 1, by omega, by go_num, by rw [hnx2.out]; rfl, hg9⟩
                    all_goals (simp [intOf]; omega)
            · obtain rfl : k = U.length := by omega
              rw [List.take_length]
              obtain ⟨bA, hbA⟩ : ∃ b, Hid (fits A U = b) := ⟨_, Hid.mk' rfl⟩
              rw [hbA.out]
              have x9 : wr.cell? ⟨cb, cof + i, none⟩ = some (.string (str s)) := (gt hG7.out hg8.out |> fun hg => by
                obtain ⟨cb2, cof2, e2, hcb2, x2⟩ := stcell (hRC.out.kept0 hg) hlt
                cases e2
                rw [hs.out] at x2
                exact x2)
              cases bA with
              | true =>
                have hPs : Hid (P = some s) := Hid.mk' (by
                  rw [← hP.out]
                  unfold fstP
                  rw [List.find?_eq_some_iff_getElem]
                  refine ⟨by rw [hfs.out, hbA.out], i, hlt, hs.out, fun j hj => ?_⟩
                  have := hn.out j (by omega) hj
                  simp [this])
                go_wp2
                obtain rfl := hPs.out
                exact bodyPost_ret (v := .tuple #[.string (str s), .bool true]) (by simp [results, Try.results11, go_sem]) rfl ⟨rfl, gt hG5.out (gt hG7.out hg8.out)⟩
              | false =>
                go_wp2
                go_roundw
                case rel => exact ⟨i + 1, by omega, by go_num, Hid.mk' (fun j h hj => by
                  by_cases e : j = i
                  · subst e; rw [hs.out, hfs.out]; exact hbA.out
                  · exact hn.out j h (by omega)), Hid.mk' (gt hG7.out hg8.out)⟩
                all_goals (simp [intOf]; omega)
        · obtain rfl : i = C.length := by omega
          have hPn : Hid (P = none) := Hid.mk' (by
            rw [← hP.out]
            unfold fstP
            rw [List.find?_eq_none]
            intro x hx
            obtain ⟨j, hj, e⟩ := List.getElem_of_mem hx
            subst e
            simp [hn.out j hj hj])
          go_wp2
          obtain rfl := hPn.out
          exact bodyPost_ret (v := .tuple #[.string ⟨#[]⟩, .bool false]) (by simp [results, Try.results11, go_sem]) rfl ⟨rfl, gt hG5.out hgx.out⟩
end Go.Proofs.Ytjhdepbiakekaaa.C22

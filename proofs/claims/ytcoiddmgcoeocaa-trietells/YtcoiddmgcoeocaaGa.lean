/- Stb, Stw, joined. -/
import Derived.Test.YtcoiddmgcoeocaaSym2
/- The stable sort, whole: walks. -/
namespace Go.Proofs.Ytcoiddmgcoeocaa.Tr
open Go.ChangeShapes Go.WideShapes Go.ChangeAt Go.RowKit Go.Maps Go.Proofs.Ytcoiddmgcoeocaa.Mem Go.Proofs.Ytcoiddmgcoeocaa.El Go.Sort
set_option linter.unusedVariables false
set_option linter.unusedSimpArgs false

/-- The entries from p up to q are in order. -/
def SI (D : List Pr) (p q : Nat) : Prop := SL ((D.take q).drop p)
theorem si_mono {D : List Pr} {p q p' q' : Nat} (h : SI D p q) (h1 : p ≤ p') (h2 : q' ≤ q) : SI D p' q' := by
  unfold SI at *
  have e : (D.take q').drop p' = (((D.take q).drop p).take (q' - p)).drop (p' - p) := by
    rw [List.take_drop, List.drop_drop, List.take_take]
    by_cases hp : p ≤ q'
    · rw [show p + (q' - p) = q' by omega, show p + (p' - p) = p' by omega, Nat.min_eq_left h2]
    · rw [List.drop_of_length_le (by rw [List.length_take]; omega), List.drop_of_length_le (by rw [List.length_take]; omega)]
  rw [e]
  exact sl_drop (sl_take h _) _
theorem si_beyond {D : List Pr} {p q n : Nat} (hn : D.length ≤ n) (h : SI D p n) : SI D p q := by
  unfold SI at *
  rw [List.take_of_length_le hn] at h
  by_cases hq : D.length ≤ q
  · rw [List.take_of_length_le hq]; exact h
  · have : SI D p D.length := by unfold SI; rw [List.take_length]; exact h
    exact si_mono this (Nat.le_refl _) (by omega)
theorem si_empty {D : List Pr} {p q : Nat} (h : D.length ≤ p) : SI D p q := by
  unfold SI
  rw [List.drop_of_length_le (by rw [List.length_take]; omega)]
  exact List.Pairwise.nil
/-- The middle put in order: what lies ahead of it, itself, what lies behind it. -/
theorem si_left {X W Z Y : List Pr} (hl : Z.length = W.length) {p q : Nat} (hq : q ≤ X.length) (h : SI (X ++ W ++ Y) p q) : SI (X ++ Z ++ Y) p q := by
  unfold SI at *
  rw [List.append_assoc, List.take_append_of_le_length hq] at h ⊢
  exact h
theorem si_right {X W Z Y : List Pr} (hl : Z.length = W.length) {p q : Nat} (hp : X.length + W.length ≤ p) (h : SI (X ++ W ++ Y) p q) : SI (X ++ Z ++ Y) p q := by
  unfold SI at *
  rw [List.drop_take] at h ⊢
  rw [List.drop_append, List.drop_of_length_le (by rw [List.length_append]; omega), List.nil_append, List.length_append] at h ⊢
  rw [hl]
  exact h
theorem si_mid {X Z Y : List Pr} (h : SL Z) {p q : Nat} (hp : X.length = p) (hq : p + Z.length = q) : SI (X ++ Z ++ Y) p q := by
  unfold SI
  subst hp
  subst hq
  rw [List.take_append_of_le_length (by rw [List.length_append]; omega), List.take_of_length_le (by rw [List.length_append]; omega), List.drop_left]
  exact h
theorem si_seg {X Z Y : List Pr} {p q : Nat} (hp : X.length = p) (hq : p + Z.length = q) (h : SI (X ++ Z ++ Y) p q) : SL Z := by
  unfold SI at h
  subst hp
  subst hq
  rw [List.take_append_of_le_length (by rw [List.length_append]; omega), List.take_of_length_le (by rw [List.length_append]; omega), List.drop_left] at h
  exact h
/-- A list in parts. -/
theorem parts3 (D : List Pr) {a b : Nat} (hab : a ≤ b) (hb : b ≤ D.length) : D = D.take a ++ (D.take b).drop a ++ D.drop b ∧ (D.take a).length = a ∧ ((D.take b).drop a).length = b - a := by
  refine ⟨?_, by rw [List.length_take]; omega, by rw [List.length_drop, List.length_take]; omega⟩
  have : D.take a ++ (D.take b).drop a = D.take b := by
    have h := List.take_append_drop a (D.take b)
    rwa [List.take_take, Nat.min_eq_left hab] at h
  rw [this, List.take_append_drop]
theorem parts4 (D : List Pr) {a m b : Nat} (ham : a ≤ m) (hmb : m ≤ b) (hb : b ≤ D.length) : D = D.take a ++ (D.take m).drop a ++ (D.take b).drop m ++ D.drop b := by
  have h1 := (parts3 D ham (by omega)).1
  have h2 := (parts3 D hmb hb).1
  have e : D.take a ++ (D.take m).drop a = D.take m := by
    have h := List.take_append_drop a (D.take m)
    rwa [List.take_take, Nat.min_eq_left ham] at h
  rw [e]
  exact h2
theorem st_seg {D : List Pr} (h : St D) (a b : Nat) : St ((D.take b).drop a) := by
  unfold St at *
  exact (h.sublist (List.take_sublist _ _)).sublist (List.drop_sublist _ _)

theorem put_left {D Z : List Pr} {a b p q : Nat} (hab : a ≤ b) (hb : b ≤ D.length) (hl : Z.length = b - a) (hq : q ≤ a) (h : SI D p q) : SI (D.take a ++ Z ++ D.drop b) p q := by
  obtain ⟨e, l1, l2⟩ := parts3 D hab hb
  rw [e] at h
  exact si_left (by rw [hl, l2]) (by rw [l1]; exact hq) h
theorem put_right {D Z : List Pr} {a b p q : Nat} (hab : a ≤ b) (hb : b ≤ D.length) (hl : Z.length = b - a) (hp : b ≤ p) (h : SI D p q) : SI (D.take a ++ Z ++ D.drop b) p q := by
  obtain ⟨e, l1, l2⟩ := parts3 D hab hb
  rw [e] at h
  exact si_right (by rw [hl, l2]) (by rw [l1, l2]; omega) h
theorem put_mid {D Z : List Pr} {a b : Nat} (hab : a ≤ b) (hb : b ≤ D.length) (hl : Z.length = b - a) (h : SL Z) : SI (D.take a ++ Z ++ D.drop b) a b :=
  si_mid h (parts3 D hab hb).2.1 (by rw [hl]; omega)
def Chunks (D : List Pr) (bs : Nat) : Prop := ∀ k, SI D (bs * k) (bs * (k + 1))
def First (D : List Pr) (a : Nat) : Prop := (∀ k, 20 * (k + 1) ≤ a → SI D (20 * k) (20 * (k + 1))) ∧ ∃ c, a = 20 * c
def Half (D : List Pr) (bs a : Nat) : Prop := (∀ k, 2 * bs * (k + 1) ≤ a → SI D (2 * bs * k) (2 * bs * (k + 1))) ∧ (∀ k, a ≤ bs * k → SI D (bs * k) (bs * (k + 1))) ∧ ∃ c, a = 2 * bs * c
theorem first_start (D : List Pr) : First D 0 := ⟨fun k h => by omega, 0, rfl⟩
theorem first_step {D Z : List Pr} {a : Nat} (h : First D a) (hl : a + 20 ≤ D.length) (hz : Z.length = 20) (hs : SL Z) : First (D.take a ++ Z ++ D.drop (a + 20)) (a + 20) := by
  obtain ⟨h1, c, rfl⟩ := h
  refine ⟨fun k hk => ?_, c + 1, by omega⟩
  by_cases hkc : 20 * (k + 1) ≤ 20 * c
  · exact put_left (by omega) hl (by omega) hkc (h1 k hkc)
  · obtain rfl : k = c := by omega
    exact put_mid (by omega) hl (by omega) hs
theorem first_end {D Z : List Pr} {a : Nat} (h : First D a) (ha : a ≤ D.length) (hl : D.length < a + 20) (hz : Z.length = D.length - a) (hs : SL Z) : Chunks (D.take a ++ Z ++ D.drop D.length) 20 := by
  obtain ⟨h1, c, rfl⟩ := h
  have hlen : (D.take (20 * c) ++ Z ++ D.drop D.length).length = D.length := by simp only [List.length_append, List.length_take, List.length_drop]; omega
  intro k
  by_cases hkc : 20 * (k + 1) ≤ 20 * c
  · exact put_left ha (Nat.le_refl _) hz hkc (h1 k hkc)
  · by_cases hk2 : k = c
    · subst hk2
      exact si_beyond (by omega) (put_mid ha (Nat.le_refl _) hz hs)
    · exact si_empty (by omega)
theorem half_start {D : List Pr} {bs : Nat} (h : Chunks D bs) (hb : 0 < bs) : Half D bs 0 := by
  refine ⟨fun k hk => ?_, fun k _ => h k, 0, by omega⟩
  exfalso
  have : 0 < 2 * bs * (k + 1) := Nat.mul_pos (by omega) (by omega)
  omega
theorem half_first {D : List Pr} {bs a : Nat} (h : Half D bs a) : SI D a (a + bs) ∧ SI D (a + bs) (a + 2 * bs) := by
  obtain ⟨_, h2, c, rfl⟩ := h
  have e1 : bs * (2 * c) = 2 * bs * c := by rw [Nat.mul_left_comm, Nat.mul_assoc]
  have e2 : bs * (2 * c + 1) = 2 * bs * c + bs := by rw [Nat.mul_succ, e1]
  have e3 : bs * (2 * c + 1 + 1) = 2 * bs * c + 2 * bs := by rw [Nat.mul_succ, e2]; omega
  have g1 := h2 (2 * c) (by omega)
  have g2 := h2 (2 * c + 1) (by omega)
  rw [e1, e2] at g1
  rw [e2, e3] at g2
  exact ⟨g1, g2⟩
theorem half_step {D Z : List Pr} {bs a : Nat} (hb : 0 < bs) (h : Half D bs a) (hl : a + 2 * bs ≤ D.length) (hz : Z.length = 2 * bs) (hs : SL Z) : Half (D.take a ++ Z ++ D.drop (a + 2 * bs)) bs (a + 2 * bs) := by
  obtain ⟨h1, h2, c, rfl⟩ := h
  refine ⟨fun k hk => ?_, fun k hk => ?_, c + 1, by rw [Nat.mul_succ]⟩
  · by_cases hkc : 2 * bs * (k + 1) ≤ 2 * bs * c
    · exact put_left (by omega) hl (by omega) hkc (h1 k hkc)
    · have g1 : k + 1 ≤ c + 1 := by
        have : 2 * bs * (k + 1) ≤ 2 * bs * (c + 1) := by rw [Nat.mul_succ _ c]; exact hk
        exact Nat.le_of_mul_le_mul_left this (by omega)
      have g2 : ¬ k + 1 ≤ c := fun h => hkc (Nat.mul_le_mul_left _ h)
      obtain rfl : k = c := by omega
      rw [Nat.mul_succ]
      exact put_mid (by omega) hl (by omega) hs
  · exact put_right (by omega) hl (by omega) hk (h2 k (by omega))
theorem half_tail {D : List Pr} {bs c : Nat} (hb : 0 < bs) (hl : D.length < 2 * bs * c + 2 * bs) (h1 : ∀ k, 2 * bs * (k + 1) ≤ 2 * bs * c → SI D (2 * bs * k) (2 * bs * (k + 1))) (h2 : SI D (2 * bs * c) D.length) : Chunks D (2 * bs) := by
  intro k
  by_cases hkc : 2 * bs * (k + 1) ≤ 2 * bs * c
  · exact h1 k hkc
  · by_cases hk2 : k = c
    · subst hk2
      exact si_beyond (Nat.le_refl _) h2
    · have g2 : ¬ k + 1 ≤ c := fun h => hkc (Nat.mul_le_mul_left _ h)
      have g3 : 2 * bs * (c + 1) ≤ 2 * bs * k := Nat.mul_le_mul_left _ (by omega)
      rw [Nat.mul_succ] at g3
      exact si_empty (by omega)
theorem half_end {D Z : List Pr} {bs a : Nat} (hb : 0 < bs) (h : Half D bs a) (ha : a ≤ D.length) (hl : D.length < a + 2 * bs) (hz : Z.length = D.length - a) (hs : SL Z) : Chunks (D.take a ++ Z ++ D.drop D.length) (2 * bs) := by
  obtain ⟨h1, h2, c, rfl⟩ := h
  have hlen : (D.take (2 * bs * c) ++ Z ++ D.drop D.length).length = D.length := by simp only [List.length_append, List.length_take, List.length_drop]; omega
  refine half_tail (c := c) hb (by omega) (fun k hk => put_left ha (Nat.le_refl _) hz hk (h1 k hk)) ?_
  rw [hlen]
  exact put_mid ha (Nat.le_refl _) hz hs
theorem half_end0 {D : List Pr} {bs a : Nat} (hb : 0 < bs) (h : Half D bs a) (hl : D.length ≤ a + bs) : Chunks D (2 * bs) := by
  have g := (half_first h).1
  obtain ⟨h1, h2, c, rfl⟩ := h
  exact half_tail (c := c) hb (by omega) h1 (si_mono g (Nat.le_refl _) hl)
theorem chunks_all {D : List Pr} {bs : Nat} (h : Chunks D bs) (hl : D.length ≤ bs) : SL D := by
  have := h 0
  unfold SI at this
  rw [Nat.mul_zero, List.drop_zero, List.take_of_length_le (by omega)] at this
  exact this

/-- What the sort is told of the row, and what it keeps. -/
structure SK (w0 : World) (g : Nat) (L D : List Pr) (N : Nat) (W : World) : Prop where
  sw : SW w0 g D W
  len : D.length = N
  perm : D.Perm L
  st : St D
/-- A part put in order. -/
theorem SK.put {w0 : World} {g : Nat} {L D : List Pr} {N : Nat} {W W' : World} (h : SK w0 g L D N W) {a b : Nat} (hab : a ≤ b) (hb : b ≤ N) {Z : List Pr} (hs : SW w0 g (D.take a ++ Z ++ D.drop b) W') (hp : Z.Perm ((D.take b).drop a)) (hz : SL Z) :
    SK w0 g L (D.take a ++ Z ++ D.drop b) N W' := by
  obtain ⟨e, l1, l2⟩ := parts3 D hab (by rw [h.len]; exact hb)
  refine ⟨hs, ?_, ?_, ?_⟩
  · have h1 := h.len
    rw [e] at h1
    simp only [List.length_append] at h1 ⊢
    rw [hp.length_eq]
    exact h1
  · refine List.Perm.trans ?_ h.perm
    conv => rhs; rw [e]
    exact ((List.Perm.append_left _ hp).append_right _)
  · have h1 := h.st
    rw [e] at h1
    exact st_mid h1 hp hz
theorem SK.ins {w0 : World} {g : Nat} {L D : List Pr} {N : Nat} {W : World} (h : SK w0 g L D N W) {a b : Nat} (hab : a ≤ b) (hb : b ≤ N) (hN : N ≤ 70000) :
    Calls Try.prog 53 #[.slice (some ⟨g, 0, none⟩) N N, .int .i64 (a : Int), .int .i64 (b : Int), .func (.func 40) #[] #[]] W fun e w' => e = .returned (.tuple #[]) ∧ ∃ Z, Z.length = b - a ∧ SL Z ∧ SK w0 g L (D.take a ++ Z ++ D.drop b) N w' := by
  have hbD : b ≤ D.length := by rw [h.len]; exact hb
  obtain ⟨e, l1, l2⟩ := parts3 D hab hbD
  refine (ins_any g a b N (D.take a) ((D.take b).drop a) (D.drop b) w0 W (by rw [← e]; exact h.sw) (by rw [← e]; exact h.len) hN l1 (by rw [l2]; omega) (st_seg h.st a b)).mono ?_
  rintro e w' ⟨rfl, Z, hs, hp, hz⟩
  exact ⟨rfl, Z, by rw [hp.length_eq, l2], hz, h.put hab hb hs hp hz⟩
theorem SK.sym {w0 : World} {g : Nat} {L D : List Pr} {N : Nat} {W : World} (h : SK w0 g L D N W) {a m b : Nat} (ham : a < m) (hmb : m < b) (hb : b ≤ N) (hN : N ≤ 70000) (h1 : SI D a m) (h2 : SI D m b) :
    Calls Try.prog 54 #[.slice (some ⟨g, 0, none⟩) N N, .int .i64 (a : Int), .int .i64 (m : Int), .int .i64 (b : Int), .func (.func 40) #[] #[]] W fun e w' => e = .returned (.tuple #[]) ∧ ∃ Z, Z.length = b - a ∧ SL Z ∧ SK w0 g L (D.take a ++ Z ++ D.drop b) N w' := by
  have hbD : b ≤ D.length := by rw [h.len]; exact hb
  have e := parts4 D (Nat.le_of_lt ham) (Nat.le_of_lt hmb) hbD
  have l1 : (D.take a).length = a := by rw [List.length_take]; omega
  have l2 : ((D.take m).drop a).length = m - a := by rw [List.length_drop, List.length_take]; omega
  have l3 : ((D.take b).drop m).length = b - m := by rw [List.length_drop, List.length_take]; omega
  have hj : (D.take m).drop a ++ (D.take b).drop m = (D.take b).drop a := by
    have h3 := List.take_append_drop (m - a) ((D.take b).drop a)
    rw [List.drop_drop, List.take_drop, List.take_take, show a + (m - a) = m by omega, Nat.min_eq_left (by omega)] at h3
    exact h3
  refine (sym_all _ g a b N (D.take a) ((D.take m).drop a) ((D.take b).drop m) (D.drop b) w0 W (Nat.le_refl _) (by rw [← e]; exact h.sw) (by rw [← e]; exact h.len) hN l1 m (by rw [l2]; omega) (by rw [l3]; omega) (by rw [l2]; omega) (by rw [l3]; omega) h1 h2 (st_cross (by rw [← e]; exact h.st))).mono ?_
  rintro e' w' ⟨rfl, Z, hs, hp, hz⟩
  rw [hj] at hp
  exact ⟨rfl, Z, by rw [hp.length_eq, List.length_drop, List.length_take]; omega, hz, h.put (by omega) hb hs hp hz⟩
end Go.Proofs.Ytcoiddmgcoeocaa.Tr

/- The stable sort's own walk. -/
namespace Go.Proofs.Ytcoiddmgcoeocaa.Tr
open Go.ChangeShapes Go.WideShapes Go.ChangeAt Go.RowKit Go.Maps Go.Proofs.Ytcoiddmgcoeocaa.Mem Go.Proofs.Ytcoiddmgcoeocaa.El Go.Sort
set_option linter.unusedVariables false
set_option linter.unusedSimpArgs false

set_option maxRecDepth 100000 in
set_option maxHeartbeats 4000000 in
theorem stable_any (g N : Nat) (L : List Pr) (w0 w : World) (h : SW w0 g L w) (hN : L.length = N) (hN2 : N ≤ 65536) (hst : St L) :
    Calls Try.prog 49 #[.slice (some ⟨g, 0, none⟩) N N, .int .i64 (N : Int), .func (.func 40) #[] #[]] w fun e w' => e = .returned (.tuple #[]) ∧ ∃ D, SW w0 g D w' ∧ D.Perm L ∧ SL D := by
  have h0 : Hid (SK w0 g L L N w) := Hid.mk' ⟨h, hN, List.Perm.refl _, hst⟩
  clear h hN hst
  have hN7 : N ≤ 70000 := by omega
  go_enter Try.func49, Try.ntmps49
  go_wp2_with fail
  go_loopw [7, 8] (fun t7 t8 wx => ∃ (a b : Nat) (D : List Pr), a ≤ N ∧ a + 20 = b ∧ t7 = .int .i64 (a : Int) ∧ t8 = .int .i64 (b : Int) ∧ Hid (SK w0 g L D N wx) ∧ Hid (First D a)) (fun t7 _ _ => N - (intOf t7).toNat)
  case atStart => exact ⟨0, 20, L, by omega, rfl, rfl, rfl, h0, Hid.mk' (first_start L)⟩
  case round =>
    obtain ⟨a, b, D, haN, hab, rfl, rfl, hK, hF⟩ := hrel
    clear h0
    by_cases hb : b ≤ N
    · have hb' : (b : Int) ≤ (N : Int) := by omega
      have hab' : a ≤ b := by omega
      go_wp2_with (go_at_call 53; refine (hK.out.ins hab' hb hN7).mono ?_; rintro e w1 ⟨rfl, Z, hz1, hz2, hk1⟩)
      go_roundw
      case rel => exact ⟨b, b + 20, _, hb, rfl, rfl, by go_num, Hid.mk' hk1, Hid.mk' (by have := first_step hF.out (by rw [hK.out.len]; omega) (Z := Z) (by omega) hz2; rwa [hab] at this)⟩
      case measure => simp [intOf]; omega
    · have hb' : ¬ (b : Int) ≤ (N : Int) := by omega
      have hlen := Hid.mk' hK.out.len
      go_wp2_with (go_at_call 53; refine (hK.out.ins haN (Nat.le_refl N) hN7).mono ?_; rintro e w1 ⟨rfl, Z, hz1, hz2, hk1⟩)
      have hC : Hid (Chunks (D.take a ++ Z ++ D.drop N) 20) := Hid.mk' (by have := first_end hF.out (by rw [hlen.out]; exact haN) (by rw [hlen.out]; omega) (Z := Z) (by rw [hlen.out]; exact hz1) hz2; rwa [hlen.out] at this)
      have hK1 := Hid.mk' hk1
      clear hk1 hK hF hz1 hz2 hlen
      generalize D.take a ++ Z ++ D.drop N = D1 at *
      go_loopw [6] (fun t6 wx => ∃ (bs : Nat) (D : List Pr), 20 ≤ bs ∧ bs ≤ 140000 ∧ t6 = .int .i64 (bs : Int) ∧ Hid (SK w0 g L D N wx) ∧ Hid (Chunks D bs)) (fun t6 _ => N - (intOf t6).toNat)
      case atStart => exact ⟨20, D1, by omega, by omega, rfl, hK1, hC⟩
      case round =>
        obtain ⟨bs, D2, hbs, hbs2, rfl, hK2, hC2⟩ := hrel
        clear hK1 hC
        by_cases hlt : bs < N
        · have hlt' : (bs : Int) < (N : Int) := by omega
          obtain ⟨bb, hbb⟩ : ∃ bb, 2 * bs = bb := ⟨_, rfl⟩
          have hbb' : 2 * (bs : Int) = (bb : Int) := by omega
          have hbb2 : (bs : Int) * 2 = (bb : Int) := by omega
          have hbp : 0 < bs := by omega
          go_wp2_with fail
          go_loopw [7, 8] (fun t7 t8 wx => ∃ (a b : Nat) (D : List Pr), a ≤ N ∧ a + bb = b ∧ t7 = .int .i64 (a : Int) ∧ t8 = .int .i64 (b : Int) ∧ Hid (SK w0 g L D N wx) ∧ Hid (Half D bs a)) (fun t7 _ _ => N - (intOf t7).toNat)
          case atStart => exact ⟨0, bb, D2, by omega, by omega, rfl, by go_num, hK2, Hid.mk' (half_start hC2.out hbp)⟩
          case round =>
            obtain ⟨a1, b1, D3, ha1, hb1, rfl, rfl, hK3, hH⟩ := hrel
            clear hK2 hC2
            obtain ⟨m, hm⟩ : ∃ m, a1 + bs = m := ⟨_, rfl⟩
            have hm' : (a1 : Int) + (bs : Int) = (m : Int) := by omega
            have s1 := Hid.mk' (half_first hH.out).1
            have s2 := Hid.mk' (half_first hH.out).2
            rw [hm, hbb, hb1] at s2
            rw [hm] at s1
            have ham : a1 < m := by omega
            have hmb : m < b1 := by omega
            have hlen := Hid.mk' hK3.out.len
            by_cases hbN : b1 ≤ N
            · have hbN' : (b1 : Int) ≤ (N : Int) := by omega
              go_wp2_with (go_at_call 54; refine (hK3.out.sym ham hmb hbN hN7 s1.out s2.out).mono ?_; rintro e w1 ⟨rfl, Z1, hz1, hz2, hk1⟩)
              go_roundw
              case rel => exact ⟨b1, b1 + bb, _, hbN, rfl, rfl, by go_num, Hid.mk' hk1, Hid.mk' (by have := half_step hbp hH.out (by rw [hlen.out]; omega) (Z := Z1) (by omega) hz2; rwa [hbb, hb1] at this)⟩
              case measure => simp [intOf]; omega
            · have hbN' : ¬ (b1 : Int) ≤ (N : Int) := by omega
              by_cases hmN : m < N
              · have hmN' : (m : Int) < (N : Int) := by omega
                have s3 := Hid.mk' (si_mono s2.out (Nat.le_refl m) (show N ≤ b1 by omega))
                go_wp2_with (go_at_call 54; refine (hK3.out.sym ham hmN (Nat.le_refl N) hN7 s1.out s3.out).mono ?_; rintro e w1 ⟨rfl, Z1, hz1, hz2, hk1⟩)
                go_roundw
                case rel => exact ⟨bb, _, by omega, by omega, by go_num, Hid.mk' hk1, Hid.mk' (by have := half_end hbp hH.out (by rw [hlen.out]; exact ha1) (by rw [hlen.out]; omega) (Z := Z1) (by rw [hlen.out]; exact hz1) hz2; rwa [hlen.out, hbb] at this)⟩
                case measure => simp [intOf]; omega
              · have hmN' : ¬ (m : Int) < (N : Int) := by omega
                go_wp2_with fail
                go_roundw
                case rel => exact ⟨bb, D3, by omega, by omega, by go_num, hK3, Hid.mk' (by have := half_end0 hbp hH.out (by rw [hlen.out]; omega); rwa [hbb] at this)⟩
                case measure => simp [intOf]; omega
        · have hlt' : ¬ (bs : Int) < (N : Int) := by omega
          go_wp2_with fail
          go_end0
          exact ⟨rfl, D2, hK2.out.sw, hK2.out.perm, chunks_all hC2.out (by rw [hK2.out.len]; omega)⟩
set_option maxRecDepth 100000 in
set_option maxHeartbeats 1000000 in
theorem sortStable_any (g N : Nat) (L : List Pr) (w0 w : World) (h : SW w0 g L w) (hN : L.length = N) (hN2 : N ≤ 65536) (hst : St L) :
    Calls Try.prog 39 #[.slice (some ⟨g, 0, none⟩) N N, .func (.func 40) #[] #[]] w fun e w' => e = .returned (.tuple #[]) ∧ ∃ D, SW w0 g D w' ∧ D.Perm L ∧ SL D := by
  have hS := Hid.mk' (stable_any g N L w0 w h hN hN2 hst)
  clear h hN hst
  go_enter Try.func39, Try.ntmps39
  go_wp2_with (go_at_call 49; refine hS.out.mono ?_; rintro e w1 ⟨rfl, D, r1, r2, r3⟩)
  go_end0
  exact ⟨rfl, D, r1, r2, r3⟩
end Go.Proofs.Ytcoiddmgcoeocaa.Tr

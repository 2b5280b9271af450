/- The model's own decoding of any bytes is the chapter's; the program's stands of layer 22: a walk. -/
import Derived.Test.YtjhdepbiakekaaaTF22
import Derived.Test.YtjhdepbiakekaaaDp
import Derived.WalkSmall
import Derived.Deep.LoopGhost
namespace Go.Proofs.Ytjhdepbiakekaaa.C22
open Go.ChangeShapes Go.WideShapes Go.ChangeAt Go.RowKit Go.Proofs.Ytjhdepbiakekaaa.Mem Go.Proofs.Ytjhdepbiakekaaa.El Go.Proofs.Ytjhdepbiakekaaa.St Go.Proofs.Ytjhdepbiakekaaa.Cb
set_option linter.unusedVariables false
set_option linter.unusedSimpArgs false

theorem u8_eq {c : UInt8} {n : Nat} (h : c.toNat = n) : c = UInt8.ofNat n := by
  rw [← h]
  simp
theorem unit2 {u : Nat} (h1 : 128 ≤ u) (h2 : u < 2048) : U8.unit u = [UInt8.ofNat (192 + u / 64), U8.tl u] := by
  have c1 : ¬ u < 128 := by omega
  simp [U8.unit, c1, h2, U8.tls]
theorem unit3 {u : Nat} (h1 : 2048 ≤ u) (h2 : u < 65536) : U8.unit u = [UInt8.ofNat (224 + u / 4096), U8.tl (u / 64), U8.tl u] := by
  have c1 : ¬ u < 128 := by omega
  have c2 : ¬ u < 2048 := by omega
  simp [U8.unit, c1, c2, h2, U8.tls]
theorem unit4 {u : Nat} (h1 : 65536 ≤ u) : U8.unit u = [UInt8.ofNat (240 + u / 262144), U8.tl (u / 4096), U8.tl (u / 64), U8.tl u] := by
  have c1 : ¬ u < 128 := by omega
  have c2 : ¬ u < 2048 := by omega
  have c3 : ¬ u < 65536 := by omega
  simp [U8.unit, c1, c2, c3, U8.tls]
theorem tl_by {c : UInt8} {u : Nat} (h : c.toNat = 128 + u % 64) : c = U8.tl u := u8_eq h
def isU (T : List UInt8) : Prop := ∃ (u : Nat) (r : List UInt8), Ucs.scB (u : Int) = true ∧ T = U8.unit u ++ r
theorem isU1 {b : UInt8} {r : List UInt8} (h : b.toNat < 128) : isU (b :: r) := ⟨b.toNat, r, by rw [Ucs.scB_iff]; omega, by
  have : U8.unit b.toNat = [b] := by simp [U8.unit, h]
  rw [this]
  rfl⟩
theorem isU2 {b c : UInt8} {r : List UInt8} (h1 : b.toNat / 32 = 6) (h2 : c.toNat / 64 = 2) (h3 : 128 ≤ b.toNat % 32 * 64 + c.toNat % 64) : isU (b :: c :: r) := by
  have hb := b.toNat_lt
  have hc := c.toNat_lt
  refine ⟨b.toNat % 32 * 64 + c.toNat % 64, r, by rw [Ucs.scB_iff]; omega, ?_⟩
  rw [unit2 h3 (by omega), ← tl_by (c := c) (by omega), ← u8_eq (c := b) (by omega)]
  rfl
theorem isU3 {b c d : UInt8} {r : List UInt8} (h1 : b.toNat / 16 = 14) (h2 : c.toNat / 64 = 2) (h3 : d.toNat / 64 = 2) (h4 : 2048 ≤ b.toNat % 16 * 4096 + c.toNat % 64 * 64 + d.toNat % 64) (hv : Utf8.valid ((b.toNat % 16 * 4096 + c.toNat % 64 * 64 + d.toNat % 64 : Nat) : Int) = true) : isU (b :: c :: d :: r) := by
  have hb := b.toNat_lt
  have hc := c.toNat_lt
  have hd := d.toNat_lt
  simp only [Utf8.valid, Bool.or_eq_true, Bool.and_eq_true, decide_eq_true_eq] at hv
  obtain ⟨v, hw⟩ : ∃ v, b.toNat % 16 * 4096 + c.toNat % 64 * 64 + d.toNat % 64 = v := ⟨_, rfl⟩
  rw [hw] at h4 hv
  refine ⟨v, r, by rw [Ucs.scB_iff]; omega, ?_⟩
  rw [unit3 h4 (by omega), ← tl_by (u := v) (c := d) (by omega), ← tl_by (u := v / 64) (c := c) (by omega), ← u8_eq (n := 224 + v / 4096) (c := b) (by omega)]
  rfl
theorem isU4 {b c d e : UInt8} {r : List UInt8} (h1 : b.toNat / 8 = 30) (h2 : c.toNat / 64 = 2) (h3 : d.toNat / 64 = 2) (h3' : e.toNat / 64 = 2) (h4 : 65536 ≤ b.toNat % 8 * 262144 + c.toNat % 64 * 4096 + d.toNat % 64 * 64 + e.toNat % 64) (hv : Utf8.valid ((b.toNat % 8 * 262144 + c.toNat % 64 * 4096 + d.toNat % 64 * 64 + e.toNat % 64 : Nat) : Int) = true) : isU (b :: c :: d :: e :: r) := by
  have hb := b.toNat_lt
  have hc := c.toNat_lt
  have hd := d.toNat_lt
  have he := e.toNat_lt
  simp only [Utf8.valid, Bool.or_eq_true, Bool.and_eq_true, decide_eq_true_eq] at hv
  obtain ⟨v, hw⟩ : ∃ v, b.toNat % 8 * 262144 + c.toNat % 64 * 4096 + d.toNat % 64 * 64 + e.toNat % 64 = v := ⟨_, rfl⟩
  rw [hw] at h4 hv
  refine ⟨v, r, by rw [Ucs.scB_iff]; omega, ?_⟩
  rw [unit4 h4, ← tl_by (u := v) (c := e) (by omega), ← tl_by (u := v / 64) (c := d) (by omega), ← tl_by (u := v / 4096) (c := c) (by omega), ← u8_eq (n := 240 + v / 262144) (c := b) (by omega)]
  rfl
theorem size_of {s : ByteArray} {p : Nat} {T : List UInt8} (h : s.data.toList.drop p = T) (hT : T ≠ []) : s.size = p + T.length := by
  have h2 := congrArg List.length h
  have h1 : s.data.toList.length = s.size := by rw [Array.length_toList]; rfl
  have h3 := List.length_pos_iff.2 hT
  rw [List.length_drop, h1] at h2
  omega
/-- Either a unit stands there, or the model's own decoding says: a bad byte. -/
theorem decode_ways (s : ByteArray) (p : Nat) (T : List UInt8) (h : s.data.toList.drop p = T) (hT : T ≠ []) : isU T ∨ Utf8.decode s p = (65533, 1) := by
  have hsz := size_of h hT
  apply Classical.byContradiction
  intro hno
  have hno1 : ¬ isU T := fun e => hno (.inl e)
  apply hno
  right
  match T, hT with
  | [b], _ =>
    obtain ⟨g0, _⟩ := Dn.get_drop (k := 0) h rfl
    have a0 : ¬ b.toNat < 128 := fun e => hno1 (isU1 e)
    have z1 : ¬ p + 1 < s.size := by rw [hsz]; simp
    simp only [Utf8.decode, g0, a0, z1, Utf8.runeError, if_false, decide_true, decide_false, Bool.true_and, Bool.false_and, Bool.and_false, Bool.and_eq_true, beq_iff_eq, Bool.false_eq_true]
  | [b, c], _ =>
    obtain ⟨g0, _⟩ := Dn.get_drop (k := 0) h rfl
    obtain ⟨g1, l1⟩ := Dn.get_drop (k := 1) h rfl
    have a0 : ¬ b.toNat < 128 := fun e => hno1 (isU1 e)
    have a1 : b.toNat / 32 = 6 → c.toNat / 64 = 2 → ¬ 128 ≤ b.toNat % 32 * 64 + c.toNat % 64 := fun e1 e2 e3 => hno1 (isU2 e1 e2 e3)
    have z2 : ¬ p + 2 < s.size := by rw [hsz]; simp
    simp only [Utf8.decode, g0, g1, a0, l1, z2, Utf8.runeError, if_false, decide_true, decide_false, Bool.true_and, Bool.false_and, Bool.and_false, Bool.and_eq_true, beq_iff_eq, Bool.false_eq_true]
    split
    · rename_i e
      rw [if_neg (a1 e.1 e.2)]
    · rfl
  | [b, c, d], _ =>
    obtain ⟨g0, _⟩ := Dn.get_drop (k := 0) h rfl
    obtain ⟨g1, l1⟩ := Dn.get_drop (k := 1) h rfl
    obtain ⟨g2, l2⟩ := Dn.get_drop (k := 2) h rfl
    have a0 : ¬ b.toNat < 128 := fun e => hno1 (isU1 e)
    have a1 : b.toNat / 32 = 6 → c.toNat / 64 = 2 → ¬ 128 ≤ b.toNat % 32 * 64 + c.toNat % 64 := fun e1 e2 e3 => hno1 (isU2 e1 e2 e3)
    have a2 : b.toNat / 16 = 14 → c.toNat / 64 = 2 → d.toNat / 64 = 2 → ¬ (2048 ≤ b.toNat % 16 * 4096 + c.toNat % 64 * 64 + d.toNat % 64 ∧ Utf8.valid ((b.toNat % 16 * 4096 + c.toNat % 64 * 64 + d.toNat % 64 : Nat) : Int) = true) := fun e1 e2 e3 e4 => hno1 (isU3 e1 e2 e3 e4.1 e4.2)
    have z3 : ¬ p + 3 < s.size := by rw [hsz]; simp
    simp only [Utf8.decode, g0, g1, g2, a0, l1, l2, z3, Utf8.runeError, if_false, decide_true, decide_false, Bool.true_and, Bool.false_and, Bool.and_false, Bool.and_eq_true, beq_iff_eq, Bool.false_eq_true, ge_iff_le, decide_eq_true_eq]
    split
    · rename_i e
      rw [if_neg (a1 e.1 e.2)]
    · split
      · rename_i e
        rw [if_neg (a2 e.1.1 e.1.2 e.2)]
      · rfl
  | b :: c :: d :: x :: r, _ =>
    obtain ⟨g0, _⟩ := Dn.get_drop (k := 0) h rfl
    obtain ⟨g1, l1⟩ := Dn.get_drop (k := 1) h rfl
    obtain ⟨g2, l2⟩ := Dn.get_drop (k := 2) h rfl
    obtain ⟨g3, l3⟩ := Dn.get_drop (k := 3) h rfl
    have a0 : ¬ b.toNat < 128 := fun e => hno1 (isU1 e)
    have a1 : b.toNat / 32 = 6 → c.toNat / 64 = 2 → ¬ 128 ≤ b.toNat % 32 * 64 + c.toNat % 64 := fun e1 e2 e3 => hno1 (isU2 e1 e2 e3)
    have a2 : b.toNat / 16 = 14 → c.toNat / 64 = 2 → d.toNat / 64 = 2 → ¬ (2048 ≤ b.toNat % 16 * 4096 + c.toNat % 64 * 64 + d.toNat % 64 ∧ Utf8.valid ((b.toNat % 16 * 4096 + c.toNat % 64 * 64 + d.toNat % 64 : Nat) : Int) = true) := fun e1 e2 e3 e4 => hno1 (isU3 e1 e2 e3 e4.1 e4.2)
    have a3 : b.toNat / 8 = 30 → c.toNat / 64 = 2 → d.toNat / 64 = 2 → x.toNat / 64 = 2 → ¬ (65536 ≤ b.toNat % 8 * 262144 + c.toNat % 64 * 4096 + d.toNat % 64 * 64 + x.toNat % 64 ∧ Utf8.valid ((b.toNat % 8 * 262144 + c.toNat % 64 * 4096 + d.toNat % 64 * 64 + x.toNat % 64 : Nat) : Int) = true) := fun e1 e2 e3 e4 e5 => hno1 (isU4 e1 e2 e3 e4 e5.1 e5.2)
    simp only [Utf8.decode, g0, g1, g2, g3, a0, l1, l2, l3, Utf8.runeError, if_false, decide_true, decide_false, Bool.true_and, Bool.false_and, Bool.and_false, Bool.and_eq_true, beq_iff_eq, Bool.false_eq_true, ge_iff_le, decide_eq_true_eq]
    split
    · rename_i e
      rw [if_neg (a1 e.1 e.2)]
    · split
      · rename_i e
        rw [if_neg (a2 e.1.1 e.1.2 e.2)]
      · split
        · rename_i e
          rw [if_neg (a3 e.1.1.1 e.1.1.2 e.1.2 e.2)]
        · rfl
/-- A step of the model's own decoding is a step of the chapter's. -/
theorem dec_step (L : List UInt8) (p : Nat) (h : p < L.length) : ∃ c n, Utf8.decode (str L) p = (c, n) ∧ dec (L.drop p) = (c : Int) :: dec (L.drop (p + n)) ∧ 1 ≤ n ∧ p + n ≤ L.length ∧ c ≤ 1114111 := by
  have hT : L.drop p ≠ [] := List.ne_nil_of_length_pos (by rw [List.length_drop]; omega)
  have hs : (str L).data.toList.drop p = L.drop p := rfl
  by_cases hu : isU (L.drop p)
  · obtain ⟨u, r, h1, h2⟩ := hu
    have hd := Dn.decode_unit (str L) p u r (by rw [hs]; exact h2) h1
    have hg := U8.get_unit h1 r
    rw [← h2] at hg
    have hn := U8.ok_n hg
    rw [List.length_drop] at hn
    refine ⟨u, _, hd, ?_, hn.1, by omega, U8.sc_le h1⟩
    rw [dec_ok hg, List.drop_drop]
  · have hd := (decode_ways (str L) p _ hs hT).resolve_left hu
    refine ⟨65533, 1, hd, ?_, by omega, by omega, by omega⟩
    have hk : (U8.get (L.drop p)).k = 0 := by
      cases hR : U8.get (L.drop p) with
      | none => rfl
      | some y =>
        cases y with
        | inl n => rfl
        | inr q =>
          obtain ⟨h1, _, r, h2⟩ := U8.get_ok (n := q.1) (u := q.2) hR
          exact absurd ⟨q.2, r, h1, h2⟩ hu
    rw [dec_bad hT hk, List.drop_drop]
    rfl
theorem grown_iterAt {w wr : World} {B p : Nat} {S : ByteArray} (h : w.grownBy wr none) (hB : w.heap.size ≤ B) : w.grownBy (wr.iterAt B S p) none :=
  ⟨h.os, h.tape, h.output, by simpa [World.iterAt] using h.size, fun k hk hr => (Lib.iterAt_other wr B k S p (by omega)).trans (h.block k hk hr)⟩
theorem hasI_cons (a : Int) (A : List Int) (r : Int) : hasI (a :: A) r = (decide (a = r) || hasI A r) := by simp [hasI]
set_option maxRecDepth 100000 in
set_option maxHeartbeats 1000000 in
theorem stands_any (u : Int) (L : List UInt8) (w : World) (x : Bool) (hx : Hid (hasI (dec L) u = x)) : Calls Try.prog 23 #[.int .i32 u, .string (str L)] w fun e w' => e = .returned (.bool x) ∧ w.grownBy w' none := by
  have hsz : Hid ((str L).size = L.length) := Hid.mk' (str_size L)
  have hI0 := Hid.mk' (World.iter_heap w (str L) 0)
  obtain ⟨S, hS⟩ : ∃ S, Hid (str L = S) := ⟨_, Hid.mk' rfl⟩
  have hds : Hid (∀ p, p < L.length → ∃ c n, Utf8.decode S p = (c, n) ∧ dec (L.drop p) = (c : Int) :: dec (L.drop (p + n)) ∧ 1 ≤ n ∧ p + n ≤ L.length ∧ c ≤ 1114111) := Hid.mk' (fun p h => by rw [← hS.out]; exact dec_step L p h)
  rw [hS.out] at hsz hI0
  rw [hS.out]
  clear hS
  have hG0 : Hid (w.grownBy (w.iter S 0) none) := Hid.mk' (World.grownBy_alloc _ _ _)
  go_enter Try.func23, Try.ntmps23
  go_wp2
  obtain ⟨B, hB⟩ : ∃ B, Hid (w.heap.size = B) := ⟨_, Hid.mk' rfl⟩
  rw [hB.out] at hI0
  rw [hB.out]
  generalize w.iter S 0 = w0 at *
  go_loopw [6] (fun _ wr => Hid (∃ p : Nat, p ≤ L.length ∧ wr.heap[B]? = some (.stringIter S p) ∧ hasI (dec (L.drop p)) u = x ∧ w.grownBy wr none)) (fun _ wr => S.size - wr.iterPos B)
  case atStart => exact Hid.mk' ⟨0, by omega, hI0.out, hx.out, hG0.out⟩
  case round =>
    clear hI0 hG0 hx
    obtain ⟨p, hp, hk, hq, hgr⟩ := hrel.out
    clear hrel
    by_cases hlt : p < L.length
    · obtain ⟨c, n, hdec, hst, hn1, hn2, hc⟩ := hds.out p hlt
      have hlt' : p < S.size := by rw [hsz.out]; exact hlt
      have hnx : ∀ ty, (Instr.next (.pointer (some ⟨B, 0, none⟩)) true ty).run Try.prog wr = .ok (.tuple #[.bool true, .int .i64 p, .int .i32 (c : Int)]) (wr.iterAt B S (p + n)) := by
        intro ty
        rw [Lib.run_next_any_at wr B S p ty hk hlt', hdec]
      have hk2 := Hid.mk' (Lib.iterAt_heap wr B S p (p + n) hk)
      have hgr2 : Hid (w.grownBy (wr.iterAt B S (p + n)) none) := Hid.mk' (grown_iterAt hgr (by rw [hB.out]; exact Nat.le_refl _))
      have hk0 := Hid.mk' hk
      rw [hst, hasI_cons] at hq
      have hq0 := Hid.mk' hq
      clear hk hgr hst hdec hq
      generalize wr.iterAt B S (p + n) = wi at *
      by_cases hcu : (c : Int) = u
      · have hcu' : ((c : Int) == u) = true := by simpa using hcu
        have hx1 : Hid (x = true) := Hid.mk' (by rw [← hq0.out]; simp [hcu])
        clear hq0 hcu
        go_wp2
        go_ret
        exact ⟨by rw [hx1.out]; rfl, hgr2.out⟩
      · have hcu' : ((c : Int) == u) = false := by simpa using hcu
        have hx1 : Hid (hasI (dec (L.drop (p + n))) u = x) := Hid.mk' (by rw [← hq0.out]; simp [hcu])
        clear hq0 hcu
        go_wp2
        go_roundw
        case rel => exact Hid.mk' ⟨p + n, hn2, hk2.out, hx1.out, hgr2.out⟩
        case measure =>
          rw [iterPos_of hk2.out, iterPos_of hk0.out]
          omega
    · have hnx : ∀ ty, (Instr.next (.pointer (some ⟨B, 0, none⟩)) true ty).run Try.prog wr = .ok (.tuple #[.bool false]) wr := fun ty => Lib.run_next_end_at wr B S p ty hk (by rw [hsz.out]; exact hlt)
      have hx1 : Hid (x = false) := Hid.mk' (by rw [← hq, List.drop_of_length_le (by omega)]; rfl)
      have hgr0 := Hid.mk' hgr
      clear hk hgr hq hlt
      go_wp2
      go_ret
      exact ⟨by rw [hx1.out]; rfl, hgr0.out⟩
end Go.Proofs.Ytjhdepbiakekaaa.C22

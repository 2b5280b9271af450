/- The document's digits of layer 13: digit, four, texts cut out of a constant: walks. -/
import Derived.Test.YtfehmbicolllkaaRows
import Derived.WalkKit
import Derived.ProofKit
import Derived.Test.YtfehmbicolllkaaVI13
import Derived.Test.YtfehmbicolllkaaBlk
import Derived.Lib.Strings
import Derived.BigQuiet
import Derived.Deep.QuietTactic
import Derived.Deep.Cut
import Derived.Deep.RegionHeld3
namespace Go.Proofs.Ytfehmbicolllkaa.C13
open Go.ChangeShapes Go.WideShapes Go.ChangeAt Go.RowKit Go.Proofs.Ytfehmbicolllkaa.Mem
set_option linter.unusedVariables false
set_option linter.unusedSimpArgs false

set_option maxRecDepth 100000 in
set_option maxHeartbeats 400000 in
theorem digit_any (d : Nat) (h : d < 16) (w : World) : Calls Try.prog 36 #[.int .u8 ((dg d).toNat : Int)] w fun e w' => e = .returned (.int .i32 (d : Int)) ∧ w' = w := by
  have gen : ∀ d : Fin 16, Calls Try.prog 36 #[.int .u8 ((dg d).toNat : Int)] w fun e w' => e = .returned (.int .i32 ((d : Nat) : Int)) ∧ w' = w := by
    intro d
    have hd : ((dg d).toNat : Int) = if (d : Nat) < 10 then 48 + ((d : Nat) : Int) else 55 + ((d : Nat) : Int) := by
      revert d; decide
    obtain ⟨d, hlt⟩ := d
    simp only at hd ⊢
    rw [hd]
    clear hd
    by_cases h10 : d < 10
    · rw [if_pos h10]
      have c1 : ¬ (65 : Int) ≤ 48 + (d : Int) := by omega
      go_enter Try.func36, Try.ntmps36
      go_wp2
      go_ret
      refine ⟨?_, rfl⟩
      first | rfl | (congr 2; go_num)
    · rw [if_neg h10]
      have c1 : (65 : Int) ≤ 55 + (d : Int) := by omega
      go_enter Try.func36, Try.ntmps36
      go_wp2
      go_ret
      refine ⟨?_, rfl⟩
      first | rfl | (congr 2; go_num)
  exact gen ⟨d, h⟩
/-- s[i] of a text. -/
theorem index_str {r : ByteArray} {i : Nat} {c : UInt8} (h : r[i]? = some c) (w : World) : (Instr.index 9 (.string r) (.int .i64 (i : Int))).run Try.prog w = .ok (.int .u8 (c.toNat : Int)) w := by
  simp [Instr.index, run_underlying Try.underlying9, asIntOf, h]
theorem bget (r : ByteArray) (i : Nat) : r[i]? = r.data.toList[i]? := by
  by_cases h : i < r.size
  · rw [getElem?_pos r i h, List.getElem?_eq_getElem (by exact h)]
    rfl
  · rw [getElem?_neg r i h, List.getElem?_eq_none (by show r.size ≤ i; omega)]
/-- The text s begins with the four digits of n. -/
def At4 (s : ByteArray) (n : Nat) : Prop := n ≤ 65535 ∧ ∀ i : Nat, i < 4 → s[i]? = (hex4 n)[i]?
theorem at4_of {s : ByteArray} {T : List Nat} {j : Nat} {n : Nat} (h : s.data.toList = (dig4 T).drop (4 * j)) (hn : T[j]? = some n) (hs : ∀ x ∈ T, x ≤ 65535) : At4 s n := by
  refine ⟨hs n (List.mem_of_getElem? hn), fun i hi => ?_⟩
  obtain ⟨hj, e⟩ := List.getElem?_eq_some_iff.1 hn
  have e2 := dig4_at T j hj i hi
  rw [e] at e2
  rw [← e2, bget, h, List.getElem?_drop]
set_option maxRecDepth 100000 in
set_option maxHeartbeats 1000000 in
theorem four_any (r : ByteArray) (n : Nat) (h : At4 r n) (w : World) : Calls Try.prog 25 #[.string r] w fun e w' => e = .returned (.int .i32 (n : Int)) ∧ ∃ m, w' = w.drewN m := by
  obtain ⟨hn2, hc⟩ := h
  obtain ⟨d0, hd0⟩ : ∃ d, n / 4096 % 16 = d := ⟨_, rfl⟩
  obtain ⟨d1, hd1⟩ : ∃ d, n / 256 % 16 = d := ⟨_, rfl⟩
  obtain ⟨d2, hd2⟩ : ∃ d, n / 16 % 16 = d := ⟨_, rfl⟩
  obtain ⟨d3, hd3⟩ : ∃ d, n % 16 = d := ⟨_, rfl⟩
  have g0 : r[0]? = some (dg d0) := by rw [hc 0 (by omega), ← hd0]; rfl
  have g1 : r[1]? = some (dg d1) := by rw [hc 1 (by omega), ← hd1]; rfl
  have g2 : r[2]? = some (dg d2) := by rw [hc 2 (by omega), ← hd2]; rfl
  have g3 : r[3]? = some (dg d3) := by rw [hc 3 (by omega), ← hd3]; rfl
  have k0 := Hid.mk' (fun w => digit_any d0 (by omega) w)
  have k1 := Hid.mk' (fun w => digit_any d1 (by omega) w)
  have k2 := Hid.mk' (fun w => digit_any d2 (by omega) w)
  have k3 := Hid.mk' (fun w => digit_any d3 (by omega) w)
  have l0 : d0 ≤ 15 := by omega
  have l1 : d1 ≤ 15 := by omega
  have l2 : d2 ≤ 15 := by omega
  have l3 : d3 ≤ 15 := by omega
  have hsum : 4096 * (d0 : Int) + 256 * (d1 : Int) + 16 * (d2 : Int) + (d3 : Int) = (n : Int) := by omega
  clear hc hd0 hd1 hd2 hd3
  generalize dg d0 = b0 at *
  generalize dg d1 = b1 at *
  generalize dg d2 = b2 at *
  generalize dg d3 = b3 at *
  have i0 := index_str (r := r) (i := 0) g0
  have i1 := index_str (r := r) (i := 1) g1
  have i2 := index_str (r := r) (i := 2) g2
  have i3 := index_str (r := r) (i := 3) g3
  simp only [Int.natCast_zero, Int.natCast_one, Int.cast_ofNat_Int, Int.ofNat_eq_natCast] at i0 i1 i2 i3
  clear g0 g1 g2 g3
  go_enter Try.func25, Try.ntmps25
  go_wp2
  go_quiet (first
    | (go_at_call_of 36 (Value.int IntKind.u8 (b0.toNat : Int)); exact Calls.quiet_of_same (k0.out _))
    | (go_at_call_of 36 (Value.int IntKind.u8 (b1.toNat : Int)); exact Calls.quiet_of_same (k1.out _))
    | (go_at_call_of 36 (Value.int IntKind.u8 (b2.toNat : Int)); exact Calls.quiet_of_same (k2.out _))
    | (go_at_call_of 36 (Value.int IntKind.u8 (b3.toNat : Int)); exact Calls.quiet_of_same (k3.out _)))
  go_wp2
  go_ret
  refine ⟨?_, _, rfl⟩
  rw [← hsum]
  first | rfl | (congr 2; go_num)
/-- A constant text's end, as one operation: what it holds is told by a list. -/
theorem run_cut (S : ByteArray) (L : List UInt8) (hS : S.data.toList = L) (N : Nat) (hN : L.length = N) (p : Nat) (hp : p ≤ N) (w : World) : ∃ s : ByteArray, (Instr.sliceAt 9 (.string S) (some (.int .i64 (p : Int))) none none).run Try.prog w = .ok (.string s) w ∧ s.data.toList = L.drop p := by
  have hsz : S.size = N := by
    show S.data.size = N
    rw [← Array.length_toList, hS, hN]
  refine ⟨S.extract p S.size, ?_, ?_⟩
  · have h1 : (p : Int) ≤ (S.size : Int) := by rw [hsz]; omega
    have h2 : ¬ S.size < p := by omega
    simp [Instr.sliceAt, Instr.slice, run_underlying Try.underlying9, Instr.sliceBounds, Instr.sliceBound, asIntOf, h1, h2]
  · rw [Lib.extract_data, hS, List.take_of_length_le (by rw [List.length_drop, hN, hsz]; omega)]
theorem wpList_cut (w : World) {ops : Array Oper} {rest : List Oper} {o : Oper} {a : Act} {Q : Exit → Act → World → Prop} (hw : Region.wanted o (yielded ops a.tmps) = true) (S : ByteArray) (x : Operand) (hop : o.op = Op.slice 9 (.const (.string S)) (some x) none none) (p : Nat) (hx : a.eval x = .int .i64 (p : Int)) (L : List UInt8) (hS : S.data.toList = L) (N : Nat) (hN : L.length = N) (hp : p ≤ N)
    (hK : ∀ s : ByteArray, s.data.toList = L.drop p → wpList Try.prog ops Q rest (a.put o.dst (.string s)) w) : wpList Try.prog ops Q (o :: rest) a w := by
  refine wpList_step fun K hK' => ?_
  rw [if_pos hw]
  obtain ⟨s, hr, hs⟩ := run_cut S L hS N hN p hp w
  unfold Oper.wp execOp
  simp only [hop, Act.eval, Option.map_some, Option.map_none] at hx ⊢
  simp only [hx, Sem.run_bind, Sem.run_pure, Result.andThen_ok, hr]
  exact hK' _ _ (hK s hs)
/-- In a region that draws its order: a constant text's end is taken first. -/
theorem wpAnyH_cut {ops : Array Oper} {Q : Exit → Act → World → Prop} {md : Region.Mode} {T : World → Prop} {i : Nat} {oi : Oper} {fuel : Nat} {listed : Array Bool} {a : Act} {w : World} (hi : ops[i]? = some oi)
    (hs : Region.noSelect ops = true) (hf : Region.free md ops listed i = true) (hr : (Region.ready md ops listed).contains i = true)
    (hQ : ∀ c a w v, Q (.panic c) (a.put oi.dst v) w → Q (.panic c) a w) (hw : Region.wanted oi (yielded ops a.tmps) = true) (hT : T w)
    (S : ByteArray) (x : Operand) (hop : oi.op = Op.slice 9 (.const (.string S)) (some x) none none) (p : Nat) (hx : a.eval x = .int .i64 (p : Int)) (L : List UInt8) (hS : S.data.toList = L) (N : Nat) (hN : L.length = N) (hp : p ≤ N)
    (hK : ∀ s : ByteArray, s.data.toList = L.drop p → wpAnyH Try.prog md ops Q T fuel (listed.setIfInBounds i true) (a.put oi.dst (.string s)) w) : wpAnyH Try.prog md ops Q T (fuel + 1) listed a w := by
  have hS2 : ∀ w, (Instr.sliceAt 9 (.string S) (some (.int .i64 (p : Int))) none none).run Try.prog w = .ok (.string (S.extract p S.size)) w := by
    intro w
    have hsz : S.size = N := by
      show S.data.size = N
      rw [← Array.length_toList, hS, hN]
    have h1 : (p : Int) ≤ (S.size : Int) := by rw [hsz]; omega
    have h2 : ¬ S.size < p := by omega
    simp [Instr.sliceAt, Instr.slice, run_underlying Try.underlying9, Instr.sliceBounds, Instr.sliceBound, asIntOf, h1, h2]
  obtain ⟨s, hrs, hsd⟩ := run_cut S L hS N hN p hp w
  have es : s = S.extract p S.size := by
    have := hrs.symm.trans (hS2 w)
    simpa using this
  subst es
  refine wpAnyH_take (v := .string (S.extract p S.size)) hi hs hf hr (fun c a w h => hQ c a w _ h) (Or.inl ⟨hw, ?_⟩) hT (hK _ hsd)
  intro w _
  unfold execOp
  simp only [hop, Act.eval, Option.map_some, Option.map_none] at hx ⊢
  simp only [hx, Sem.run_bind, Sem.run_pure, Result.andThen_ok, hS2]
end Go.Proofs.Ytfehmbicolllkaa.C13

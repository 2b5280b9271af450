/- Rows of pairs and of numbers that a call owns: append; what lies in them. -/
import Derived.Test.YtcoiddmgcoeocaaMf
import Derived.Deep.RegionHeld3
import Derived.Deep.QuietTactic
import Derived.BigQuiet
namespace Go.Proofs.Ytcoiddmgcoeocaa.Tr
open Go.ChangeShapes Go.WideShapes Go.ChangeAt Go.RowKit Go.Maps Go.Proofs.Ytcoiddmgcoeocaa.Mem Go.Proofs.Ytcoiddmgcoeocaa.Ucs Go.Proofs.Ytcoiddmgcoeocaa.El
set_option linter.unusedVariables false
set_option linter.unusedSimpArgs false

/-- Numbers. -/
def IE : Elem Int where
  ty := 3
  size := 1
  enc p := [.int .i64 p]
  len _ := rfl
  one := by intro a u hu; simp at hu; subst hu; rfl
theorem infoP : (Try.prog.info? 30).map (fun i => (i.zero, i.size, i.bytes)) = some (some (.agg #[.int .i64 0, .int .i32 0]), 2, 16) := by kernel_rfl
theorem infoI : (Try.prog.info? 3).map (fun i => (i.zero, i.size, i.bytes)) = some (some (.int .i64 0), 1, 8) := by kernel_rfl
theorem info_parts {o : Option TypeInfo} {z : Option Value} {a b : Nat} (h : o.map (fun i => (i.zero, i.size, i.bytes)) = some (z, a, b)) : ∃ i, o = some i ∧ i.zero = z ∧ i.size = a ∧ i.bytes = b := by
  cases o with
  | none => simp at h
  | some i =>
    simp only [Option.map_some, Option.some.injEq, Prod.mk.injEq] at h
    exact ⟨i, rfl, h.1, h.2.1, h.2.2⟩
theorem zP : (Value.agg #[.int .i64 0, .int .i32 0]).cells.size = 2 := by first | rfl | decide | simp [Value.cells]
theorem zI : (Value.int .i64 0).cells.size = 1 := rfl
theorem wpList_pair (w : World) {ops : Array Oper} {rest : List Oper} {o : Oper} {a : Act} {Q : Exit → Act → World → Prop} (hgd : o.guard = none) (s x : Operand)
    (ho : o.op = .call { callee := .builtin .append, args := #[s, x], argTypes := #[22, 22] })
    (ao : Option Addr) (cap : Nat) (L : List Pr) (hs : a.eval s = .slice ao L.length cap) (h : PE.Own w ao cap L) (xv : Value) (hx : a.eval x = xv) (M : List Pr) (hsrc : Src Try.prog 2 22 xv M.length (PE.cells M) w) (hb : L.length + M.length ≤ 8796093022208)
    (R : List Pr) (hR : L ++ M = R)
    (hK : ∀ ao' cap' w', PE.Own w' ao' cap' R → w.grownBy w' (blk ao) → (ao' = ao ∨ ao' = some ⟨w.heap.size, 0, none⟩) → wpList Try.prog ops Q rest (a.put o.dst (.slice ao' R.length cap')) w') : wpList Try.prog ops Q (o :: rest) a w := by
  obtain ⟨i0, hi, hz0, hz1, hz2⟩ := info_parts infoP
  exact wpList_append_any (E := PE) w hgd s x _ _ ho i0 _ 16 Try.underlying22 hi hz0 hz1 hz2 zP ao cap L hs h xv hx M hsrc (by omega) (by simp only [maxLen]; omega) R hR hK
theorem wpList_num (w : World) {ops : Array Oper} {rest : List Oper} {o : Oper} {a : Act} {Q : Exit → Act → World → Prop} (hgd : o.guard = none) (s x : Operand)
    (ho : o.op = .call { callee := .builtin .append, args := #[s, x], argTypes := #[41, 41] })
    (ao : Option Addr) (cap : Nat) (L : List Int) (hs : a.eval s = .slice ao L.length cap) (h : IE.Own w ao cap L) (xv : Value) (hx : a.eval x = xv) (M : List Int) (hsrc : Src Try.prog 1 41 xv M.length (IE.cells M) w) (hb : L.length + M.length ≤ 8796093022208)
    (R : List Int) (hR : L ++ M = R)
    (hK : ∀ ao' cap' w', IE.Own w' ao' cap' R → w.grownBy w' (blk ao) → (ao' = ao ∨ ao' = some ⟨w.heap.size, 0, none⟩) → wpList Try.prog ops Q rest (a.put o.dst (.slice ao' R.length cap')) w') : wpList Try.prog ops Q (o :: rest) a w := by
  obtain ⟨i0, hi, hz0, hz1, hz2⟩ := info_parts infoI
  exact wpList_append_any (E := IE) w hgd s x _ _ ho i0 _ 8 Try.underlying41 hi hz0 hz1 hz2 zI ao cap L hs h xv hx M hsrc (by omega) (by simp only [maxLen]; omega) R hR hK
theorem src_pair {w : World} {ao : Option Addr} {M : List Pr} (h : PE.Rd w ao M) (c : Nat) : Src Try.prog 2 22 (.slice ao M.length c) M.length (PE.cells M) w := src_of (E := PE) h 22 c Try.underlying22
theorem src_num {w : World} {ao : Option Addr} {M : List Int} (h : IE.Rd w ao M) (c : Nat) : Src Try.prog 1 41 (.slice ao M.length c) M.length (IE.cells M) w := src_of (E := IE) h 41 c Try.underlying41
theorem new_pair (w : World) (c u : Int) : PE.Rd (w.alloc (.cells #[.int .i64 c, .int .i32 u] 30)) (some ⟨w.heap.size, 0, none⟩) [(c, u)] := rd_new w _ _ _ rfl
theorem new_num (w : World) (c : Int) : IE.Rd (w.alloc (.cells #[.int .i64 c] 3)) (some ⟨w.heap.size, 0, none⟩) [c] := rd_new w _ _ _ rfl
theorem src_pair1 (w : World) (c u : Int) : Src Try.prog 2 22 (.slice (some ⟨w.heap.size, 0, none⟩) 1 1) 1 (PE.cells [(c, u)]) (w.alloc (.cells #[.int .i64 c, .int .i32 u] 30)) := src_pair (new_pair w c u) 1
theorem src_num1 (w : World) (c : Int) : Src Try.prog 1 41 (.slice (some ⟨w.heap.size, 0, none⟩) 1 1) 1 (IE.cells [c]) (w.alloc (.cells #[.int .i64 c] 3)) := src_num (new_num w c) 1
/-- The cells of a pair of a list, of a number of a list. -/
theorem pcells {w : World} {ao : Option Addr} {L : List Pr} (h : PE.Rd w ao L) {i : Nat} (hi : i < L.length) {c u : Int} (he : L[i] = (c, u)) :
    ∃ b o, ao = some ⟨b, o, none⟩ ∧ b < w.heap.size ∧ w.cell? ⟨b, o + i * 2, none⟩ = some (.int .i64 c) ∧ w.cell? ⟨b, o + i * 2 + 1, none⟩ = some (.int .i32 u) := by
  obtain ⟨b, o, rfl, hb, hc⟩ := h.at (List.ne_nil_of_length_pos (by omega)) (by decide)
  have e : PE.enc L[i] = [.int .i64 c, .int .i32 u] := by rw [he]; rfl
  refine ⟨b, o, rfl, hb, ?_, ?_⟩
  · exact hc i hi 0 _ (by rw [e]; rfl)
  · exact hc i hi 1 _ (by rw [e]; rfl)
theorem ncell {w : World} {ao : Option Addr} {L : List Int} (h : IE.Rd w ao L) {i : Nat} (hi : i < L.length) {c : Int} (he : L[i] = c) :
    ∃ b o, ao = some ⟨b, o, none⟩ ∧ b < w.heap.size ∧ w.cell? ⟨b, o + i, none⟩ = some (.int .i64 c) := by
  obtain ⟨b, o, rfl, hb, hc⟩ := h.at (List.ne_nil_of_length_pos (by omega)) (by decide)
  refine ⟨b, o, rfl, hb, ?_⟩
  have := hc i hi 0 (.int .i64 c) (by rw [he]; rfl)
  simpa [IE] using this

/-- What a block has at one place: the document's text. -/
theorem text_any (a n : Int) (h0 : 0 ≤ a) (h1 : a < 64) (h2 : 0 ≤ n) (h3 : n ≤ 16777215) (w : World) : Calls Try.prog 28 #[.int .i64 a, .int .i64 n] w fun e w' => e = .returned (.string (str (itemC (a, n)))) ∧ w' = w := by
  have e1 : n.tmod 4096 = n % 4096 := Int.tmod_eq_emod_of_nonneg h2
  have e2 : n.tdiv 4096 = n / 4096 := Int.tdiv_eq_ediv_of_nonneg h2
  have b1 : 0 ≤ n % 4096 := by omega
  have b2 : n % 4096 < 4096 := by omega
  have b3 : 0 ≤ n / 4096 := by omega
  have b4 : n / 4096 < 4096 := by omega
  have hs : Hid (hex a ++ hex (n % 4096) ++ hex (n / 4096) ++ ⟨#[59]⟩ = str (itemC (a, n))) := Hid.mk' (by
    apply ByteArray.ext
    apply Array.toList_inj.1
    simp [str, itemC, hexL])
  have sz : ∀ u : Int, (hex u).size ≤ 8 := by
    intro u
    unfold hex
    split
    · rw [ByteArray.size_append, low_size]
      have := cnt_le u
      have e : (⟨#[85, 43]⟩ : ByteArray).size = 2 := rfl
      omega
    · show (0 : Nat) ≤ 8; omega
  have s1 := sz a
  have s2 := sz (n % 4096)
  have s3 := sz (n / 4096)
  clear sz
  generalize n % 4096 = p at *
  generalize n / 4096 = q at *
  go_enter Try.func28, Try.ntmps28
  go_wp2_with (go_at_call 44; refine (hexRef_any _ _).mono ?_; rintro e w' ⟨rfl, rfl⟩)
  go_ret
  exact ⟨ret_str hs.out, rfl⟩
end Go.Proofs.Ytcoiddmgcoeocaa.Tr

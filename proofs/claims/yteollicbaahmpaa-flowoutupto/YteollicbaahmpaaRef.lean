/- What the document's own In and Out answer: walks. -/
import Derived.Test.YteollicbaahmpaaOut
namespace Go.Proofs.Yteollicbaahmpaa.Mem
open Go.ChangeShapes Go.WideShapes Go.ChangeAt Go.RowKit
set_option linter.unusedVariables false

/-- The document's input: M is left, k were taken; the bytes lie in block g. -/
structure RefIn (w : World) (b g : Nat) (ao : Option Addr) (c : Nat) (M : List UInt8) (k : Nat) : Prop where
  blk : w.heap[b]? = some (.cells #[.slice ao M.length c, .int .i64 (k : Int)] 28 (0, 0))
  bytes : Bytes w ao M
  lies : ∀ x, Mem.blk ao = some x → x = g
  cap : M.length ≤ c
  max : c ≤ 9223372036854775807
  big : M.length + k ≤ 140737488355328
  row : g < w.heap.size ∧ (∃ cur fr, w.heap[g]? = some (.cells cur 5 fr))

section
variable {w w' : World} {b g : Nat} {ao : Option Addr} {c : Nat} {M : List UInt8} {k : Nat}
theorem RefIn.c0 (h : RefIn w b g ao c M k) : w.cell? ⟨b, 0, none⟩ = some (.slice ao M.length c) := by simp [World.cell?, h.blk]
theorem RefIn.c1 (h : RefIn w b g ao c M k) : w.cell? ⟨b, 1, none⟩ = some (.int .i64 (k : Int)) := by simp [World.cell?, h.blk]
theorem RefIn.f (h : RefIn w b g ao c M k) (j : Nat) : w.frozen? ⟨b, j, none⟩ = false := by simp [World.frozen?, h.blk]
theorem RefIn.lt (h : RefIn w b g ao c M k) : b < w.heap.size := lt_of_block h.blk
theorem RefIn.keptS {S : Nat → Prop} (h : RefIn w b g ao c M k) (hg : Kept S w w') (hb : ¬ S b) (hne : ¬ S g) : RefIn w' b g ao c M k := by
  obtain ⟨hlt, cur, fr, hr⟩ := h.row
  refine ⟨(hg.block b h.lt hb).trans h.blk, ?_, h.lies, h.cap, h.max, h.big, Nat.lt_of_lt_of_le hlt hg.size, cur, fr, (hg.block g hlt hne).trans hr⟩
  rcases h.bytes with e | ⟨a, rfl, hc⟩
  · exact .inl e
  · have e : a.block = g := h.lies _ rfl
    refine .inr ⟨a, rfl, fun j hj => ?_⟩
    rw [World.cell?_of_block (w := w) (by rw [add_block, e]; exact hg.block g hlt hne)]
    exact hc j hj
theorem RefIn.kept0 (h : RefIn w b g ao c M k) (hg : w.grownBy w' none) : RefIn w' b g ao c M k := h.keptS (S := fun _ => False) (Kept.of0 hg) (by simp) (by simp)
theorem RefIn.aside {q : Nat} {cs : Array Value} {t : TypeId} {fr : Nat × Nat} (h : RefIn w b g ao c M k) (hg : w.grownBy w' (some q)) (hr : w.heap[q]? = some (.cells cs t fr)) (h5 : t ≠ 5) (h28 : t ≠ 28) : RefIn w' b g ao c M k := by
  refine h.keptS (Kept.of hg) ?_ ?_
  · intro e
    simp at e
    subst e
    rw [h.blk] at hr
    simp at hr
    exact h28 hr.2.1.symm
  · intro e
    simp at e
    subst e
    obtain ⟨_, cur, fr', hh⟩ := h.row
    rw [hh] at hr
    simp at hr
    exact h5 hr.2.1.symm
end

theorem refSkip_no (w : World) (b g : Nat) (ao : Option Addr) (c : Nat) (M : List UInt8) (k : Nat) (n : Int) (h : RefIn w b g ao c M k) (hn : n < 0 ∨ (M.length : Int) < n) :
    Calls Try.prog 11 #[.pointer (some ⟨b, 0, none⟩), .int .i64 n] w fun e w' => e = .returned (.bool false) ∧ w' = w := by
  have c0 := h.c0
  clear h
  by_cases h0 : n < 0
  · go_enter Try.func11, Try.ntmps11
    go_wp2
    go_ret
    exact ⟨rfl, rfl⟩
  · have h1 : (M.length : Int) < n := by omega
    have h2 : 0 ≤ n := by omega
    clear hn h0
    go_enter Try.func11, Try.ntmps11
    go_wp2
    go_ret
    exact ⟨rfl, rfl⟩

theorem RefIn.step {w : World} {b g : Nat} {ao : Option Addr} {c : Nat} {M : List UInt8} {k : Nat} (h : RefIn w b g ao c M k) (n : Nat) (hn : n ≤ M.length) (ao' : Option Addr) (hao : ao' = if c = n then ao else ao.map (·.add n)) (m c' : Nat) (hm : m = M.length - n) (hc' : c' = c - n) :
    RefIn ((w.setCell ⟨b, 0, none⟩ (.slice ao' m c')).setCell ⟨b, 1, none⟩ (.int .i64 ((k : Int) + n))) b g ao' c' (M.drop n) (k + n) ∧
    w.grownBy ((w.setCell ⟨b, 0, none⟩ (.slice ao' m c')).setCell ⟨b, 1, none⟩ (.int .i64 ((k : Int) + n))) (some b) := by
  subst hc'
  have hc := h.cap
  have hx := h.max
  have hb := h.big
  have gg := grownBy_trans (grownBy_setCell w ⟨b, 0, none⟩ (.slice ao' m (c - n))) (grownBy_setCell _ ⟨b, 1, none⟩ (.int .i64 ((k : Int) + n)))
  obtain ⟨hlt, cur, fr, hr⟩ := h.row
  have hgb : some g ≠ some b := by
    intro e
    simp at e
    subst e
    rw [h.blk] at hr
    simp at hr
  have hbl : Mem.blk ao' = Mem.blk ao := by rw [hao]; exact blk_cut ao n c
  refine ⟨⟨?_, ?_, ?_, by simp; omega, by omega, by simp; omega, Nat.lt_of_lt_of_le hlt gg.size, cur, fr, (gg.block g hlt hgb).trans hr⟩, gg⟩
  · rw [block_set (block_set h.blk _ _)]
    simp [hm]
  · have hd := h.bytes.drop n c hc
    rw [← hao] at hd
    refine hd.kept gg ?_
    cases e : Mem.blk ao' with
    | none => exact .inl rfl
    | some x => rw [hbl] at e; rw [h.lies x e]; exact .inr hgb
  · intro x hx
    rw [hbl] at hx
    exact h.lies x hx

set_option maxHeartbeats 1000000 in
theorem refSkip_yes (w : World) (b g : Nat) (ao : Option Addr) (c : Nat) (M : List UInt8) (k n : Nat) (h : RefIn w b g ao c M k) (hn : n ≤ M.length) :
    Calls Try.prog 11 #[.pointer (some ⟨b, 0, none⟩), .int .i64 (n : Int)] w fun e w' => ∃ ao' c', e = .returned (.bool true) ∧ RefIn w' b g ao' c' (M.drop n) (k + n) ∧ w.grownBy w' (some b) := by
  have c0 := h.c0
  have c1 := h.c1
  have f0 := h.f 0
  have f1 := h.f 1
  have hc := h.cap
  have hx := h.max
  have hb := h.big
  have H : Hid (RefIn w b g ao c M k) := h
  clear h
  by_cases hcn : c = n
  · go_enter Try.func11, Try.ntmps11
    go_wp2
    go_ret
    exact ⟨_, _, rfl, H.out.step n hn ao (by rw [if_pos hcn]) _ _ rfl (by omega)⟩
  · go_enter Try.func11, Try.ntmps11
    go_wp2
    go_ret
    exact ⟨_, _, rfl, H.out.step n hn _ (by rw [if_neg hcn]) _ _ rfl rfl⟩

theorem src_len {P : Program} {w : World} {ao : Option Addr} {M : List UInt8} (h : Bytes w ao M) (tx c : Nat) (hk : P.underlying tx = some (.slice 5)) (m : Nat) (hm : m = M.length) : Src P 1 tx (.slice ao m c) M.length (bcells M) w := by
  subst hm
  exact src_of h tx c hk

set_option maxHeartbeats 2000000 in
theorem refPeek_any (w : World) (b g : Nat) (ao : Option Addr) (c : Nat) (M : List UInt8) (k : Nat) (n : Int) (h : RefIn w b g ao c M k) :
    Calls Try.prog 9 #[.pointer (some ⟨b, 0, none⟩), .int .i64 n] w fun e w' => ∃ ao' c', e = .returned (.slice ao' (M.take n.toNat).length c') ∧ Own w' ao' c' (M.take n.toNat) ∧ w.grownBy w' none ∧ (∀ g, blk ao' = some g → w.heap.size ≤ g) := by
  obtain ⟨i0, hi, hz0, hz1, hz2⟩ := info_parts info5
  have c0 := h.c0
  have hc := h.cap
  have hx := h.max
  have hb := h.big
  have HB : Hid (Bytes w ao (M.take n.toNat)) := h.bytes.take _
  have HL : Hid ((M.take n.toNat).length = min n.toNat M.length) := by show (M.take n.toNat).length = _; simp
  obtain ⟨R, HM⟩ : ∃ R, Hid (R = M.take n.toNat) := ⟨_, rfl⟩
  have HM' : Hid (M.take n.toNat = R) := HM.out.symm
  rw [HM'.out] at HB HL ⊢
  clear h HM HM'
  have hnew := World.new_ne w ⟨b, 0, none⟩ c0
  have a2 : (M.length : Int) ≤ (c : Int) := by omega
  have a3 : (0 : Int) ≤ (M.length : Int) := by omega
  rcases (show n < 0 ∨ (0 ≤ n ∧ n ≤ (M.length : Int)) ∨ (0 ≤ n ∧ (M.length : Int) < n) by omega) with hn | ⟨hn, hr⟩ | ⟨hn, hr⟩
  · have V1 : Hid (n = if (M.length : Int) < n then (M.length : Int) else n) := by show _ = _; rw [if_neg (by omega)]
    have V2 : Hid ((0 : Int) = if (0 : Int) < n then n else 0) := by show _ = _; rw [if_neg (by omega)]
    go_enter Try.func9, Try.ntmps9
    go_wp2
    go_region_held3 (fun w' => w'.cell? ⟨b, 0, none⟩ = some (.slice ao M.length c)) (go_keep)
      (first | (refine step_min _ (by rfl) _ _ 3 (by rfl) .i64 .i64 n M.length n (by simp [Act.eval]) (by simp [Act.eval]) V1.out ?_) | (refine step_max _ (by rfl) _ _ 3 (by rfl) .i64 .i64 0 n 0 (by simp [Act.eval]) (by simp [Act.eval]) V2.out ?_) | (refine step_append_any _ (by rfl) _ _ 22 22 (by rfl) i0 Try.underlying22 hi hz0 hz1 hz2 (some ⟨w.heap.size, 0, none⟩) 0 [] (by simp [Act.eval]) (by exact own_made w) (.slice ao 0 c) (by simp [Act.eval]) R (src_len (w := (w.alloc (.cells #[] 5)).drew) (HB.out.alloc (.cells #[] 5)).drew 22 c Try.underlying22 0 (by rw [HL.out]; omega)) (by rw [HL.out]; simp; omega) R (by rfl) ?_; intro ao' c' w1 hown hg hat; have hk1 : w1.cell? ⟨b, 0, none⟩ = some (.slice ao M.length c) := hg.cell (by assumption) (by simp [blk]; omega)))
    all_goals go_wp2
    all_goals go_ret
    all_goals
      refine ⟨ao', c', rfl, hown, ?_, ?_⟩
      · exact grownBy_new (World.grownBy_alloc w _ none) (grownBy_of_drew hg) (by intro g e; simp [blk] at e; omega)
      · intro g e
        rcases hat with rfl | rfl <;> simp [blk] at e <;> omega
  · have V1 : Hid (n = if (M.length : Int) < n then (M.length : Int) else n) := by show _ = _; rw [if_neg (by omega)]
    have V2 : Hid (n = if (0 : Int) < n then n else 0) := by show _ = _; split <;> omega
    have a4 : n ≤ (c : Int) := by omega
    go_enter Try.func9, Try.ntmps9
    go_wp2
    go_region_held3 (fun w' => w'.cell? ⟨b, 0, none⟩ = some (.slice ao M.length c)) (go_keep)
      (first | (refine step_min _ (by rfl) _ _ 3 (by rfl) .i64 .i64 n M.length n (by simp [Act.eval]) (by simp [Act.eval]) V1.out ?_) | (refine step_max _ (by rfl) _ _ 3 (by rfl) .i64 .i64 0 n n (by simp [Act.eval]) (by simp [Act.eval]) V2.out ?_) | (refine step_append_any _ (by rfl) _ _ 22 22 (by rfl) i0 Try.underlying22 hi hz0 hz1 hz2 (some ⟨w.heap.size, 0, none⟩) 0 [] (by simp [Act.eval]) (by exact own_made w) (.slice ao n.toNat c) (by simp [Act.eval]) R (src_len (w := (w.alloc (.cells #[] 5)).drew) (HB.out.alloc (.cells #[] 5)).drew 22 c Try.underlying22 n.toNat (by rw [HL.out]; omega)) (by rw [HL.out]; simp; omega) R (by rfl) ?_; intro ao' c' w1 hown hg hat; have hk1 : w1.cell? ⟨b, 0, none⟩ = some (.slice ao M.length c) := hg.cell (by assumption) (by simp [blk]; omega)))
    all_goals go_wp2
    all_goals go_ret
    all_goals
      refine ⟨ao', c', rfl, hown, ?_, ?_⟩
      · exact grownBy_new (World.grownBy_alloc w _ none) (grownBy_of_drew hg) (by intro g e; simp [blk] at e; omega)
      · intro g e
        rcases hat with rfl | rfl <;> simp [blk] at e <;> omega
  · have V1 : Hid ((M.length : Int) = if (M.length : Int) < n then (M.length : Int) else n) := by show _ = _; rw [if_pos hr]
    have V2 : Hid ((M.length : Int) = if (0 : Int) < (M.length : Int) then (M.length : Int) else 0) := by show _ = _; split <;> omega
    go_enter Try.func9, Try.ntmps9
    go_wp2
    go_region_held3 (fun w' => w'.cell? ⟨b, 0, none⟩ = some (.slice ao M.length c)) (go_keep)
      (first | (refine step_min _ (by rfl) _ _ 3 (by rfl) .i64 .i64 n M.length (M.length : Int) (by simp [Act.eval]) (by simp [Act.eval]) V1.out ?_) | (refine step_max _ (by rfl) _ _ 3 (by rfl) .i64 .i64 0 (M.length : Int) (M.length : Int) (by simp [Act.eval]) (by simp [Act.eval]) V2.out ?_) | (refine step_append_any _ (by rfl) _ _ 22 22 (by rfl) i0 Try.underlying22 hi hz0 hz1 hz2 (some ⟨w.heap.size, 0, none⟩) 0 [] (by simp [Act.eval]) (by exact own_made w) (.slice ao M.length c) (by simp [Act.eval]) R (src_len (w := (w.alloc (.cells #[] 5)).drew) (HB.out.alloc (.cells #[] 5)).drew 22 c Try.underlying22 M.length (by rw [HL.out]; omega)) (by rw [HL.out]; simp; omega) R (by rfl) ?_; intro ao' c' w1 hown hg hat; have hk1 : w1.cell? ⟨b, 0, none⟩ = some (.slice ao M.length c) := hg.cell (by assumption) (by simp [blk]; omega)))
    all_goals go_wp2
    all_goals go_ret
    all_goals
      refine ⟨ao', c', rfl, hown, ?_, ?_⟩
      · exact grownBy_new (World.grownBy_alloc w _ none) (grownBy_of_drew hg) (by intro g e; simp [blk] at e; omega)
      · intro g e
        rcases hat with rfl | rfl <;> simp [blk] at e <;> omega
end Go.Proofs.Yteollicbaahmpaa.Mem

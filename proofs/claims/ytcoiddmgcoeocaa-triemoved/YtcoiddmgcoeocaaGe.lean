/- Ns, Nw, joined. -/
import Derived.Test.YtcoiddmgcoeocaaGd
import Derived.Test.YtcoiddmgcoeocaaTq
/- A side of a table, in plain functions. -/
namespace Go.Proofs.Ytcoiddmgcoeocaa.Tr
open Go.Proofs.Ytcoiddmgcoeocaa.Mem Go.Proofs.Ytcoiddmgcoeocaa.El
set_option linter.unusedVariables false

def filt (Q : List Pr) (k : Int) : List Pr := Q.filter (fun q => q.1 / 64 == k)
def conB (M : List Pr) : BL := ⟨conZ M, conZ_len M⟩
def blkB (Q : List Pr) (k : Int) : BL := conB (filt Q k)
/-- The different blocks, in the order in which they come. -/
def allB (Q : List Pr) : List BL := nub ((keys Q).map (blkB Q))
theorem fold_look (k : Int) : ∀ (M : List Pr) (zs : List Int), zs.length = 64 → (∀ q ∈ M, q.1 / 64 = k) → Asc M → ∀ j : Nat, j < 64 → (M.foldl conStep zs).getD j 0 = (look M (64 * k + (j : Int))).elim (zs.getD j 0) (· + 1)
  | [], zs, _, _, _, j, _ => by simp [look]
  | q :: M, zs, hl, hk, ha, j, hj => by
    have hp := List.pairwise_cons.1 ha
    have ih := fold_look k M (conStep zs q) (by simp [conStep, hl]) (fun x hx => hk x (by simp [hx])) hp.2 j hj
    rw [List.foldl_cons, ih]
    have hq : q.1 / 64 = k := hk q (by simp)
    by_cases hn : q.1 = 64 * k + (j : Int)
    · have hnone : look M (64 * k + (j : Int)) = none := look_none (fun x hx => by have := hp.1 x hx; omega)
      have hm : (q.1 % 64).toNat = j := by omega
      rw [hnone, look_cons_eq hn]
      simp only [Option.elim_none, Option.elim_some, conStep, hm]
      rw [List.getD_eq_getElem?_getD, List.getElem?_set_self (by omega)]
      rfl
    · rw [look_cons_ne hn]
      have hm : (q.1 % 64).toNat ≠ j := by omega
      have e : (conStep zs q).getD j 0 = zs.getD j 0 := by
        unfold conStep
        rw [List.getD_eq_getElem?_getD, List.getElem?_set_ne hm, List.getD_eq_getElem?_getD]
      rw [e]
theorem look_filt (Q : List Pr) (k : Int) (j : Nat) (hj : j < 64) : look (filt Q k) (64 * k + (j : Int)) = look Q (64 * k + (j : Int)) := by
  unfold look filt
  rw [List.find?_filter]
  congr 2
  funext q
  by_cases h : q.1 = 64 * k + (j : Int)
  · have : q.1 / 64 = k := by omega
    simp [h]
    omega
  · have : (q.1 == 64 * k + (j : Int)) = false := by simpa using h
    simp [this]
theorem con_look {Q : List Pr} (h : Asc Q) (k : Int) (j : Nat) (hj : j < 64) : (conZ (filt Q k)).getD j 0 = (look Q (64 * k + (j : Int))).elim 0 (· + 1) := by
  unfold conZ
  rw [fold_look k (filt Q k) (List.replicate 64 0) (by simp) (fun q hq => by have := (List.mem_filter.1 hq).2; simpa using this) (h.filter _) j hj, look_filt Q k j hj]
  have : (List.replicate 64 (0 : Int)).getD j 0 = 0 := by rw [List.getD_eq_getElem?_getD, List.getElem?_replicate, if_pos hj]; rfl
  rw [this]
theorem blkB_arr {Q : List Pr} (h : Asc Q) (hv : ∀ q ∈ Q, 0 ≤ q.2) (k k' : Int) : blkB Q k = blkB Q k' ↔ arr Q k = arr Q k' := by
  have hval : ∀ n v, look Q n = some v → 0 ≤ v := by
    intro n v hl
    unfold look at hl
    obtain ⟨q, hq, rfl⟩ := Option.map_eq_some_iff.1 hl
    exact hv q (List.mem_of_find?_eq_some hq)
  constructor
  · intro e
    have e1 : conZ (filt Q k) = conZ (filt Q k') := congrArg Subtype.val e
    unfold arr
    apply List.map_congr_left
    intro j hj
    have hj' : j < 64 := List.mem_range.1 hj
    have h1 := con_look h k j hj'
    have h2 := con_look h k' j hj'
    rw [e1, h2] at h1
    cases ha : look Q (64 * k + (j : Int)) with
    | none =>
      cases hb : look Q (64 * k' + (j : Int)) with
      | none => rfl
      | some v => have := hval _ _ hb; rw [ha, hb] at h1; simp at h1; omega
    | some u =>
      cases hb : look Q (64 * k' + (j : Int)) with
      | none => have := hval _ _ ha; rw [ha, hb] at h1; simp at h1; omega
      | some v => rw [ha, hb] at h1; simp at h1; rw [h1]
  · intro e
    apply Subtype.ext
    show conZ (filt Q k) = conZ (filt Q k')
    apply List.ext_getElem
    · rw [conZ_len, conZ_len]
    · intro j h1 h2
      rw [conZ_len] at h1
      have c1 := con_look h k j h1
      have c2 := con_look h k' j h1
      have he : look Q (64 * k + (j : Int)) = look Q (64 * k' + (j : Int)) := by
        have g := congrArg (fun l => l[j]?) e
        simpa [arr, h1] using g
      rw [List.getD_eq_getElem?_getD, List.getElem?_eq_getElem (by rw [conZ_len]; exact h1)] at c1 c2
      simp only [Option.getD_some] at c1 c2
      rw [c1, c2, he]
theorem allB_len {Q : List Pr} (h : Asc Q) (hv : ∀ q ∈ Q, 0 ≤ q.2) : (allB Q).length = blocksN Q := by
  rw [blocksN_arr h]
  exact nub_len_congr (blkB Q) (arr Q) (keys Q) (fun x _ y _ => blkB_arr h hv x y)

/-- One run more. -/
theorem filt_append (A B : List Pr) (k : Int) : filt (A ++ B) k = filt A k ++ filt B k := List.filter_append A B
theorem filt_run {B : List Pr} {k0 : Int} (hB : ∀ q ∈ B, q.1 / 64 = k0) (k : Int) : filt B k = if k = k0 then B else [] := by
  unfold filt
  split
  · rename_i h
    exact List.filter_eq_self.2 (fun q hq => by simp [hB q hq, h])
  · rename_i h
    exact List.filter_eq_nil_iff.2 (fun q hq e => h (by simp [hB q hq] at e; exact e.symm))
theorem filt_none {A : List Pr} {k0 : Int} (hA : ∀ q ∈ A, q.1 / 64 ≠ k0) : filt A k0 = [] := List.filter_eq_nil_iff.2 (fun q hq e => hA q hq (by simpa using e))
theorem keys_run {A B : List Pr} {k0 : Int} (hB : ∀ q ∈ B, q.1 / 64 = k0) (hne : B ≠ []) (hA : ∀ q ∈ A, q.1 / 64 ≠ k0) : keys (A ++ B) = keys A ++ [k0] := by
  have gen : ∀ (B : List Pr) (a : List Int), k0 ∈ a → (∀ q ∈ B, q.1 / 64 = k0) → (B.map (fun q => q.1 / 64)).foldl addN a = a := by
    intro B
    induction B with
    | nil => intro a _ _; rfl
    | cons q B ih =>
      intro a ha h
      rw [List.map_cons, List.foldl_cons, h q (by simp)]
      have : addN a k0 = a := by unfold addN; rw [if_pos ha]
      rw [this]
      exact ih a ha (fun x hx => h x (by simp [hx]))
  cases B with
  | nil => exact absurd rfl hne
  | cons q B =>
    unfold keys nub
    rw [List.map_append, List.foldl_append, List.map_cons, List.foldl_cons, hB q (by simp)]
    have hnot : k0 ∉ (A.map (fun q => q.1 / 64)).foldl addN [] := by
      intro hm
      have := (mem_nub (A.map (fun q : Pr => q.1 / 64)) k0).1 hm
      obtain ⟨x, hx, e⟩ := List.mem_map.1 this
      exact hA x hx e
    have e2 : addN ((A.map (fun q => q.1 / 64)).foldl addN []) k0 = (A.map (fun q => q.1 / 64)).foldl addN [] ++ [k0] := by
      generalize (A.map (fun q => q.1 / 64)).foldl addN [] = a at hnot
      unfold addN
      rw [if_neg hnot]
    rw [e2]
    exact gen B _ (by simp) (fun x hx => hB x (by simp [hx]))
theorem allB_run {A B : List Pr} {k0 : Int} (hB : ∀ q ∈ B, q.1 / 64 = k0) (hne : B ≠ []) (hA : ∀ q ∈ A, q.1 / 64 ≠ k0) : allB (A ++ B) = addN (allB A) (conB B) := by
  unfold allB
  rw [keys_run hB hne hA, List.map_append, List.map_cons, List.map_nil, nub_snoc]
  have e1 : (keys A).map (blkB (A ++ B)) = (keys A).map (blkB A) := by
    apply List.map_congr_left
    intro k hk
    have hk2 : k ≠ k0 := by
      intro e
      subst e
      have := (mem_nub (A.map (fun q : Pr => q.1 / 64)) k).1 hk
      obtain ⟨x, hx, e⟩ := List.mem_map.1 this
      exact hA x hx e
    unfold blkB
    rw [filt_append, filt_run hB, if_neg hk2, List.append_nil]
  have e2 : blkB (A ++ B) k0 = conB B := by unfold blkB; rw [filt_append, filt_none hA, filt_run hB, if_pos rfl, List.nil_append]
  rw [e1, e2]
/-- What the contents' list leads to. -/
def Leads (Q : List Pr) (N : List BL) (C : List Int) : Prop := ∀ k : Nat, k < C.length → ∃ ix : Nat, C.getD k 0 = (ix : Int) ∧ (zB :: N)[ix]? = some (blkB Q (k : Int))
theorem idx_get {N : List BL} {z : BL} (h : z ∈ N) : (zB :: N)[N.idxOf z + 1]? = some z := by
  rw [List.getElem?_cons_succ]
  have := List.idxOf_lt_length_of_mem h
  rw [List.getElem?_eq_getElem this, List.getElem_idxOf this]
theorem leads_run {A B : List Pr} {N : List BL} {C : List Int} {k0 : Nat} (hl : Leads A N C) (hB : ∀ q ∈ B, q.1 / 64 = (k0 : Int)) (hA : ∀ q ∈ A, q.1 / 64 ≠ (k0 : Int)) (hk : k0 < C.length) :
    Leads (A ++ B) (addN N (conB B)) (C.set k0 (((addN N (conB B)).idxOf (conB B) : Int) + 1)) := by
  intro k hk2
  rw [List.length_set] at hk2
  by_cases e : k = k0
  · subst e
    refine ⟨(addN N (conB B)).idxOf (conB B) + 1, ?_, ?_⟩
    · rw [List.getD_eq_getElem?_getD, List.getElem?_set_self hk]
      rfl
    · have e2 : blkB (A ++ B) (k : Int) = conB B := by unfold blkB; rw [filt_append, filt_none hA, filt_run hB, if_pos rfl, List.nil_append]
      rw [e2]
      exact idx_get (mem_addN.2 (.inr rfl))
  · obtain ⟨ix, h1, h2⟩ := hl k hk2
    refine ⟨ix, ?_, ?_⟩
    · rw [List.getD_eq_getElem?_getD, List.getElem?_set_ne (fun h => e h.symm), ← List.getD_eq_getElem?_getD]
      exact h1
    · have e2 : blkB (A ++ B) (k : Int) = blkB A (k : Int) := by unfold blkB; rw [filt_append, filt_run hB, if_neg (by omega), List.append_nil]
      rw [e2]
      unfold addN
      split
      · exact h2
      · rw [← List.cons_append, List.getElem?_append_left (List.getElem?_eq_some_iff.1 h2).1]
        exact h2
theorem leads_start (n : Nat) : Leads [] [] (List.replicate n 0) := by
  intro k hk
  refine ⟨0, ?_, ?_⟩
  · rw [List.getD_eq_getElem?_getD, List.getElem?_replicate]
    split <;> rfl
  · rfl
/-- The runs of a list in order. -/
theorem run_parts {Q2 : List Pr} {q : Pr} {R : List Pr} (hQ : Q2 = q :: R) (ha : Asc Q2) : (∀ x ∈ Q2.take (runL q.1 Q2), x.1 / 64 = q.1 / 64) ∧ 0 < runL q.1 Q2 ∧ runL q.1 Q2 ≤ Q2.length ∧ (∀ x ∈ Q2.drop (runL q.1 Q2), q.1 / 64 < x.1 / 64) := by
  have htw : Q2.take (runL q.1 Q2) = Q2.takeWhile (sameB q.1) := by
    unfold runL
    have := List.takeWhile_append_dropWhile (p := sameB q.1) (l := Q2)
    have h2 := List.take_left (l₁ := Q2.takeWhile (sameB q.1)) (l₂ := Q2.dropWhile (sameB q.1))
    rwa [this] at h2
  have hle : runL q.1 Q2 ≤ Q2.length := tw_le _ _
  refine ⟨?_, ?_, hle, ?_⟩
  · intro x hx
    rw [htw] at hx
    have hall : ∀ (l : List Pr), ∀ y ∈ l.takeWhile (sameB q.1), sameB q.1 y = true := by
      intro l
      induction l with
      | nil => intro y hy; simp at hy
      | cons z l ih =>
        intro y hy
        by_cases hz : sameB q.1 z = true
        · rw [List.takeWhile_cons_of_pos hz] at hy
          rcases List.mem_cons.1 hy with rfl | hy
          · exact hz
          · exact ih y hy
        · rw [List.takeWhile_cons_of_neg hz] at hy
          simp at hy
    have := hall Q2 x hx
    simpa [sameB] using this
  · unfold runL
    rw [hQ, List.takeWhile_cons_of_pos (by simp [sameB])]
    simp
  · intro x hx
    obtain ⟨i, hi, rfl⟩ := List.getElem_of_mem hx
    rw [List.length_drop] at hi
    have hm : runL q.1 Q2 < Q2.length := by omega
    have h1 := tw_at (sameB q.1) Q2 (runL q.1 Q2) hm rfl
    have hp := List.pairwise_iff_getElem.1 ha
    have h0 : Q2[0]'(by omega) = q := by subst hQ; rfl
    have hr0 : 0 < runL q.1 Q2 := by
      unfold runL
      rw [hQ, List.takeWhile_cons_of_pos (by simp [sameB])]
      simp
    have a1 := hp 0 (runL q.1 Q2) (by omega) hm hr0
    rw [h0] at a1
    have a2 : (Q2[runL q.1 Q2]).1 / 64 ≠ q.1 / 64 := by simpa [sameB] using h1
    rw [List.getElem_drop]
    by_cases hi0 : i = 0
    · subst hi0
      simp only [Nat.add_zero]
      omega
    · have a3 := hp (runL q.1 Q2) (runL q.1 Q2 + i) hm (by omega) (by omega)
      omega
end Go.Proofs.Ytcoiddmgcoeocaa.Tr

/- newSide: a walk. -/
namespace Go.Proofs.Ytcoiddmgcoeocaa.Tr
open Go.ChangeShapes Go.WideShapes Go.ChangeAt Go.RowKit Go.Maps Go.Proofs.Ytcoiddmgcoeocaa.Mem Go.Proofs.Ytcoiddmgcoeocaa.El Go.Sort Go.Proofs.Ytcoiddmgcoeocaa.Rn
set_option linter.unusedVariables false
set_option linter.unusedSimpArgs false

def CE : Elem Int where
  ty := 21
  size := 1
  enc z := [.int .i32 z]
  len _ := rfl
  one := by intro a u hu; simp at hu; rw [hu]; rfl
theorem infoC : (Try.prog.info? 21).map (fun i => (i.zero, i.size, i.bytes)) = some (some (.int .i32 0), 1, 4) := by kernel_rfl
theorem make_con (w : World) (n : Nat) (hn : n ≤ 262144) : ∃ w', (Instr.makeSlice 52 (.int .i64 (n : Int)) (.int .i64 (n : Int))).run Try.prog w = .ok (.slice (some ⟨w.heap.size, 0, none⟩) n n) w' ∧ CE.Own w' (some ⟨w.heap.size, 0, none⟩) n (List.replicate n 0) ∧ w.grownBy w' none := by
  obtain ⟨i0, hi, hz0, hz1, hz2⟩ := info_parts' infoC
  exact run_makeE (E := CE) w _ i0 _ 4 Try.underlying52 hi hz0 hz1 hz2 0 (by rfl) (by decide) n (by omega) (by omega)
theorem make_blk (w : World) : ∃ w', (Instr.makeSlice 53 (.int .i64 1) (.int .i64 1)).run Try.prog w = .ok (.slice (some ⟨w.heap.size, 0, none⟩) 1 1) w' ∧ BE.Own w' (some ⟨w.heap.size, 0, none⟩) 1 [zB] ∧ w.grownBy w' none := by
  obtain ⟨i0, hi, hz0, hz1, hz2⟩ := info_parts' infoB
  exact run_makeE (E := BE) w 53 i0 _ 256 Try.underlying53 hi hz0 hz1 hz2 zB zBe (by decide) 1 (by omega) (by omega)
theorem wf_fold : ∀ (B : List Pr) (zs : List Int), (∀ x ∈ zs, (Lit.int .i32 x).wf = true) → (∀ q ∈ B, 0 ≤ q.2 ∧ q.2 ≤ 16777215) → ∀ x ∈ B.foldl conStep zs, (Lit.int .i32 x).wf = true
  | [], zs, h, _ => h
  | q :: B, zs, h, hq => by
    refine wf_fold B (conStep zs q) ?_ (fun x hx => hq x (by simp [hx]))
    intro x hx
    unfold conStep at hx
    rcases List.mem_or_eq_of_mem_set hx with hx | rfl
    · exact h x hx
    · obtain ⟨a, b⟩ := hq q (by simp)
      simp only [Lit.wf, Bool.and_eq_true, decide_eq_true_eq]
      constructor
      · show (-2147483648 : Int) ≤ _; omega
      · show _ ≤ (2147483647 : Int); omega
theorem wf_con {B : List Pr} (h : ∀ q ∈ B, 0 ≤ q.2 ∧ q.2 ≤ 16777215) : wfB (conB B) :=
  wf_fold B _ (fun x hx => by rw [List.eq_of_mem_replicate hx]; rfl) h
theorem keep_any (Sb M : Nat) (cv : Value) (bo : Option Addr) (cap : Nat) (N : List BL) (n : Nat) (hn : n ≤ 100000) (hNl : N.length ≤ 100000) (zs : BL) (hz : wfB zs) (w : World) (h : KS w Sb M cv bo cap N n) :
    Calls Try.prog 37 #[.pointer (some ⟨Sb, 0, none⟩), arrV .i32 zs.1, .map (some M)] w fun e w' => ∃ ix : Int, e = .returned (.int .i32 ix) ∧ ix = ((addN N zs).idxOf zs : Int) + 1 ∧ ∃ bo' cap' n', n' ≤ n + 1 ∧ KS w' Sb M cv bo' cap' (addN N zs) n' ∧ (bo' = bo ∨ ∃ g, bo' = some ⟨g, 0, none⟩ ∧ w.heap.size ≤ g) ∧ Chg w w' (fun k => k = Sb ∨ k = M ∨ some k = blk bo) := by
  by_cases hm : zs ∈ N
  · have e : addN N zs = N := by unfold addN; rw [if_pos hm]
    rw [e]
    refine (keep_old Sb M cv bo cap N n zs hz hm w h).mono ?_
    rintro e w' ⟨rfl, hg⟩
    exact ⟨_, rfl, rfl, bo, cap, n, by omega, h.same hg, .inl rfl, Chg.of hg (by simp)⟩
  · have e : addN N zs = N ++ [zs] := by unfold addN; rw [if_neg hm]
    rw [e]
    refine (keep_new Sb M cv bo cap N n hn hNl zs hz hm w h).mono ?_
    rintro e w' ⟨rfl, bo', cap', r1, r2, r3⟩
    refine ⟨_, rfl, ?_, bo', cap', n + 1, Nat.le_refl _, r1, r2, r3⟩
    rw [List.idxOf_append, if_neg hm]
    simp
def lenS : Value → Nat | .slice _ n _ => n | _ => 0
/-- A side in memory. -/
structure SideOk (w : World) (co : Option Addr) (nc : Nat) (bo : Option Addr) (nb cap : Nat) (Q : List Pr) (C : List Int) : Prop where
  con : CE.Own w co nc C
  clen : C.length = nc
  own : BE.Own w bo cap (zB :: allB Q)
  nb : nb = (allB Q).length + 1
  leads : Leads Q (allB Q) C
  small : nc ≤ 262144
  all : ∀ q ∈ Q, q.1 / 64 < (nc : Int)
theorem SideOk.kept {w w' : World} {co : Option Addr} {nc : Nat} {bo : Option Addr} {nb cap : Nat} {Q : List Pr} {C : List Int} (h : SideOk w co nc bo nb cap Q C) (hg : w.grownBy w' none) : SideOk w' co nc bo nb cap Q C :=
  ⟨h.con.kept0 hg, h.clen, h.own.kept0 hg, h.nb, h.leads, h.small, h.all⟩
/-- The side under way. -/
structure NSt (w1 wx : World) (Sb M c nc : Nat) (bo : Option Addr) (cap : Nat) (C : List Int) (Q1 Q2 Q : List Pr) (n : Nat) : Prop where
  ks : KS wx Sb M (.slice (some ⟨c, 0, none⟩) nc nc) bo cap (allB Q1) n
  con : CE.Own wx (some ⟨c, 0, none⟩) nc C
  clen : C.length = nc
  gr : w1.grownBy wx none
  leads : Leads Q1 (allB Q1) C
  sep : w1.heap.size ≤ Sb ∧ w1.heap.size ≤ M ∧ w1.heap.size ≤ c ∧ c ≠ Sb ∧ c ≠ M ∧ blk bo ≠ some c ∧ ∀ g, blk bo = some g → w1.heap.size ≤ g
  nle : n ≤ Q1.length
  split : Q1 ++ Q2 = Q
  apart : ∀ a ∈ Q1, ∀ b ∈ Q2, a.1 / 64 < b.1 / 64
theorem NSt.small {w1 wx : World} {Sb M c nc : Nat} {bo : Option Addr} {cap : Nat} {C : List Int} {Q1 Q2 Q : List Pr} {n : Nat} (h : NSt w1 wx Sb M c nc bo cap C Q1 Q2 Q n) : (allB Q1).length ≤ Q1.length := by
  unfold allB
  refine Nat.le_trans (length_nub _) ?_
  rw [List.length_map]
  refine Nat.le_trans (length_nub _) ?_
  rw [List.length_map]
  exact Nat.le_refl _
/-- One run more. -/
theorem NSt.step {w1 wx w5 : World} {Sb M c nc : Nat} {bo bo' : Option Addr} {cap cap' : Nat} {C : List Int} {Q1 Q2 Q : List Pr} {n n' : Nat} {q : Pr} {R : List Pr} (h : NSt w1 wx Sb M c nc bo cap C Q1 Q2 Q n) (hQ : Q2 = q :: R) (ha : Asc Q2) {m k0 : Nat} (hm : runL q.1 Q2 = m) (hk0 : q.1 / 64 = (k0 : Int)) (hk : k0 < nc)
    {w4 : World} (h4 : wx.grownBy w4 none) {ix : Int} (hix : ix = ((addN (allB Q1) (conB (Q2.take m))).idxOf (conB (Q2.take m)) : Int) + 1) (hn : n' ≤ n + 1) (hK : KS w5 Sb M (.slice (some ⟨c, 0, none⟩) nc nc) bo' cap' (addN (allB Q1) (conB (Q2.take m))) n') (hat : bo' = bo ∨ ∃ g, bo' = some ⟨g, 0, none⟩ ∧ w4.heap.size ≤ g) (hC : Chg w4 w5 (fun k => k = Sb ∨ k = M ∨ some k = blk bo)) :
    NSt w1 (w5.setCell ⟨c, k0, none⟩ (.int .i32 ix)) Sb M c nc bo' cap' (C.set k0 ix) (Q1 ++ Q2.take m) (Q2.drop m) Q n' := by
  subst hm
  obtain ⟨r1, r2, r3, r4⟩ := run_parts hQ ha
  obtain ⟨s1, s2, s3, s4, s5, s6, s7⟩ := h.sep
  have hq1 : ∀ x ∈ Q1, x.1 / 64 ≠ (k0 : Int) := fun x hx => by have := h.apart x hx q (by rw [hQ]; simp); omega
  have hB : ∀ x ∈ Q2.take (runL q.1 Q2), x.1 / 64 = (k0 : Int) := fun x hx => by rw [r1 x hx, hk0]
  have hne : Q2.take (runL q.1 Q2) ≠ [] := fun e => by
    have := congrArg List.length e
    rw [List.length_take, List.length_nil] at this
    omega
  have hall := allB_run hB hne hq1
  have hclt : c < w4.heap.size := Nat.lt_of_lt_of_le (h.con.lt rfl) h4.size
  have hcw5 : w5.heap[c]? = wx.heap[c]? := by
    rw [hC.block c hclt (by rintro (e | e | e); exact s4 e; exact s5 e; exact s6 e.symm)]
    exact h4.block c (h.con.lt rfl) (by simp)
  have hcon5 : CE.Own w5 (some ⟨c, 0, none⟩) nc C := own_same h.con (fun g hg => by have : c = g := Option.some.inj hg; rw [← this]; exact hcw5)
  have hgS := grownBy_setCell w5 ⟨c, k0, none⟩ (.int .i32 ix)
  have hbo' : blk bo' ≠ some c := by
    rcases hat with rfl | ⟨g, rfl, hg⟩
    · exact s6
    · intro e
      have : g = c := Option.some.inj e
      omega
  have hkl : k0 < C.length := by rw [h.clen]; exact hk
  have hclt5 : c < w5.heap.size := Nat.lt_of_lt_of_le hclt hC.size
  refine ⟨⟨?_, ?_, ?_, ?_, hK.ne⟩, ?_, by rw [List.length_set]; exact h.clen, ?_, ?_, ⟨s1, s2, s3, s4, s5, hbo', ?_⟩, ?_, by rw [List.append_assoc, List.take_append_drop]; exact h.split, ?_⟩
  · rw [hgS.block Sb (lt_of_block hK.side) (fun e => s4 (Option.some.inj e).symm), hall]
    exact hK.side
  · rw [hall]
    exact own_same hK.own (fun g hg => hgS.block g (hK.own.lt hg) (fun e => hbo' (by rw [hg, e])))
  · rw [hall]
    exact hK.known.same (hgS.block M hK.known.lt (fun e => s5 (Option.some.inj e).symm))
  · rw [hall]; exact hK.wf
  · have := hcon5.set k0 hkl 0 (by decide) (.int .i32 ix) ix rfl
    have e : k0 * CE.size + 0 = k0 := Nat.mul_one k0
    rw [e] at this
    exact this
  · exact grownBy_new ((Chg.grown (grownBy_trans h.gr h4) hC (by
      rintro i (rfl | rfl | e)
      · exact s1
      · exact s2
      · exact s7 i e.symm))) hgS (fun g hg => by have : c = g := Option.some.inj hg; omega)
  · rw [hall]
    have := leads_run h.leads hB hq1 hkl
    rw [← hix] at this
    exact this
  · intro g hg
    rcases hat with rfl | ⟨g', rfl, hg'⟩
    · exact s7 g hg
    · have e1 : g' = g := Option.some.inj hg
      have e2 := h.gr.size
      have e3 := h4.size
      omega
  · rw [List.length_append, List.length_take]
    have := h.nle
    omega
  · intro a ha' b hb
    rcases List.mem_append.1 ha' with h1 | h1
    · exact h.apart a h1 b (List.mem_of_mem_drop hb)
    · rw [r1 a h1]; exact r4 b hb

set_option maxRecDepth 100000 in
set_option maxHeartbeats 1000000 in
theorem newSide_none (ao : Option Addr) (cap : Nat) (w : World) :
    Calls Try.prog 20 #[.slice ao 0 cap] w fun e w' => ∃ bo, e = .returned (.agg #[.slice none 0 0, .slice bo 1 1]) ∧ SideOk w' none 0 bo 1 1 [] [] ∧ w.grownBy w' none := by
  go_enter Try.func20, Try.ntmps20
  go_upto_region 1 with fail
  have hg1 : Hid (w.grownBy (w.alloc (.cells #[.slice none 0 0, .slice none 0 0] 55)) none) := Hid.mk' (World.grownBy_alloc w _ none)
  have hr0 := Hid.mk' (heap_alloc_new w (.cells #[.slice none 0 0, .slice none 0 0] 55))
  obtain ⟨R0, hR0⟩ : ∃ R0, w.heap.size = R0 := ⟨_, rfl⟩
  rw [hR0] at hr0 ⊢
  have hRw : Hid (w.heap.size = R0) := Hid.mk' hR0
  clear hR0
  generalize w.alloc (.cells #[.slice none 0 0, .slice none 0 0] 55) = w1 at *
  obtain ⟨w2, hmk, ho2, hg2⟩ := make_blk w1
  have hlt1 := lt_of_block hr0.out
  have hg3 := Hid.mk' (grownBy_trans hg2 (World.grownBy_alloc w2 (.cells #[.slice none 0 0, .slice (some ⟨w1.heap.size, 0, none⟩) 1 1] 55) none))
  have hs3 := Hid.mk' (heap_alloc_new w2 (.cells #[.slice none 0 0, .slice (some ⟨w1.heap.size, 0, none⟩) 1 1] 55))
  have ho3 := Hid.mk' (ho2.alloc (.cells #[.slice none 0 0, .slice (some ⟨w1.heap.size, 0, none⟩) 1 1] 55))
  have hR : R0 < w2.heap.size := Nat.lt_of_lt_of_le hlt1 hg2.size
  go_upto_region 2 with fail
  generalize w2.alloc (.cells #[.slice none 0 0, .slice (some ⟨w1.heap.size, 0, none⟩) 1 1] 55) = w3 at *
  have hr3 := Hid.mk' (blk_kept hr0.out hg3.out)
  clear hmk ho2 hg2
  generalize w2.heap.size = Sb at *
  obtain ⟨g1, hg1'⟩ : ∃ g1, Hid (w1.heap.size = g1) := ⟨_, Hid.mk' rfl⟩
  rw [hg1'.out] at hs3 ho3 ⊢
  have c0 := cell_at hs3.out 0 (v := .slice none 0 0) rfl
  have c1 := cell_at hs3.out 1 (v := .slice (some ⟨g1, 0, none⟩) 1 1) rfl
  have d0 := cell_at hr3.out 0 (v := .slice none 0 0) rfl
  have d1 := cell_at hr3.out 1 (v := .slice none 0 0) rfl
  have f0 : ∀ j, w3.frozen? ⟨R0, j, none⟩ = false := fun j => by simp [World.frozen?, hr3.out]
  have hb := Hid.mk' (block_set (block_set hr3.out 0 (.slice none 0 0)) 1 (.slice (some ⟨g1, 0, none⟩) 1 1))
  have hgS := Hid.mk' (grownBy_trans (grownBy_setCell w3 ⟨R0, 0, none⟩ (.slice none 0 0)) (grownBy_setCell _ ⟨R0, 1, none⟩ (.slice (some ⟨g1, 0, none⟩) 1 1)))
  go_wp2_with fail
  refine bodyPost_ret (v := .agg #[.slice none 0 0, .slice (some ⟨g1, 0, none⟩) 1 1]) (results_cell_row Try.results20 _ _ R0 55 _ (0, 0) _ rfl hb.out Try.underlying55 rfl (by kernel_rfl)) rfl ⟨_, rfl, ?_, ?_⟩
  · have hne : blk (some ⟨g1, 0, none⟩) ≠ some R0 := fun e => by have : g1 = R0 := Option.some.inj e; have := hg1'.out; omega
    refine ⟨.inl ⟨rfl, rfl, rfl⟩, rfl, own_same ho3.out (fun g hg => hgS.out.block g (ho3.out.lt hg) (fun e => hne (by rw [hg, e]))), rfl, ?_, by omega, by simp⟩
    intro k hk
    simp at hk
  · exact grownBy_new (grownBy_trans hg1.out hg3.out) hgS.out (fun k hk => by have h5 : R0 = k := Option.some.inj hk; have := hRw.out; omega)

theorem erd_drop {w : World} {b o : Nat} {L : List Pr} (h : EE.Rd w (some ⟨b, o, none⟩) L) (n : Nat) (hn : n ≤ L.length) : EE.Rd w (some ⟨b, o + n * 2, none⟩) (L.drop n) := by
  rcases h with ⟨h, _⟩ | ⟨a', e, hc⟩
  · cases h
  · cases e
    refine .inr ⟨_, rfl, fun j u hu => ?_⟩
    have e2 : (⟨b, o + n * 2, none⟩ : Addr) = (⟨b, o, none⟩ : Addr).add (n * 2) := (addr_add b o (n * 2)).symm
    rw [e2, add_add]
    refine hc _ u ?_
    have e : EE.cells L = EE.cells (L.take n) ++ EE.cells (L.drop n) := by rw [← cells_append, List.take_append_drop]
    have hl : (EE.cells (L.take n)).length = n * 2 := by rw [cells_length, List.length_take, Nat.min_eq_left hn]; rfl
    rw [e, List.getElem?_append_right (by omega), hl, Nat.add_sub_cancel_left]
    exact hu
theorem erd_take {w : World} {ao : Option Addr} {L : List Pr} (h : EE.Rd w ao L) (n : Nat) : EE.Rd w ao (L.take n) := by
  rcases h with ⟨rfl, rfl⟩ | ⟨a, rfl, hc⟩
  · exact .inl ⟨rfl, by simp⟩
  · refine .inr ⟨a, rfl, fun j u hu => hc j u ?_⟩
    have e : EE.cells L = EE.cells (L.take n) ++ EE.cells (L.drop n) := by rw [← cells_append, List.take_append_drop]
    rw [e, List.getElem?_append_left (List.getElem?_eq_some_iff.1 hu).1]
    exact hu

theorem chg_cell {w w' : World} {P : Nat → Prop} (h : Chg w w' P) {b o : Nat} {v : Value} (hc : w.cell? ⟨b, o, none⟩ = some v) (hp : ¬ P b) : w'.cell? ⟨b, o, none⟩ = some v := by
  have hb := World.block_lt_of_cell? w _ hc
  have e := h.block b hb hp
  simpa [World.cell?, e] using hc
theorem sepB {w1 wx : World} {Sb M c nc : Nat} {bo : Option Addr} {cap : Nat} {C : List Int} {Q1 Q2 Q : List Pr} {n : Nat} (h : NSt w1 wx Sb M c nc bo cap C Q1 Q2 Q n) {b : Nat} (hb : b < w1.heap.size) : ¬ (b = Sb ∨ b = M ∨ some b = blk bo) := by
  obtain ⟨s1, s2, s3, s4, s5, s6, s7⟩ := h.sep
  rintro (e | e | e)
  · omega
  · omega
  · have := s7 b e.symm; omega
theorem chg_con {w1 wx w4 w5 : World} {Sb M c nc : Nat} {bo : Option Addr} {cap : Nat} {C : List Int} {Q1 Q2 Q : List Pr} {n : Nat} (hC : Chg w4 w5 (fun k => k = Sb ∨ k = M ∨ some k = blk bo)) (h : NSt w1 wx Sb M c nc bo cap C Q1 Q2 Q n) (h4 : wx.grownBy w4 none) {k0 : Nat} (hk : k0 < nc) : (∃ v, w5.cell? ⟨c, k0, none⟩ = some v) ∧ w5.frozen? ⟨c, k0, none⟩ = false := by
  obtain ⟨s1, s2, s3, s4, s5, s6, s7⟩ := h.sep
  have hclt : c < w4.heap.size := Nat.lt_of_lt_of_le (h.con.lt rfl) h4.size
  have hcw5 : w5.heap[c]? = wx.heap[c]? := by
    rw [hC.block c hclt (by rintro (e | e | e); exact s4 e; exact s5 e; exact s6 e.symm)]
    exact h4.block c (h.con.lt rfl) (by simp)
  have hcon5 : CE.Own w5 (some ⟨c, 0, none⟩) nc C := own_same h.con (fun g hg => by have : c = g := Option.some.inj hg; rw [← this]; exact hcw5)
  have hkl : k0 < C.length := by rw [h.clen]; exact hk
  obtain ⟨g, e, _, hf, hc⟩ := hcon5.at (List.ne_nil_of_length_pos (by omega))
  cases e
  refine ⟨⟨.int .i32 C[k0], ?_⟩, hf k0⟩
  have := hc k0 hkl 0 (.int .i32 C[k0]) rfl
  have e : k0 * CE.size + 0 = k0 := Nat.mul_one k0
  rwa [e] at this
theorem cell_other {w : World} {c k b o : Nat} {v : Value} (h : w.cell? ⟨b, o, none⟩ = some v) (hne : b ≠ c) (x : Value) : (w.setCell ⟨c, k, none⟩ x).cell? ⟨b, o, none⟩ = some v :=
  (grownBy_setCell w ⟨c, k, none⟩ x).cell h (fun e => hne (Option.some.inj e))
theorem sepC {w1 wx : World} {Sb M c nc : Nat} {bo : Option Addr} {cap : Nat} {C : List Int} {Q1 Q2 Q : List Pr} {n : Nat} (h : NSt w1 wx Sb M c nc bo cap C Q1 Q2 Q n) : Sb ≠ c ∧ ∀ b, b < w1.heap.size → b ≠ c := by
  obtain ⟨s1, s2, s3, s4, s5, s6, s7⟩ := h.sep
  exact ⟨fun e => s4 e.symm, fun b hb => by omega⟩

set_option maxRecDepth 100000 in
set_option maxHeartbeats 4000000 in
theorem newSide_some (b0 o0 cap0 : Nat) (Q : List Pr) (n0 : Nat) (hn : Q.length = n0) (hn1 : 0 < n0) (hn2 : n0 ≤ 65536) (w : World) (hB : EE.Rd w (some ⟨b0, o0, none⟩) Q) (hc : n0 ≤ cap0) (hcm : cap0 ≤ 70000) (hr : ∀ p ∈ Q, (0 ≤ p.1 ∧ p.1 ≤ 16777215) ∧ 0 ≤ p.2 ∧ p.2 ≤ 16777215) (ha : Asc Q) :
    Calls Try.prog 20 #[.slice (some ⟨b0, o0, none⟩) n0 cap0] w fun e w' => ∃ co nc bo nb cap, e = .returned (.agg #[.slice co nc nc, .slice bo nb cap]) ∧ (∃ C, SideOk w' co nc bo nb cap Q C) ∧ w.grownBy w' none := by
  have hB0 := Hid.mk' hB
  have hn0 := Hid.mk' hn
  have hr0' := Hid.mk' hr
  have ha0 := Hid.mk' ha
  obtain ⟨np, hnp⟩ : ∃ np, n0 = np + 1 := ⟨n0 - 1, by omega⟩
  have hlast : np < Q.length := by omega
  obtain ⟨kl, ul, hkl⟩ : ∃ a b, Q[np] = (a, b) := ⟨_, _, rfl⟩
  obtain ⟨r1, r2⟩ : 0 ≤ kl ∧ kl ≤ 16777215 := by have := (hr _ (List.getElem_mem hlast)).1; rw [hkl] at this; exact this
  obtain ⟨nc, hnc⟩ : ∃ nc : Nat, kl / 64 + 1 = (nc : Int) := ⟨(kl / 64 + 1).toNat, by omega⟩
  have hnc1 : nc ≤ 262144 := by omega
  have htd : kl.tdiv 64 = kl / 64 := Int.tdiv_eq_ediv_of_nonneg r1
  have hall : Hid (∀ q ∈ Q, q.1 / 64 < (nc : Int)) := Hid.mk' (by
    intro q hq
    obtain ⟨i, hi, rfl⟩ := List.getElem_of_mem hq
    have hp := List.pairwise_iff_getElem.1 ha
    by_cases e : i = np
    · subst e; rw [hkl]; show kl / 64 < _; omega
    · have := hp i np hi hlast (by omega)
      rw [hkl] at this
      simp only at this
      omega)
  obtain ⟨bb, oo, ee, hbb, xk, xk1⟩ := ecells hB hlast hkl
  cases ee
  subst hnp
  have y1 : ((np + 1 : Nat) : Int) - 1 = (np : Int) := by omega
  have y2 : (np : Int) < ((np + 1 : Nat) : Int) := by omega
  have y3 : (0 : Int) ≤ (np : Int) := by omega
  have y4 : ¬ ((np + 1 : Nat) : Int) = 0 := by omega
  have y5 : (((np + 1 : Nat) : Int) == 0) = false := by simp; omega
  have hbb0 := Hid.mk' hbb
  obtain ⟨N0, hN0⟩ : ∃ N0, N0 = np + 1 := ⟨_, rfl⟩
  rw [← hN0] at y1 y2 y4 y5 hn0 hn1 hn2 hc ⊢
  clear hB hn hr ha hlast hkl hN0
  go_enter Try.func20, Try.ntmps20
  go_upto_region 1 with fail
  have hg1 : Hid (w.grownBy (w.alloc (.cells #[.slice none 0 0, .slice none 0 0] 55)) none) := Hid.mk' (World.grownBy_alloc w _ none)
  have hr0 := Hid.mk' (heap_alloc_new w (.cells #[.slice none 0 0, .slice none 0 0] 55))
  obtain ⟨R0, hR0⟩ : ∃ R0, w.heap.size = R0 := ⟨_, rfl⟩
  rw [hR0] at hr0 ⊢
  have hRw : Hid (w.heap.size = R0) := Hid.mk' hR0
  clear hR0
  generalize w.alloc (.cells #[.slice none 0 0, .slice none 0 0] 55) = w1 at *
  obtain ⟨w2, hmk, ho2, hg2⟩ := make_blk w1
  have hlt1 := lt_of_block hr0.out
  have hg3 := Hid.mk' (grownBy_trans hg2 (World.grownBy_alloc w2 (.cells #[.slice none 0 0, .slice (some ⟨w1.heap.size, 0, none⟩) 1 1] 55) none))
  have hs3 := Hid.mk' (heap_alloc_new w2 (.cells #[.slice none 0 0, .slice (some ⟨w1.heap.size, 0, none⟩) 1 1] 55))
  have ho3 := Hid.mk' (ho2.alloc (.cells #[.slice none 0 0, .slice (some ⟨w1.heap.size, 0, none⟩) 1 1] 55))
  have hSb : Hid (w1.heap.size < w2.heap.size) := Hid.mk' (ho2.lt rfl)
  go_upto_region 2 with fail
  obtain ⟨Sb, hSb'⟩ : ∃ Sb, Hid (w2.heap.size = Sb) := ⟨_, Hid.mk' rfl⟩
  rw [hSb'.out] at hs3 hSb ⊢
  generalize w2.alloc (.cells #[.slice none 0 0, .slice (some ⟨w1.heap.size, 0, none⟩) 1 1] 55) = w3 at *
  have hr3 := Hid.mk' (blk_kept hr0.out hg3.out)
  have hB1 := Hid.mk' (hB0.out.kept0 hg1.out)
  have hbb1 : Hid (b0 < w1.heap.size) := Hid.mk' (Nat.lt_of_lt_of_le hbb0.out hg1.out.size)
  have xk3 := (grownBy_trans hg1.out hg3.out).cell xk (by simp)
  clear hmk ho2 hg2 hSb' xk xk1
  obtain ⟨g1, hg1'⟩ : ∃ g1, Hid (w1.heap.size = g1) := ⟨_, Hid.mk' rfl⟩
  rw [hg1'.out] at hs3 ho3 hSb ⊢
  obtain ⟨w4, hmk4, ho4, hg4⟩ := make_con w3 nc hnc1
  obtain ⟨c, hcq⟩ : ∃ c, Hid (w3.heap.size = c) := ⟨_, Hid.mk' rfl⟩
  rw [hcq.out] at hmk4 ho4
  have hs4 := Hid.mk' (blk_kept hs3.out hg4)
  have hSlt : Hid (Sb < c) := Hid.mk' (by have := lt_of_block hs3.out; rw [hcq.out] at this; exact this)
  have c0 := cell_at hs4.out 0 (v := .slice none 0 0) rfl
  have f0 : w4.frozen? ⟨Sb, 0, none⟩ = false := by simp [World.frozen?, hs4.out]
  have ho40 := Hid.mk' ho4
  have hg40 := Hid.mk' hg4
  clear ho4 hg4
  have hmm := @run_makeMap Try.prog
  go_wp2_with fail
  have hst : Hid (NSt w1 ((w4.setCell ⟨Sb, 0, none⟩ (.slice (some ⟨c, 0, none⟩) nc nc)).alloc (.map #[] 0)) Sb w4.heap.size c nc (some ⟨g1, 0, none⟩) 1 (List.replicate nc 0) [] Q Q 0) := Hid.mk' (by
    have hgS := grownBy_setCell w4 ⟨Sb, 0, none⟩ (.slice (some ⟨c, 0, none⟩) nc nc)
    have hgA := World.grownBy_alloc (w4.setCell ⟨Sb, 0, none⟩ (.slice (some ⟨c, 0, none⟩) nc nc)) (.map #[] 0) none
    have q1 := hSb.out
    have q2 := hSlt.out
    have q3 := hg1'.out
    have q4 := ho40.out.lt (g := c) rfl
    have qs : (w4.setCell ⟨Sb, 0, none⟩ (.slice (some ⟨c, 0, none⟩) nc nc)).heap.size = w4.heap.size := by simp
    have hb := block_set hs4.out 0 (.slice (some ⟨c, 0, none⟩) nc nc)
    have hSc : some c ≠ some Sb := fun e => by have := Option.some.inj e; omega
    have hgc : blk (some ⟨g1, 0, none⟩) ≠ some Sb := fun e => by have : g1 = Sb := Option.some.inj e; omega
    have hrow : BE.Own (w4.setCell ⟨Sb, 0, none⟩ (.slice (some ⟨c, 0, none⟩) nc nc)) (some ⟨g1, 0, none⟩) 1 [zB] := own_same (ho3.out.kept0 hg40.out) (fun g hg => hgS.block g ((ho3.out.kept0 hg40.out).lt hg) (fun e => hgc (by rw [hg, e])))
    have hcon : CE.Own (w4.setCell ⟨Sb, 0, none⟩ (.slice (some ⟨c, 0, none⟩) nc nc)) (some ⟨c, 0, none⟩) nc (List.replicate nc 0) := own_same ho40.out (fun g hg => by have : c = g := Option.some.inj hg; rw [← this]; exact hgS.block c q4 hSc)
    have hkn := known_made (w4.setCell ⟨Sb, 0, none⟩ (.slice (some ⟨c, 0, none⟩) nc nc))
    rw [qs] at hkn
    refine ⟨⟨?_, hrow.kept0 hgA, hkn, by intro z hz; simp [allB, keys, nub] at hz, hgc, ?_, ?_⟩, hcon.kept0 hgA, by simp, ?_, leads_start nc, ⟨by omega, by omega, by omega, by omega, by omega, ?_, ?_⟩, by omega, by simp, by simp⟩
    · rw [hgA.block Sb (by have := lt_of_block hb; exact this) (by simp), hb]
      rfl
    · intro e; have : g1 = w4.heap.size := Option.some.inj e; omega
    · omega
    · exact grownBy_trans (grownBy_new (grownBy_trans hg3.out hg40.out) hgS (fun g hg => by have h5 : Sb = g := Option.some.inj hg; omega)) hgA
    · intro e; have : g1 = c := Option.some.inj e; omega
    · intro g hg; have : g1 = g := Option.some.inj hg; omega)
  clear hs3 ho3 hg3 hs4 hSlt hcq c0 f0 ho40 hg40 hmk4 xk3 hr3
  generalize (w4.setCell ⟨Sb, 0, none⟩ (.slice (some ⟨c, 0, none⟩) nc nc)).alloc (.map #[] 0) = wz at *
  generalize w4.heap.size = M at *
  have hbm : Hid (∀ b o, EE.Rd w1 (some ⟨b, o, none⟩) [] ) := Hid.mk' (fun b o => Elem.Rd.nil w1 _)
  clear hmm
  go_loopw [0] (fun t0 wx => ∃ (o len cap bcap n : Nat) (bo : Option Addr) (C : List Int) (Q1 Q2 : List Pr), t0 = .slice (some ⟨b0, o, none⟩) len cap ∧ len ≤ cap ∧ cap ≤ 70000 ∧ len ≤ 65536 ∧ Hid (Q2.length = len) ∧ Hid (EE.Rd w1 (some ⟨b0, o, none⟩) Q2) ∧ Hid (NSt w1 wx Sb M c nc bo bcap C Q1 Q2 Q n)) (fun t0 _ => lenS t0)
  case atStart => exact ⟨o0, N0, cap0, 1, 0, some ⟨g1, 0, none⟩, _, [], Q, rfl, hc, hcm, hn2, hn0, hB1, hst⟩
  case round =>
    obtain ⟨o, len, cap, bcap, n, bo, C, Q1, Q2, rfl, hlc, hcap, hlen, hQ2, hRd, hN⟩ := hrel
    clear hst
    cases Q2 with
    | nil =>
      obtain rfl : len = 0 := by have := hQ2.out; simpa using this.symm
      have hNQ : Hid (Q1 = Q) := Hid.mk' (by have := hN.out.split; simpa using this)
      have hR : Hid (wr.heap[R0]? = some (.cells #[.slice none 0 0, .slice none 0 0] 55 (0, 0))) := Hid.mk' (blk_kept hr0.out hN.out.gr)
      have k0 := cell_at hN.out.ks.side 0 (v := .slice (some ⟨c, 0, none⟩) nc nc) rfl
      have k1 := cell_at hN.out.ks.side 1 (v := .slice bo ((allB Q1).length + 1) bcap) rfl
      have d0 := cell_at hR.out 0 (v := .slice none 0 0) rfl
      have d1 := cell_at hR.out 1 (v := .slice none 0 0) rfl
      have fr : ∀ j, wr.frozen? ⟨R0, j, none⟩ = false := fun j => by simp [World.frozen?, hR.out]
      obtain ⟨nb, hnb⟩ : ∃ nb, (allB Q1).length + 1 = nb := ⟨_, rfl⟩
      rw [hnb] at k1
      have hnb0 := Hid.mk' hnb
      clear hnb
      have hb := Hid.mk' (block_set (block_set hR.out 0 (.slice (some ⟨c, 0, none⟩) nc nc)) 1 (.slice bo nb bcap))
      have hgS := Hid.mk' (grownBy_trans (grownBy_setCell wr ⟨R0, 0, none⟩ (.slice (some ⟨c, 0, none⟩) nc nc)) (grownBy_setCell _ ⟨R0, 1, none⟩ (.slice bo nb bcap)))
      go_wp2_with fail
      refine bodyPost_ret (v := .agg #[.slice (some ⟨c, 0, none⟩) nc nc, .slice bo nb bcap]) (results_cell_row Try.results20 _ _ R0 55 _ (0, 0) _ rfl hb.out Try.underlying55 rfl (by kernel_rfl)) rfl ⟨some ⟨c, 0, none⟩, nc, bo, nb, bcap, rfl, ⟨C, ?_⟩, ?_⟩
      · obtain ⟨s1, s2, s3, s4, s5, s6, s7⟩ := hN.out.sep
        have hlt1 := lt_of_block hr0.out
        have hne1 : blk bo ≠ some R0 := fun e => by have := s7 R0 e; omega
        have hne2 : some c ≠ some R0 := fun e => by have := Option.some.inj e; omega
        rw [← hNQ.out]
        refine ⟨own_same hN.out.con (fun g hg => by have : c = g := Option.some.inj hg; rw [← this]; exact hgS.out.block c (hN.out.con.lt rfl) hne2), hN.out.clen, own_same hN.out.ks.own (fun g hg => hgS.out.block g (hN.out.ks.own.lt hg) (fun e => hne1 (by rw [hg, e]))), hnb0.out.symm, hN.out.leads, hnc1, by rw [hNQ.out]; exact hall.out⟩
      · exact grownBy_new (grownBy_trans hg1.out hN.out.gr) hgS.out (fun k hk => by have h5 : R0 = k := Option.some.inj hk; have := hRw.out; omega)
    | cons q R =>
      have hlp : 0 < len := by rw [← hQ2.out]; simp
      have hlp' : (0 : Int) < (len : Int) := by omega
      have hsub : Hid (∀ x ∈ q :: R, x ∈ Q) := Hid.mk' (fun x hx => by rw [← hN.out.split]; exact List.mem_append_right _ hx)
      have haQ : Hid (Asc (q :: R)) := Hid.mk' (by have h1 := ha0.out; rw [← hN.out.split] at h1; exact (List.pairwise_append.1 h1).2.1)
      obtain ⟨p1, p2⟩ : 0 ≤ q.1 ∧ q.1 ≤ 16777215 := (hr0'.out q (hsub.out q (by simp))).1
      obtain ⟨m, hm⟩ : ∃ m, Hid (runL q.1 (q :: R) = m) := ⟨_, Hid.mk' rfl⟩
      obtain ⟨t1, t2, t3, t4⟩ := run_parts rfl haQ.out
      rw [hm.out] at t1 t2 t3 t4
      rw [hQ2.out] at t3
      have t10 := Hid.mk' t1
      have t40 := Hid.mk' t4
      obtain ⟨k0, hk0⟩ : ∃ k0 : Nat, q.1 / 64 = (k0 : Int) := ⟨(q.1 / 64).toNat, by omega⟩
      have hk0n : k0 < nc := by have := hall.out q (hsub.out q (by simp)); omega
      have htq : q.1.tdiv 64 = (k0 : Int) := by rw [Int.tdiv_eq_ediv_of_nonneg p1, hk0]
      have hk0' := Hid.mk' hk0
      have hRw1 := Hid.mk' (hRd.out.kept0 hN.out.gr)
      obtain ⟨b', o', e', hb', x0, x1⟩ := ecells (i := 0) hRw1.out (by simp) (c := q.1) (u := q.2) rfl
      cases e'
      simp only [Nat.zero_mul, Nat.add_zero] at x0 x1
      have hone := Hid.mk' (inOne_any (q :: R) len cap b0 o hQ2.out hlp hlen wr hRw1.out hlc (by omega) (fun x hx => (hr0'.out x (hsub.out x hx)).1) q.1 x0 p1 p2 m hm.out)
      obtain ⟨qa, qb⟩ := q
      simp only at p1 p2 htq x0 x1 hk0
      clear t1 t4 hk0
      go_upto_region 8 with (go_at_call 36; refine hone.out.mono ?_; rintro e w2 ⟨rfl, hg2⟩)
      have hg20 := Hid.mk' hg2
      have hN2gr : Hid (w1.grownBy w2 none) := Hid.mk' (grownBy_trans hN.out.gr hg2)
      have hks2 := Hid.mk' (hN.out.ks.same hg2)
      have z0 : w2.cell? ⟨b0, o, none⟩ = some (.int .i64 qa) := hg2.cell x0 (by simp)
      have z1 := cell_at hks2.out.side 0 (v := .slice (some ⟨c, 0, none⟩) nc nc) rfl
      have hrd2 := Hid.mk' (erd_take (hRw1.out.kept0 hg2) m)
      have hwf : Hid (wfB (conB (((qa, qb) :: R).take m))) := Hid.mk' (wf_con (fun x hx => (hr0'.out x (hsub.out x (List.mem_of_mem_take hx))).2))
      have hcon := Hid.mk' (content_any (some ⟨b0, o, none⟩) cap (((qa, qb) :: R).take m) m (by rw [List.length_take, hQ2.out]; omega) (by omega) w2.drew hrd2.out (by omega) (by omega) (fun x hx => ⟨(hr0'.out x (hsub.out x (List.mem_of_mem_take hx))).1.1, (hr0'.out x (hsub.out x (List.mem_of_mem_take hx))).2⟩))
      have hsm := Hid.mk' hN.out.small
      have hspl : Hid (Q1.length ≤ 65536) := Hid.mk' (by have := congrArg List.length hN.out.split; rw [List.length_append, hn0.out] at this; omega)
      have hnl := Hid.mk' hN.out.nle
      have hb0w : Hid (b0 < w1.heap.size) := hbb1
      have q1 : (m : Int) ≤ (cap : Int) := by omega
      have q2 : (0 : Int) ≤ (m : Int) := by omega
      have q3 : (k0 : Int) < (nc : Int) := by omega
      have q4 : (0 : Int) ≤ (k0 : Int) := by omega
      have q5 : m ≤ cap := by omega
      have hwk : IntKind.i64.wrap (k0 : Int) = (k0 : Int) := by rw [IntKind.wrap_i64]; omega
      clear x0 x1 hb' hone hg2
      go_region_held3 (fun w' => w'.cell? ⟨Sb, 0, none⟩ = some (.slice (some ⟨c, 0, none⟩) nc nc) ∧ w'.cell? ⟨b0, o, none⟩ = some (.int .i64 qa)) (first | assumption | exact ⟨z1, z0⟩ | exact ⟨by assumption, by assumption⟩ | exact ⟨v5 _, v6 _⟩ | go_keep) (first
        | (go_at_call 38; refine hcon.out.mono ?_; rintro e w4 ⟨rfl, hg4⟩; have y1 : w4.cell? ⟨Sb, 0, none⟩ = some (.slice (some ⟨c, 0, none⟩) nc nc) := (grownBy_of_drew hg4).cell z1 (by simp); have y2 : w4.cell? ⟨b0, o, none⟩ = some (.int .i64 qa) := (grownBy_of_drew hg4).cell z0 (by simp))
        | (go_at_call 37; refine (keep_any Sb M _ bo bcap (allB Q1) n (by have := hspl.out; have := hnl.out; omega) (by have := hspl.out; have := hsm.out; omega) (conB (((qa, qb) :: R).take m)) hwf.out w4 (hks2.out.same (grownBy_of_drew hg4))).mono ?_; rintro e w5 ⟨ix, rfl, hix, bo', cap', n', hn', hK5, hat5, hC5⟩; have v1 : w5.cell? ⟨Sb, 0, none⟩ = some (.slice (some ⟨c, 0, none⟩) nc nc) := cell_at hK5.side 0 rfl; have v2 : w5.cell? ⟨b0, o, none⟩ = some (.int .i64 qa) := chg_cell hC5 y2 (sepB hN.out hb0w.out); obtain ⟨⟨v3, v3'⟩, v4⟩ := chg_con hC5 hN.out (grownBy_trans hg20.out (grownBy_of_drew hg4)) hk0n; have v5 := cell_other (c := c) (k := k0) v1 (sepC hN.out).1; have v6 := cell_other (c := c) (k := k0) v2 ((sepC hN.out).2 b0 hb0w.out); have hix0 := Hid.mk' hix; clear hix))
      have hNx := Hid.mk' (NSt.step hN.out rfl haQ.out hm.out hk0'.out hk0n (grownBy_trans hg20.out (grownBy_of_drew hg4)) hix0.out hn' hK5 hat5 hC5)
      have hRx : Hid (EE.Rd w1 (some ⟨b0, o + m * 2, none⟩) (((qa, qb) :: R).drop m)) := Hid.mk' (erd_drop hRd.out m (by rw [hQ2.out]; exact t3))
      have hLx : Hid ((((qa, qb) :: R).drop m).length = len - m) := Hid.mk' (by rw [List.length_drop, hQ2.out])
      clear hN hks2 hK5 hat5 hC5 hix0 hg4 y1 y2 v1 v2 v3' v4 v5 v6 z0 z1 hcon hrd2 hN2gr hRw1
      generalize w5.setCell ⟨c, k0, none⟩ (.int .i32 ix) = w6 at *
      have q6 : (m : Int) ≤ (len : Int) := by omega
      have q7 : m ≤ len := by omega
      by_cases hcm2 : cap = m
      · subst hcm2
        obtain rfl : len = cap := by omega
        have hnil : Hid (((qa, qb) :: R).drop len = []) := Hid.mk' (List.length_eq_zero_iff.1 (by rw [hLx.out]; omega))
        go_wp2_with fail
        go_roundw
        case rel => exact ⟨o, len - len, len - len, cap', n', bo', _, _, ((qa, qb) :: R).drop len, by simp, by omega, by omega, by omega, hLx, Hid.mk' (by rw [hnil.out]; exact Elem.Rd.nil w1 _), hNx⟩
        case measure => simp [lenS]; omega
      · have q8 : ¬ (cap : Int) = (m : Int) := by omega
        go_wp2_with fail
        go_roundw
        case rel => exact ⟨o + m * 2, len - m, cap - m, cap', n', bo', _, _, ((qa, qb) :: R).drop m, rfl, by omega, by omega, by omega, hLx, hRx, hNx⟩
        case measure => simp [lenS]; omega
end Go.Proofs.Ytcoiddmgcoeocaa.Tr

/- keep: a walk. -/
import Derived.Test.YtcoiddmgcoeocaaKp
namespace Go.Proofs.Ytcoiddmgcoeocaa.Tr
open Go.ChangeShapes Go.WideShapes Go.ChangeAt Go.RowKit Go.Maps Go.Proofs.Ytcoiddmgcoeocaa.Mem Go.Proofs.Ytcoiddmgcoeocaa.El Go.Sort Go.Proofs.Ytcoiddmgcoeocaa.Rn
set_option linter.unusedVariables false
set_option linter.unusedSimpArgs false

/-- The side under way: its block, the row of blocks, the map. -/
structure KS (w : World) (Sb M : Nat) (cv : Value) (bo : Option Addr) (cap : Nat) (N : List BL) (n : Nat) : Prop where
  side : w.heap[Sb]? = some (.cells #[cv, .slice bo (N.length + 1) cap] 55 (0, 0))
  own : BE.Own w bo cap (zB :: N)
  known : Known w M N n
  wf : ∀ z ∈ N, wfB z
  ne : blk bo ≠ some Sb ∧ blk bo ≠ some M ∧ Sb ≠ M
theorem KS.same {w w' : World} {Sb M : Nat} {cv : Value} {bo : Option Addr} {cap : Nat} {N : List BL} {n : Nat} (h : KS w Sb M cv bo cap N n) (hg : w.grownBy w' none) : KS w' Sb M cv bo cap N n :=
  ⟨blk_kept h.side hg, h.own.kept0 hg, h.known.kept0 hg, h.wf, h.ne⟩

set_option maxRecDepth 100000 in
set_option maxHeartbeats 2000000 in
theorem keep_old (Sb M : Nat) (cv : Value) (bo : Option Addr) (cap : Nat) (N : List BL) (n : Nat) (zs : BL) (hz : wfB zs) (hm : zs ∈ N) (w : World) (h : KS w Sb M cv bo cap N n) :
    Calls Try.prog 37 #[.pointer (some ⟨Sb, 0, none⟩), arrV .i32 zs.1, .map (some M)] w fun e w' => e = .returned (.int .i32 ((N.idxOf zs : Int) + 1)) ∧ w.grownBy w' none := by
  have h0 := Hid.mk' h
  clear h
  have hd : decide (zs ∈ N) = true := decide_eq_true hm
  go_enter Try.func37, Try.ntmps37
  go_upto_region 1 with (refine wpList_boxA _ rfl 81 _ rfl zs.1 rfl ?_; intro w1 ha1 hg1)
  obtain ⟨v, hl, hv⟩ := known_look (h0.out.known.kept0 hg1) h0.out.wf zs hz
  rw [hd] at hl
  have hv0 := Hid.mk' (hv hm)
  clear hv hd
  go_wp2_with (refine wpList_loadA _ rfl 81 _ rfl 64 _ Try.underlying81 infoT w.heap.size zs.1 zs.2 rfl ha1 ?_)
  go_ret
  exact ⟨by rw [← hv0.out]; rfl, hg1⟩

set_option maxRecDepth 100000 in
set_option maxHeartbeats 4000000 in
theorem keep_new (Sb M : Nat) (cv : Value) (bo : Option Addr) (cap : Nat) (N : List BL) (n : Nat) (hn : n ≤ 100000) (hNl : N.length ≤ 100000) (zs : BL) (hz : wfB zs) (hm : zs ∉ N) (w : World) (h : KS w Sb M cv bo cap N n) :
    Calls Try.prog 37 #[.pointer (some ⟨Sb, 0, none⟩), arrV .i32 zs.1, .map (some M)] w fun e w' => e = .returned (.int .i32 ((N.length : Int) + 1)) ∧ ∃ bo' cap', KS w' Sb M cv bo' cap' (N ++ [zs]) (n + 1) ∧ (bo' = bo ∨ ∃ g, bo' = some ⟨g, 0, none⟩ ∧ w.heap.size ≤ g) ∧ Chg w w' (fun k => k = Sb ∨ k = M ∨ some k = blk bo) := by
  have h0 := Hid.mk' h
  clear h
  have hd : decide (zs ∈ N) = false := decide_eq_false hm
  have hSlt := Hid.mk' (lt_of_block h0.out.side)
  go_enter Try.func37, Try.ntmps37
  go_upto_region 1 with (refine wpList_boxA _ rfl 81 _ rfl zs.1 rfl ?_; intro w1 ha1 hg1)
  have h1 := Hid.mk' (h0.out.same hg1)
  obtain ⟨v, hl, hv⟩ := known_look h1.out.known h1.out.wf zs hz
  rw [hd] at hl
  have l0 := cell_at h1.out.side 1 (v := .slice bo (N.length + 1) cap) rfl
  obtain ⟨nl, hnl⟩ : ∃ nl, N.length + 1 = nl := ⟨_, rfl⟩
  have hnl0 := Hid.mk' hnl
  rw [hnl] at l0
  have hw : IntKind.i32.wrap (nl : Int) = (nl : Int) := by rw [IntKind.wrap_i32]; omega
  obtain ⟨B, hBq⟩ : ∃ B, Hid (w.heap.size = B) := ⟨_, Hid.mk' rfl⟩
  rw [hBq.out] at ha1 ⊢
  have hBS : Hid (B ≠ Sb) := Hid.mk' (by have := hSlt.out; have h2 := hBq.out; omega)
  have hMlt := Hid.mk' h0.out.known.lt
  clear hv hd hnl
  go_upto_region 4 with (refine wpList_loadA _ rfl 81 _ rfl 64 _ Try.underlying81 infoT B zs.1 zs.2 rfl ha1 ?_)
  obtain ⟨w2, hput, hk2, hg2⟩ := known_put h1.out.known (by omega) h1.out.wf zs hz hm (nl : Int) (by have := hnl0.out; omega)
  have hne := h1.out.ne
  have ha2 := ha1.kept hg2 (by intro e; have h2 := Option.some.inj e; have := hMlt.out; have := hBq.out; omega)
  have hs2 : w2.heap[Sb]? = some (.cells #[cv, .slice bo nl cap] 55 (0, 0)) := by rw [hg2.block Sb (lt_of_block h1.out.side) (by intro e; exact hne.2.2 (Option.some.inj e)), h1.out.side, hnl0.out]
  have ho2 : BE.Own w2 bo cap (zB :: N) := h1.out.own.kept hg2 (.inr hne.2.1)
  go_upto_region 5 with (refine wpList_loadA _ rfl 81 _ rfl 64 _ Try.underlying81 infoT B zs.1 zs.2 rfl ha1 ?_)
  have l1 : w2.drew.cell? ⟨Sb, 1, none⟩ = some (.slice bo nl cap) := cell_at hs2 1 rfl
  have l1' : w2.cell? ⟨Sb, 1, none⟩ = some (.slice bo nl cap) := cell_at hs2 1 rfl
  have hSb2 : Sb < w2.heap.size := lt_of_block hs2
  have l2 : (w2.alloc (.cells (zs.1.map (Value.int .i32)).toArray 81)).cell? ⟨Sb, 1, none⟩ = some (.slice bo nl cap) := (World.grownBy_alloc w2 _ none).cell l1' (by simp)
  have hBx : Hid (ArrAt w2.drew B 81 .i32 zs.1) := Hid.mk' ha2
  obtain ⟨bo', cap', w3, hap, ho3, hg3, hat⟩ := app_block (w := w2.drew.alloc (.cells (zs.1.map (Value.int .i32)).toArray 81)) (Bs := zB :: N) (Elem.Own.alloc (w := w2.drew) ho2 _) zs w2.drew.heap.size (heap_alloc_new w2.drew _) (by rw [List.length_cons]; omega) 53
  rw [List.length_cons, hnl0.out] at hap
  have hnl2 : (zB :: N ++ [zs]).length = nl + 1 := by rw [List.length_append, List.length_cons, hnl0.out]; rfl
  rw [hnl2] at hap
  have hs3 : w3.heap[Sb]? = some (.cells #[cv, .slice bo nl cap] 55 (0, 0)) := by
    rw [hg3.block Sb (by have := lt_of_block hs2; simp; omega) (fun e => hne.1 e.symm)]
    exact (heap_alloc_old w2.drew _ (lt_of_block hs2)).trans hs2
  have k1 := cell_at hs3 1 (v := .slice bo nl cap) rfl
  have f1 : w3.frozen? ⟨Sb, 1, none⟩ = false := by simp [World.frozen?, hs3]
  have hbSne : blk bo' ≠ some Sb := by
    rcases hat with rfl | rfl
    · exact hne.1
    · intro e
      have := Option.some.inj e
      have h5 := lt_of_block hs2
      simp at this
      omega
  have hbMne : blk bo' ≠ some M := by
    rcases hat with rfl | rfl
    · exact hne.2.1
    · intro e
      have := Option.some.inj e
      have h5 := hk2.lt
      simp at this
      omega
  have hfin : Hid (KS (w3.setCell ⟨Sb, 1, none⟩ (.slice bo' (nl + 1) cap')) Sb M cv bo' cap' (N ++ [zs]) (n + 1)) := Hid.mk' (by
    have hgS := grownBy_setCell w3 ⟨Sb, 1, none⟩ (.slice bo' (nl + 1) cap')
    refine ⟨?_, ?_, ?_, ?_, hbSne, hbMne, hne.2.2⟩
    · have := block_set hs3 1 (.slice bo' (nl + 1) cap')
      rw [this]
      simp [List.length_append, hnl0.out]
    · exact own_same ho3 (fun g hg => hgS.block g (ho3.lt hg) (fun e => hbSne (by rw [hg, e])))
    · have m1 : w3.heap[M]? = w2.heap[M]? := by
        rw [hg3.block M (by have := hk2.lt; simp; omega) (fun e => hne.2.1 e.symm)]
        exact heap_alloc_old w2.drew _ hk2.lt
      refine hk2.same ?_
      rw [hgS.block M (by have := hk2.lt; have h7 := hg3.size; simp at h7; omega) (fun e => hne.2.2 (Option.some.inj e).symm), m1]
    · intro z hz'
      rcases List.mem_append.1 hz' with h | h
      · exact h1.out.wf z h
      · rw [List.mem_singleton.1 h]; exact hz)
  have hchg : Hid (Chg w (w3.setCell ⟨Sb, 1, none⟩ (.slice bo' (nl + 1) cap')) (fun k => k = Sb ∨ k = M ∨ some k = blk bo)) := Hid.mk' (by
    refine (Chg.of (row := none) hg1 (by simp)).trans ?_
    refine (Chg.of hg2 (fun k hk => .inr (.inl (Option.some.inj hk).symm))).trans ?_
    refine (Chg.of (row := none) (w' := w2.drew.alloc (.cells (zs.1.map (Value.int .i32)).toArray 81)) (grownBy_of_drew (World.grownBy_alloc w2.drew _ none)) (by simp)).trans ?_
    refine (Chg.of hg3 (fun k hk => .inr (.inr hk.symm))).trans ?_
    exact Chg.of (grownBy_setCell w3 ⟨Sb, 1, none⟩ _) (fun k hk => .inl (Option.some.inj hk).symm))
  have hwhere : Hid (bo' = bo ∨ ∃ g, bo' = some ⟨g, 0, none⟩ ∧ w.heap.size ≤ g) := Hid.mk' (by
    rcases hat with h | h
    · exact .inl h
    · refine .inr ⟨_, h, ?_⟩
      have a1 := hg1.size
      have a2 := hg2.size
      simp
      omega)
  clear hat hbSne hbMne ho3 hg3 hs3 hs2 ho2 ha2 hput hk2 hg2 hl hne
  refine wp_region_held_drew (S := fun _ => True) (by kernel_rfl) trivial (fun hHeld => ?_)
  refine wpAnyH_take (i := 0) (v := ?_) rfl (by kernel_rfl) (by kernel_rfl) (by kernel_rfl) (fun _ _ _ h => h) (Or.inl ⟨by rfl, ?_⟩) (by assumption) ?_; rotate_left
  · (intro w hSw; (try dsimp only at hSw); go_simp; try with_reducible rfl)
  try simp only [List.getElem_toArray, List.getElem_cons_zero, Act.put, List.setIfInBounds_toArray, List.set_cons_zero, List.set_cons_succ]
  refine wpAnyH_take (i := 1) (v := ?_) rfl (by kernel_rfl) (by kernel_rfl) (by kernel_rfl) (fun _ _ _ h => h) (Or.inl ⟨by rfl, ?_⟩) (by assumption) ?_; rotate_left
  · (intro w hSw; (try dsimp only at hSw); go_simp; try with_reducible rfl)
  try simp only [List.getElem_toArray, List.getElem_cons_zero, List.getElem_cons_succ, Act.put, List.setIfInBounds_toArray, List.set_cons_zero, List.set_cons_succ]
  refine wpAnyH_take (i := 2) (v := ?_) rfl (by kernel_rfl) (by kernel_rfl) (by kernel_rfl) (fun _ _ _ h => h) (Or.inl ⟨by rfl, ?_⟩) (by assumption) ?_; rotate_left
  · (intro w hSw; (try dsimp only at hSw); go_simp; try with_reducible rfl)
  try simp only [List.getElem_toArray, List.getElem_cons_zero, List.getElem_cons_succ, Act.put, List.setIfInBounds_toArray, List.set_cons_zero, List.set_cons_succ]
  refine wpAnyH_take (i := 3) (v := ?_) rfl (by kernel_rfl) (by kernel_rfl) (by kernel_rfl) (fun _ _ _ h => h) (Or.inl ⟨by rfl, ?_⟩) (by assumption) ?_; rotate_left
  · (intro w hSw; (try dsimp only at hSw); go_simp; try with_reducible rfl)
  try simp only [List.getElem_toArray, List.getElem_cons_zero, List.getElem_cons_succ, Act.put, List.setIfInBounds_toArray, List.set_cons_zero, List.set_cons_succ]
  refine wpAnyH_ready (rs := [4, 5]) (by kernel_rfl) (by simp) ?_
  refine AllReadyH.cons rfl (fun K hK => ?_) (AllReadyH.cons rfl (fun K hK => ?_) AllReadyH.nil)
  · go_simp
    refine hK.out _ _ trivial (fun hHeld => ?_)
    clear hK K
    try simp only [List.getElem_toArray, List.getElem_cons_zero, List.getElem_cons_succ, Act.put, List.setIfInBounds_toArray, List.set_cons_zero, List.set_cons_succ]
    refine wpAnyH_ready (rs := [5]) (by kernel_rfl) (by simp) ?_
    refine AllReadyH.cons rfl (fun K hK => ?_) AllReadyH.nil
    refine step_run (by rfl) (exec_loadA 81 _ rfl 64 _ Try.underlying81 infoT B zs.1 zs.2 rfl hBx.out) ?_
    refine hK.out _ _ trivial (fun hHeld => ?_)
    clear hK K
    try simp only [List.getElem_toArray, List.getElem_cons_zero, List.getElem_cons_succ, Act.put, List.setIfInBounds_toArray, List.set_cons_zero, List.set_cons_succ]
    refine wpAnyH_ready (rs := [6]) (by kernel_rfl) (by simp) ?_
    refine AllReadyH.cons rfl (fun K hK => ?_) AllReadyH.nil
    refine step_run (by rfl) (exec_oneB 53 _ rfl zs.1 zs.2 rfl) ?_
    refine hK.out _ _ trivial (fun hHeld => ?_)
    clear hK K
    try simp only [List.getElem_toArray, List.getElem_cons_zero, List.getElem_cons_succ, Act.put, List.setIfInBounds_toArray, List.set_cons_zero, List.set_cons_succ]
    refine wpAnyH_ready (rs := [7]) (by kernel_rfl) (by simp) ?_
    refine AllReadyH.cons rfl (fun K hK => ?_) AllReadyH.nil
    refine step_run (by rfl) (exec_append _ _ _ _ rfl rfl rfl hap) ?_
    refine hK.out _ _ trivial (fun hHeld => ?_)
    clear hK K
    try simp only [List.getElem_toArray, List.getElem_cons_zero, List.getElem_cons_succ, Act.put, List.setIfInBounds_toArray, List.set_cons_zero, List.set_cons_succ]
    refine wpAnyH_take (i := 8) (v := ?_) rfl (by kernel_rfl) (by kernel_rfl) (by kernel_rfl) (fun _ _ _ h => h) (Or.inl ⟨by rfl, ?_⟩) (by assumption) ?_; rotate_left
    · (intro w hSw; (try dsimp only at hSw); go_simp; try with_reducible rfl)
    try simp only [List.getElem_toArray, List.getElem_cons_zero, List.getElem_cons_succ, Act.put, List.setIfInBounds_toArray, List.set_cons_zero, List.set_cons_succ]
    refine wpAnyH_take (i := 9) (v := ?_) rfl (by kernel_rfl) (by kernel_rfl) (by kernel_rfl) (fun _ _ _ h => h) (Or.inl ⟨by rfl, ?_⟩) (by assumption) ?_; rotate_left
    · (intro w hSw; (try dsimp only at hSw); go_simp; try with_reducible rfl)
    try simp only [List.getElem_toArray, List.getElem_cons_zero, List.getElem_cons_succ, Act.put, List.setIfInBounds_toArray, List.set_cons_zero, List.set_cons_succ]
    refine wpAnyH_ready (rs := [10]) (by kernel_rfl) (by simp) ?_
    refine AllReadyH.cons rfl (fun K hK => ?_) AllReadyH.nil
    go_simp
    refine hK.out _ _ trivial (fun hHeld => ?_)
    clear hK K
    try simp only [List.getElem_toArray, List.getElem_cons_zero, List.getElem_cons_succ, Act.put, List.setIfInBounds_toArray, List.set_cons_zero, List.set_cons_succ]
    refine wpAnyH_done (by kernel_rfl) ?_ _
    go_wp2_with fail
    go_ret
    refine ⟨?_, bo', cap', hfin.out, hwhere.out, hchg.out⟩
    rw [← hnl0.out]
    rfl
  · refine step_run (by rfl) (exec_loadA 81 _ rfl 64 _ Try.underlying81 infoT B zs.1 zs.2 rfl hBx.out) ?_
    refine hK.out _ _ trivial (fun hHeld => ?_)
    clear hK K
    try simp only [List.getElem_toArray, List.getElem_cons_zero, List.getElem_cons_succ, Act.put, List.setIfInBounds_toArray, List.set_cons_zero, List.set_cons_succ]
    refine wpAnyH_ready (rs := [4, 6]) (by kernel_rfl) (by simp) ?_
    refine AllReadyH.cons rfl (fun K hK => ?_) (AllReadyH.cons rfl (fun K hK => ?_) AllReadyH.nil)
    · go_simp
      refine hK.out _ _ trivial (fun hHeld => ?_)
      clear hK K
      try simp only [List.getElem_toArray, List.getElem_cons_zero, List.getElem_cons_succ, Act.put, List.setIfInBounds_toArray, List.set_cons_zero, List.set_cons_succ]
      refine wpAnyH_ready (rs := [6]) (by kernel_rfl) (by simp) ?_
      refine AllReadyH.cons rfl (fun K hK => ?_) AllReadyH.nil
      refine step_run (by rfl) (exec_oneB 53 _ rfl zs.1 zs.2 rfl) ?_
      refine hK.out _ _ trivial (fun hHeld => ?_)
      clear hK K
      try simp only [List.getElem_toArray, List.getElem_cons_zero, List.getElem_cons_succ, Act.put, List.setIfInBounds_toArray, List.set_cons_zero, List.set_cons_succ]
      refine wpAnyH_ready (rs := [7]) (by kernel_rfl) (by simp) ?_
      refine AllReadyH.cons rfl (fun K hK => ?_) AllReadyH.nil
      refine step_run (by rfl) (exec_append _ _ _ _ rfl rfl rfl hap) ?_
      refine hK.out _ _ trivial (fun hHeld => ?_)
      clear hK K
      try simp only [List.getElem_toArray, List.getElem_cons_zero, List.getElem_cons_succ, Act.put, List.setIfInBounds_toArray, List.set_cons_zero, List.set_cons_succ]
      refine wpAnyH_take (i := 8) (v := ?_) rfl (by kernel_rfl) (by kernel_rfl) (by kernel_rfl) (fun _ _ _ h => h) (Or.inl ⟨by rfl, ?_⟩) (by assumption) ?_; rotate_left
      · (intro w hSw; (try dsimp only at hSw); go_simp; try with_reducible rfl)
      try simp only [List.getElem_toArray, List.getElem_cons_zero, List.getElem_cons_succ, Act.put, List.setIfInBounds_toArray, List.set_cons_zero, List.set_cons_succ]
      refine wpAnyH_take (i := 9) (v := ?_) rfl (by kernel_rfl) (by kernel_rfl) (by kernel_rfl) (fun _ _ _ h => h) (Or.inl ⟨by rfl, ?_⟩) (by assumption) ?_; rotate_left
      · (intro w hSw; (try dsimp only at hSw); go_simp; try with_reducible rfl)
      try simp only [List.getElem_toArray, List.getElem_cons_zero, List.getElem_cons_succ, Act.put, List.setIfInBounds_toArray, List.set_cons_zero, List.set_cons_succ]
      refine wpAnyH_ready (rs := [10]) (by kernel_rfl) (by simp) ?_
      refine AllReadyH.cons rfl (fun K hK => ?_) AllReadyH.nil
      go_simp
      refine hK.out _ _ trivial (fun hHeld => ?_)
      clear hK K
      try simp only [List.getElem_toArray, List.getElem_cons_zero, List.getElem_cons_succ, Act.put, List.setIfInBounds_toArray, List.set_cons_zero, List.set_cons_succ]
      refine wpAnyH_done (by kernel_rfl) ?_ _
      go_wp2_with fail
      go_ret
      refine ⟨?_, bo', cap', hfin.out, hwhere.out, hchg.out⟩
      rw [← hnl0.out]
      rfl
    · refine step_run (by rfl) (exec_oneB 53 _ rfl zs.1 zs.2 rfl) ?_
      refine hK.out _ _ trivial (fun hHeld => ?_)
      clear hK K
      try simp only [List.getElem_toArray, List.getElem_cons_zero, List.getElem_cons_succ, Act.put, List.setIfInBounds_toArray, List.set_cons_zero, List.set_cons_succ]
      refine wpAnyH_ready (rs := [4]) (by kernel_rfl) (by simp) ?_
      refine AllReadyH.cons rfl (fun K hK => ?_) AllReadyH.nil
      go_simp
      refine hK.out _ _ trivial (fun hHeld => ?_)
      clear hK K
      try simp only [List.getElem_toArray, List.getElem_cons_zero, List.getElem_cons_succ, Act.put, List.setIfInBounds_toArray, List.set_cons_zero, List.set_cons_succ]
      refine wpAnyH_ready (rs := [7]) (by kernel_rfl) (by simp) ?_
      refine AllReadyH.cons rfl (fun K hK => ?_) AllReadyH.nil
      refine step_run (by rfl) (exec_append _ _ _ _ rfl rfl rfl hap) ?_
      refine hK.out _ _ trivial (fun hHeld => ?_)
      clear hK K
      try simp only [List.getElem_toArray, List.getElem_cons_zero, List.getElem_cons_succ, Act.put, List.setIfInBounds_toArray, List.set_cons_zero, List.set_cons_succ]
      refine wpAnyH_take (i := 8) (v := ?_) rfl (by kernel_rfl) (by kernel_rfl) (by kernel_rfl) (fun _ _ _ h => h) (Or.inl ⟨by rfl, ?_⟩) (by assumption) ?_; rotate_left
      · (intro w hSw; (try dsimp only at hSw); go_simp; try with_reducible rfl)
      try simp only [List.getElem_toArray, List.getElem_cons_zero, List.getElem_cons_succ, Act.put, List.setIfInBounds_toArray, List.set_cons_zero, List.set_cons_succ]
      refine wpAnyH_take (i := 9) (v := ?_) rfl (by kernel_rfl) (by kernel_rfl) (by kernel_rfl) (fun _ _ _ h => h) (Or.inl ⟨by rfl, ?_⟩) (by assumption) ?_; rotate_left
      · (intro w hSw; (try dsimp only at hSw); go_simp; try with_reducible rfl)
      try simp only [List.getElem_toArray, List.getElem_cons_zero, List.getElem_cons_succ, Act.put, List.setIfInBounds_toArray, List.set_cons_zero, List.set_cons_succ]
      refine wpAnyH_ready (rs := [10]) (by kernel_rfl) (by simp) ?_
      refine AllReadyH.cons rfl (fun K hK => ?_) AllReadyH.nil
      go_simp
      refine hK.out _ _ trivial (fun hHeld => ?_)
      clear hK K
      try simp only [List.getElem_toArray, List.getElem_cons_zero, List.getElem_cons_succ, Act.put, List.setIfInBounds_toArray, List.set_cons_zero, List.set_cons_succ]
      refine wpAnyH_done (by kernel_rfl) ?_ _
      go_wp2_with fail
      go_ret
      refine ⟨?_, bo', cap', hfin.out, hwhere.out, hchg.out⟩
      rw [← hnl0.out]
      rfl
end Go.Proofs.Ytcoiddmgcoeocaa.Tr

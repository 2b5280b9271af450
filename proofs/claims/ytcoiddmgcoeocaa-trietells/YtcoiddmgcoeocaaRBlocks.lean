/- The document's Blocks: a walk. -/
import Derived.Test.YtcoiddmgcoeocaaSt2
namespace Go.Proofs.Ytcoiddmgcoeocaa.Tr
open Go.ChangeShapes Go.WideShapes Go.ChangeAt Go.RowKit Go.Maps Go.Proofs.Ytcoiddmgcoeocaa.Mem Go.Proofs.Ytcoiddmgcoeocaa.Ucs Go.Proofs.Ytcoiddmgcoeocaa.El
set_option linter.unusedVariables false
set_option linter.unusedSimpArgs false

abbrev made3 (w : World) : World := ((w.alloc (.map #[] 0)).alloc (.map #[] 0)).alloc (.map #[] 0)
theorem st_made (w : World) : StB w (made3 w) w.heap.size (w.heap.size + 1) (w.heap.size + 1 + 1) none none 0 0 [] [] (FT (TX [])) (FT (TX [])) (FR []) 0 0 0 := by
  have e1 : (w.alloc (.map #[] 0)).heap.size = w.heap.size + 1 := by simp
  have e2 : ((w.alloc (.map #[] 0)).alloc (.map #[] 0)).heap.size = w.heap.size + 1 + 1 := by simp
  have g1 : ∀ x : World, x.grownBy (x.alloc (.map #[] 0)) none := fun x => World.grownBy_alloc x _ none
  have a1 := ((MF.made w 3 9 eStr).kept0 (g1 _)).kept0 (g1 _)
  have a2 := (MF.made (w.alloc (.map #[] 0)) 3 9 eStr).kept0 (g1 _)
  have a3 := MF.made ((w.alloc (.map #[] 0)).alloc (.map #[] 0)) 21 4 eBool
  rw [e1] at a2
  rw [e2] at a3
  refine ⟨by rw [FT_none]; exact a1, by rw [FT_none]; exact a2, by rw [FR_none]; exact a3, .inl ⟨rfl, rfl, rfl⟩, .inl ⟨rfl, rfl, rfl⟩, grownBy_trans (g1 _) (grownBy_trans (g1 _) (g1 _)), by omega, by omega, by omega, by omega, by omega, by omega, (by intro g e; cases e), (by intro g e; cases e)⟩

set_option maxRecDepth 100000 in
set_option maxHeartbeats 1000000 in
theorem blocks_any (ao0 : Option Addr) (cap0 : Nat) (P : List Pr) (w : World) (hR : PE.Rd w ao0 P) (hl : P.length ≤ 65536) (hc : P.length ≤ cap0) (hcm : cap0 ≤ 9223372036854775807) (hok : ∀ p ∈ P, (0 ≤ p.1 ∧ p.1 ≤ 16777215) ∧ 0 ≤ p.2 ∧ p.2 ≤ 1114111)
    (A B : Nat) (hA : Hid (blocksN P = A)) (hB : Hid (blocksN ((msort (firsts P)).map (fun p => (p.2, p.1))) = B)) :
    Calls Try.prog 15 #[.slice ao0 P.length cap0] w fun e w' => e = .returned (.tuple #[.int .i64 (A : Int), .int .i64 (B : Int)]) ∧ w.grownBy w' none := by
  have hR0 := Hid.mk' hR
  have hok0 := Hid.mk' hok
  have hst0 := Hid.mk' (st_made w)
  clear hR hok
  have hmm := @run_makeMap Try.prog
  go_enter Try.func15, Try.ntmps15
  go_wp2_with fail
  obtain ⟨m1, hm1⟩ : ∃ m1, Hid (w.heap.size = m1) := ⟨_, Hid.mk' rfl⟩
  rw [hm1.out] at hst0 ⊢
  clear hmm
  go_loopw [7, 9, 10] (fun t7 t9 t10 wx => ∃ (i : Nat) (ao po : Option Addr) (ac pc : Nat), i ≤ P.length ∧ t10 = .int .i64 (i : Int) ∧ t7 = .slice ao (keys (P.take i)).length ac ∧ t9 = .slice po (firsts (P.take i)).length pc ∧
    Hid (StB w wx m1 (m1 + 1) (m1 + 1 + 1) ao po ac pc (keys (P.take i)) (firsts (P.take i)) (FT (TX (P.take i))) (FT (TX [])) (FR ((P.take i).map (·.2))) i 0 i)) (fun _ _ t10 _ => P.length - (intOf t10).toNat)
  case atStart => exact ⟨0, none, none, 0, 0, by omega, rfl, rfl, rfl, Hid.mk' hst0.out⟩
  case round =>
    clear hst0
    obtain ⟨i, ao, po, ac, pc, hi, rfl, rfl, rfl, hS⟩ := hrel
    by_cases hlt : i < P.length
    · have hlt' : (i : Int) < (P.length : Int) := by omega
      obtain ⟨c, u, he⟩ : ∃ c u, P[i] = (c, u) := ⟨_, _, rfl⟩
      obtain ⟨b, o, hao, hb, v0, v1⟩ := pcells hR0.out hlt he
      have x0 : wr.cell? ⟨b, o + i * 2, none⟩ = some (.int .i64 c) := hS.out.gr.cell v0 (by simp)
      have x1 : wr.cell? ⟨b, o + i * 2 + 1, none⟩ = some (.int .i32 u) := hS.out.gr.cell v1 (by simp)
      have v0' := Hid.mk' v0
      have v1' := Hid.mk' v1
      clear v0 v1
      obtain ⟨⟨c0, c1⟩, u0, u1⟩ := hok0.out (c, u) (by rw [← he]; exact List.getElem_mem hlt)
      simp only at c0 c1 u0 u1
      have htk : Hid (P.take (i + 1) = P.take i ++ [(c, u)]) := Hid.mk' (by rw [take_snoc hlt, he])
      have hlq : Hid ((P.take i).length = i) := Hid.mk' (by rw [List.length_take]; omega)
      generalize P.take i = Q at *
      obtain ⟨k, hkd⟩ : ∃ k, Hid (c / 64 = k) := ⟨_, Hid.mk' rfl⟩
      obtain ⟨a, had⟩ : ∃ a, Hid (c % 64 = a) := ⟨_, Hid.mk' rfl⟩
      have k0 : 0 ≤ k := by rw [← hkd.out]; omega
      have k1 : k ≤ 262143 := by rw [← hkd.out]; omega
      have a0 : 0 ≤ a := by rw [← had.out]; omega
      have a1 : a < 64 := by rw [← had.out]; omega
      have hdv : c.tdiv 64 = k := by rw [Int.tdiv_eq_ediv_of_nonneg c0]; exact hkd.out
      have hmd : c.tmod 64 = a := by rw [Int.tmod_eq_emod_of_nonneg c0]; exact had.out
      have w1' : IntKind.i64.wrap a = a := by rw [IntKind.wrap_i64]; omega
      have w2' : IntKind.i64.wrap k = k := by rw [IntKind.wrap_i64]; omega
      have w3' : IntKind.i64.wrap u = u := by rw [IntKind.wrap_i64]; omega
      have hks := length_nub (Q.map (fun q => q.1 / 64))
      have hkl : (keys Q).length ≤ 65536 := by rw [List.length_map, hlq.out] at hks; exact Nat.le_trans hks (by omega)
      clear hks
      have hfl : (firsts Q).length ≤ 65536 := by have := (firsts_sub Q).2; rw [hlq.out] at this; omega
      obtain ⟨sk, hsk⟩ : ∃ sk, Hid (str (TX Q k) = sk) := ⟨_, Hid.mk' rfl⟩
      have hsz : sk.size ≤ 1638400 := by rw [← hsk.out, str_size]; have := TX_len Q k; rw [hlq.out] at this; omega
      have hse : sk.toList.isEmpty = decide (k ∉ keys Q) := by rw [← hsk.out, str_toList]; exact TX_nil Q k
      have q1 := look_text hS.out.c k (by omega) (by omega)
      rw [hsk.out] at q1
      obtain ⟨it, hit⟩ : ∃ it, Hid (str (itemC (a, u)) = it) := ⟨_, Hid.mk' rfl⟩
      have hiz : it.size ≤ 25 := by rw [← hit.out, str_size]; exact item_len
      have hsum : ¬ (9223372036854775807 < sk.size + it.size) := by omega
      have hsum2 : sk.size + it.size ≤ 9223372036854775807 := by omega
      obtain ⟨sn, hcat⟩ : ∃ sn, sk ++ it = sn := ⟨_, rfl⟩
      have hsn : Hid (sn = str (TX (Q ++ [(c, u)]) k)) := Hid.mk' (by rw [← hcat, ← hsk.out, ← hit.out, ← hkd.out, (TX_snoc Q (c, u)).1, ← had.out]; apply ByteArray.ext; simp [str])
      have hsnz : sn.size ≤ 1700000 := by rw [← hcat, ByteArray.size_append]; omega
      have htx := Hid.mk' (fun w => text_any a u a0 a1 u0 (by omega) w)
      rw [hit.out] at htx
      subst hao
      by_cases hu : u ∈ Q.map (·.2)
      · have hF' : Hid (firsts (Q ++ [(c, u)]) = firsts Q) := Hid.mk' (by rw [firsts_snoc]; unfold addF; rw [if_pos ((firsts_mem Q u).2 hu)])
        by_cases hk : k ∈ keys Q
        · rw [decide_eq_false (fun h => h hk)] at hse
          have hK' : Hid (keys (Q ++ [(c, u)]) = keys Q) := Hid.mk' (by rw [keys_snoc]; unfold addN; rw [if_pos (by rw [hkd.out]; exact hk)])
          go_wp2_with fail
          have hS1 := hS
          obtain ⟨wA, hwA⟩ : ∃ z, z = wr := ⟨_, rfl⟩
          subst hwA
          have y0 := x0
          have y1 := x1
          clear x0 x1 q1
          have hS2 : Hid (StB w wA.drew _ _ _ _ _ _ _ _ _ _ _ _ _ _ _) := Hid.mk' (hS1.out.kept0 ⟨rfl, rfl, rfl, Nat.le_refl _, fun _ _ _ => rfl⟩)
          have q3 := look_text hS2.out.c k (by omega) (by omega)
          rw [hsk.out] at q3
          have hS0 : wA.drew.cell? ⟨b, o + i * 2, none⟩ = some (.int .i64 c) ∧ wA.drew.cell? ⟨b, o + i * 2 + 1, none⟩ = some (.int .i32 u) := ⟨y0, y1⟩
          obtain ⟨w6, hup, hm6, hg6⟩ := hS2.out.c.put kInt Try.underlying63 (by unfold maxLen; omega) (keyOf_int_mk Try.underlying3 (wf64 (z := k) (by omega) (by omega))) trivial (plainElem_string Try.underlying9 (s := sn) (by unfold maxLen; omega)) (FT (TX (Q ++ [(c, u)]))) (by rw [hsn.out, str_data]; rfl) (by rw [← hkd.out]; exact (FT_put Q (c, u)).2)
          have hS6 := Hid.mk' (hS2.out.putC hg6 hm6)
          clear hm6 hg6
          have hS6c : w6.cell? ⟨b, o + i * 2, none⟩ = some (.int .i64 c) ∧ w6.cell? ⟨b, o + i * 2 + 1, none⟩ = some (.int .i32 u) := ⟨hS6.out.gr.cell v0'.out (by simp), hS6.out.gr.cell v1'.out (by simp)⟩
          go_region_held3 (fun w' => w'.cell? ⟨b, o + i * 2, none⟩ = some (.int .i64 c) ∧ w'.cell? ⟨b, o + i * 2 + 1, none⟩ = some (.int .i32 u)) (first | assumption | exact hS0 | exact hS6c | go_keep) (first
            | (go_at_call 28; refine (htx.out _).mono ?_; rintro e w5 ⟨rfl, rfl⟩))
          all_goals clear hS0 y0 y1 q3 hup
          all_goals have z0 := hS6c.1
          all_goals have z1 := hS6c.2
          all_goals have q5 := look_rune hS6.out.n u (by omega) (by omega)
          all_goals rw [decide_eq_true hu] at q5
          all_goals go_wp2_with (at_mapUpdate; refine wpList_put _ rfl _ _ _ 64 rfl 21 4 kRune Try.underlying64 (m1 + 1 + 1) i eBool (FR (Q.map (·.2))) rfl hS6.out.n (by unfold maxLen; omega) _ _ (.int .i32 u) rfl rfl (keyOf_int_mk Try.underlying21 (wf32 (by omega) (by omega))) trivial _ [] (plainElem_bool Try.underlying4 true) (FR (Q.map (·.2) ++ [u])) (FR_put (Q.map (·.2)) u).1 (FR_put (Q.map (·.2)) u).2 ?_; intro w8 hm8 hg8)
          all_goals go_roundw
          all_goals first | (simp [intOf]; omega) | (refine ⟨i + 1, ao, po, ac, pc, by omega, by go_num, ?_, ?_, ?_⟩ <;> rw [htk.out] <;> first | (rw [hK'.out]; done) | (rw [hK'.out]; simp; done) | (rw [hF'.out]; done) | (rw [hF'.out]; simp; done) | (rw [hK'.out, hF'.out, List.map_append]; exact Hid.mk' (hS6.out.putN hg8 hm8)))
        · rw [decide_eq_true hk] at hse
          have hK' : Hid (keys (Q ++ [(c, u)]) = keys Q ++ [k]) := Hid.mk' (by rw [keys_snoc]; unfold addN; rw [if_neg (by rw [hkd.out]; exact hk), hkd.out])
          go_wp2_with (at_builtin; refine wpList_num _ rfl _ _ rfl ao ac (keys Q) rfl (hS.out.a.alloc _) _ rfl [k] (src_num1 wr k) (by simp; omega) (keys Q ++ [k]) rfl ?_; intro ao' ac' wA ho1 hg1 hat1)
          have hS1 := Hid.mk' ((hS.out.kept0 (World.grownBy_alloc wr (.cells #[.int .i64 k] 3) none)).appA hg1 ho1 hat1)
          have y0 : wA.cell? ⟨b, o + i * 2, none⟩ = some (.int .i64 c) := hS1.out.gr.cell v0'.out (by simp)
          have y1 : wA.cell? ⟨b, o + i * 2 + 1, none⟩ = some (.int .i32 u) := hS1.out.gr.cell v1'.out (by simp)
          clear x0 x1 q1 ho1 hg1 hat1 hS
          have hS2 : Hid (StB w wA.drew _ _ _ _ _ _ _ _ _ _ _ _ _ _ _) := Hid.mk' (hS1.out.kept0 ⟨rfl, rfl, rfl, Nat.le_refl _, fun _ _ _ => rfl⟩)
          have q3 := look_text hS2.out.c k (by omega) (by omega)
          rw [hsk.out] at q3
          have hS0 : wA.drew.cell? ⟨b, o + i * 2, none⟩ = some (.int .i64 c) ∧ wA.drew.cell? ⟨b, o + i * 2 + 1, none⟩ = some (.int .i32 u) := ⟨y0, y1⟩
          obtain ⟨w6, hup, hm6, hg6⟩ := hS2.out.c.put kInt Try.underlying63 (by unfold maxLen; omega) (keyOf_int_mk Try.underlying3 (wf64 (z := k) (by omega) (by omega))) trivial (plainElem_string Try.underlying9 (s := sn) (by unfold maxLen; omega)) (FT (TX (Q ++ [(c, u)]))) (by rw [hsn.out, str_data]; rfl) (by rw [← hkd.out]; exact (FT_put Q (c, u)).2)
          have hS6 := Hid.mk' (hS2.out.putC hg6 hm6)
          clear hm6 hg6
          have hS6c : w6.cell? ⟨b, o + i * 2, none⟩ = some (.int .i64 c) ∧ w6.cell? ⟨b, o + i * 2 + 1, none⟩ = some (.int .i32 u) := ⟨hS6.out.gr.cell v0'.out (by simp), hS6.out.gr.cell v1'.out (by simp)⟩
          go_region_held3 (fun w' => w'.cell? ⟨b, o + i * 2, none⟩ = some (.int .i64 c) ∧ w'.cell? ⟨b, o + i * 2 + 1, none⟩ = some (.int .i32 u)) (first | assumption | exact hS0 | exact hS6c | go_keep) (first
            | (go_at_call 28; refine (htx.out _).mono ?_; rintro e w5 ⟨rfl, rfl⟩))
          all_goals clear hS0 y0 y1 q3 hup
          all_goals have z0 := hS6c.1
          all_goals have z1 := hS6c.2
          all_goals have q5 := look_rune hS6.out.n u (by omega) (by omega)
          all_goals rw [decide_eq_true hu] at q5
          all_goals go_wp2_with (at_mapUpdate; refine wpList_put _ rfl _ _ _ 64 rfl 21 4 kRune Try.underlying64 (m1 + 1 + 1) i eBool (FR (Q.map (·.2))) rfl hS6.out.n (by unfold maxLen; omega) _ _ (.int .i32 u) rfl rfl (keyOf_int_mk Try.underlying21 (wf32 (by omega) (by omega))) trivial _ [] (plainElem_bool Try.underlying4 true) (FR (Q.map (·.2) ++ [u])) (FR_put (Q.map (·.2)) u).1 (FR_put (Q.map (·.2)) u).2 ?_; intro w8 hm8 hg8)
          all_goals go_roundw
          all_goals first | (simp [intOf]; omega) | (refine ⟨i + 1, ao', po, ac', pc, by omega, by go_num, ?_, ?_, ?_⟩ <;> rw [htk.out] <;> first | (rw [hK'.out]; done) | (rw [hK'.out]; simp; done) | (rw [hF'.out]; done) | (rw [hF'.out]; simp; done) | (rw [hK'.out, hF'.out, List.map_append]; exact Hid.mk' (hS6.out.putN hg8 hm8)))
      · have hF' : Hid (firsts (Q ++ [(c, u)]) = firsts Q ++ [(c, u)]) := Hid.mk' (by rw [firsts_snoc]; unfold addF; rw [if_neg (fun h => hu ((firsts_mem Q u).1 h))])
        by_cases hk : k ∈ keys Q
        · rw [decide_eq_false (fun h => h hk)] at hse
          have hK' : Hid (keys (Q ++ [(c, u)]) = keys Q) := Hid.mk' (by rw [keys_snoc]; unfold addN; rw [if_pos (by rw [hkd.out]; exact hk)])
          go_wp2_with fail
          have hS1 := hS
          obtain ⟨wA, hwA⟩ : ∃ z, z = wr := ⟨_, rfl⟩
          subst hwA
          have y0 := x0
          have y1 := x1
          clear x0 x1 q1
          have hS2 : Hid (StB w wA.drew _ _ _ _ _ _ _ _ _ _ _ _ _ _ _) := Hid.mk' (hS1.out.kept0 ⟨rfl, rfl, rfl, Nat.le_refl _, fun _ _ _ => rfl⟩)
          have q3 := look_text hS2.out.c k (by omega) (by omega)
          rw [hsk.out] at q3
          have hS0 : wA.drew.cell? ⟨b, o + i * 2, none⟩ = some (.int .i64 c) ∧ wA.drew.cell? ⟨b, o + i * 2 + 1, none⟩ = some (.int .i32 u) := ⟨y0, y1⟩
          obtain ⟨w6, hup, hm6, hg6⟩ := hS2.out.c.put kInt Try.underlying63 (by unfold maxLen; omega) (keyOf_int_mk Try.underlying3 (wf64 (z := k) (by omega) (by omega))) trivial (plainElem_string Try.underlying9 (s := sn) (by unfold maxLen; omega)) (FT (TX (Q ++ [(c, u)]))) (by rw [hsn.out, str_data]; rfl) (by rw [← hkd.out]; exact (FT_put Q (c, u)).2)
          have hS6 := Hid.mk' (hS2.out.putC hg6 hm6)
          clear hm6 hg6
          have hS6c : w6.cell? ⟨b, o + i * 2, none⟩ = some (.int .i64 c) ∧ w6.cell? ⟨b, o + i * 2 + 1, none⟩ = some (.int .i32 u) := ⟨hS6.out.gr.cell v0'.out (by simp), hS6.out.gr.cell v1'.out (by simp)⟩
          go_region_held3 (fun w' => w'.cell? ⟨b, o + i * 2, none⟩ = some (.int .i64 c) ∧ w'.cell? ⟨b, o + i * 2 + 1, none⟩ = some (.int .i32 u)) (first | assumption | exact hS0 | exact hS6c | go_keep) (first
            | (go_at_call 28; refine (htx.out _).mono ?_; rintro e w5 ⟨rfl, rfl⟩))
          all_goals clear hS0 y0 y1 q3 hup
          all_goals have z0 := hS6c.1
          all_goals have z1 := hS6c.2
          all_goals have q5 := look_rune hS6.out.n u (by omega) (by omega)
          all_goals rw [decide_eq_false hu] at q5
          all_goals go_wp2_with (first | (at_builtin; refine wpList_pair _ rfl _ _ rfl po pc (firsts Q) rfl (hS6.out.p.alloc _) _ rfl [(c, u)] (src_pair1 w6 c u) (by simp; omega) (firsts Q ++ [(c, u)]) rfl ?_; intro po' pc' w7 ho7 hg7 hat7; have hS7 := Hid.mk' ((hS6.out.kept0 (World.grownBy_alloc w6 (.cells #[.int .i64 c, .int .i32 u] 30) none)).appP hg7 ho7 hat7); have z2 : w7.cell? ⟨b, o + i * 2 + 1, none⟩ = some (.int .i32 u) := hS7.out.gr.cell v1'.out (by simp); clear ho7 hg7 hat7) | (at_mapUpdate; refine wpList_put _ rfl _ _ _ 64 rfl 21 4 kRune Try.underlying64 (m1 + 1 + 1) i eBool (FR (Q.map (·.2))) rfl hS7.out.n (by unfold maxLen; omega) _ _ (.int .i32 u) rfl rfl (keyOf_int_mk Try.underlying21 (wf32 (by omega) (by omega))) trivial _ [] (plainElem_bool Try.underlying4 true) (FR (Q.map (·.2) ++ [u])) (FR_put (Q.map (·.2)) u).1 (FR_put (Q.map (·.2)) u).2 ?_; intro w8 hm8 hg8))
          all_goals go_roundw
          all_goals first | (simp [intOf]; omega) | (refine ⟨i + 1, ao, po', ac, pc', by omega, by go_num, ?_, ?_, ?_⟩ <;> rw [htk.out] <;> first | (rw [hK'.out]; done) | (rw [hK'.out]; simp; done) | (rw [hF'.out]; done) | (rw [hF'.out]; simp; done) | (rw [hK'.out, hF'.out, List.map_append]; exact Hid.mk' (hS7.out.putN hg8 hm8)))
        · rw [decide_eq_true hk] at hse
          have hK' : Hid (keys (Q ++ [(c, u)]) = keys Q ++ [k]) := Hid.mk' (by rw [keys_snoc]; unfold addN; rw [if_neg (by rw [hkd.out]; exact hk), hkd.out])
          go_wp2_with (at_builtin; refine wpList_num _ rfl _ _ rfl ao ac (keys Q) rfl (hS.out.a.alloc _) _ rfl [k] (src_num1 wr k) (by simp; omega) (keys Q ++ [k]) rfl ?_; intro ao' ac' wA ho1 hg1 hat1)
          have hS1 := Hid.mk' ((hS.out.kept0 (World.grownBy_alloc wr (.cells #[.int .i64 k] 3) none)).appA hg1 ho1 hat1)
          have y0 : wA.cell? ⟨b, o + i * 2, none⟩ = some (.int .i64 c) := hS1.out.gr.cell v0'.out (by simp)
          have y1 : wA.cell? ⟨b, o + i * 2 + 1, none⟩ = some (.int .i32 u) := hS1.out.gr.cell v1'.out (by simp)
          clear x0 x1 q1 ho1 hg1 hat1 hS
          have hS2 : Hid (StB w wA.drew _ _ _ _ _ _ _ _ _ _ _ _ _ _ _) := Hid.mk' (hS1.out.kept0 ⟨rfl, rfl, rfl, Nat.le_refl _, fun _ _ _ => rfl⟩)
          have q3 := look_text hS2.out.c k (by omega) (by omega)
          rw [hsk.out] at q3
          have hS0 : wA.drew.cell? ⟨b, o + i * 2, none⟩ = some (.int .i64 c) ∧ wA.drew.cell? ⟨b, o + i * 2 + 1, none⟩ = some (.int .i32 u) := ⟨y0, y1⟩
          obtain ⟨w6, hup, hm6, hg6⟩ := hS2.out.c.put kInt Try.underlying63 (by unfold maxLen; omega) (keyOf_int_mk Try.underlying3 (wf64 (z := k) (by omega) (by omega))) trivial (plainElem_string Try.underlying9 (s := sn) (by unfold maxLen; omega)) (FT (TX (Q ++ [(c, u)]))) (by rw [hsn.out, str_data]; rfl) (by rw [← hkd.out]; exact (FT_put Q (c, u)).2)
          have hS6 := Hid.mk' (hS2.out.putC hg6 hm6)
          clear hm6 hg6
          have hS6c : w6.cell? ⟨b, o + i * 2, none⟩ = some (.int .i64 c) ∧ w6.cell? ⟨b, o + i * 2 + 1, none⟩ = some (.int .i32 u) := ⟨hS6.out.gr.cell v0'.out (by simp), hS6.out.gr.cell v1'.out (by simp)⟩
          go_region_held3 (fun w' => w'.cell? ⟨b, o + i * 2, none⟩ = some (.int .i64 c) ∧ w'.cell? ⟨b, o + i * 2 + 1, none⟩ = some (.int .i32 u)) (first | assumption | exact hS0 | exact hS6c | go_keep) (first
            | (go_at_call 28; refine (htx.out _).mono ?_; rintro e w5 ⟨rfl, rfl⟩))
          all_goals clear hS0 y0 y1 q3 hup
          all_goals have z0 := hS6c.1
          all_goals have z1 := hS6c.2
          all_goals have q5 := look_rune hS6.out.n u (by omega) (by omega)
          all_goals rw [decide_eq_false hu] at q5
          all_goals go_wp2_with (first | (at_builtin; refine wpList_pair _ rfl _ _ rfl po pc (firsts Q) rfl (hS6.out.p.alloc _) _ rfl [(c, u)] (src_pair1 w6 c u) (by simp; omega) (firsts Q ++ [(c, u)]) rfl ?_; intro po' pc' w7 ho7 hg7 hat7; have hS7 := Hid.mk' ((hS6.out.kept0 (World.grownBy_alloc w6 (.cells #[.int .i64 c, .int .i32 u] 30) none)).appP hg7 ho7 hat7); have z2 : w7.cell? ⟨b, o + i * 2 + 1, none⟩ = some (.int .i32 u) := hS7.out.gr.cell v1'.out (by simp); clear ho7 hg7 hat7) | (at_mapUpdate; refine wpList_put _ rfl _ _ _ 64 rfl 21 4 kRune Try.underlying64 (m1 + 1 + 1) i eBool (FR (Q.map (·.2))) rfl hS7.out.n (by unfold maxLen; omega) _ _ (.int .i32 u) rfl rfl (keyOf_int_mk Try.underlying21 (wf32 (by omega) (by omega))) trivial _ [] (plainElem_bool Try.underlying4 true) (FR (Q.map (·.2) ++ [u])) (FR_put (Q.map (·.2)) u).1 (FR_put (Q.map (·.2)) u).2 ?_; intro w8 hm8 hg8))
          all_goals go_roundw
          all_goals first | (simp [intOf]; omega) | (refine ⟨i + 1, ao', po', ac', pc', by omega, by go_num, ?_, ?_, ?_⟩ <;> rw [htk.out] <;> first | (rw [hK'.out]; done) | (rw [hK'.out]; simp; done) | (rw [hF'.out]; done) | (rw [hF'.out]; simp; done) | (rw [hK'.out, hF'.out, List.map_append]; exact Hid.mk' (hS7.out.putN hg8 hm8)))
    · obtain rfl : i = P.length := by omega
      rw [List.take_length] at hS ⊢
      have hfl : (firsts P).length ≤ 65536 := by have := (firsts_sub P).2; omega
      have hMl := msort_length _ (firsts P) (Nat.le_refl _)
      have hMok : Hid (∀ p ∈ msort (firsts P), (0 ≤ p.1 ∧ p.1 ≤ 16777215) ∧ 0 ≤ p.2 ∧ p.2 ≤ 1114111) := Hid.mk' (fun p hp => hok0.out p ((firsts_sub P).1 p ((mem_msort _ _ (Nat.le_refl _) p).1 hp)))
      have hcp := hS.out.p.cap_le
      have hcp2 := hS.out.p.cap_max
      go_wp2_with (go_at_call 29; refine (sorted_any (firsts P) hfl po pc _ hS.out.p.rd hcp hcp2).mono ?_; rintro e w3 ⟨so, sc, rfl, hs3, hsc1, hsc2, hg3⟩)
      have hS3 := Hid.mk' (hS.out.kept0 hg3)
      have hs3' := Hid.mk' hs3
      have hw3 : w.heap.size ≤ w3.heap.size := hS3.out.gr.size
      clear hs3 hg3 hS hcp hcp2
      rw [← hMl] at hsc1 hfl ⊢
      clear hMl
      generalize msort (firsts P) = M at *
      have hsw : Hid (∀ i (hi : i < M.length), (M.map (fun p => (p.2, p.1))).take (i + 1) = (M.map (fun p => (p.2, p.1))).take i ++ [((M[i]).2, (M[i]).1)]) := Hid.mk' (by
        intro i hi
        rw [take_snoc (by rw [List.length_map]; exact hi)]
        simp)
      have hQok : Hid (∀ q ∈ M.map (fun p => (p.2, p.1)), (0 ≤ q.1 ∧ q.1 ≤ 16777215) ∧ 0 ≤ q.2 ∧ q.2 ≤ 16777215) := Hid.mk' (by
        intro q hq
        obtain ⟨p, hp, rfl⟩ := List.mem_map.1 hq
        have := hMok.out p hp
        simp only
        omega)
      have hQl : Hid ((M.map (fun p => (p.2, p.1))).length = M.length) := Hid.mk' (List.length_map ..)
      generalize M.map (fun p => (p.2, p.1)) = Z at *
      go_loopw [8, 12] (fun t8 t12 wx => ∃ (i : Nat) (bo : Option Addr) (bc : Nat), i ≤ M.length ∧ t12 = .int .i64 (i : Int) ∧ t8 = .slice bo (keys (Z.take i)).length bc ∧ Hid (St2 w w3 wx (m1 + 1) bo bc (keys (Z.take i)) (FT (TX (Z.take i))) i)) (fun _ t12 _ => M.length - (intOf t12).toNat)
      case atStart => exact ⟨0, none, 0, by omega, rfl, rfl, Hid.mk' hS3.out.two⟩
      case round =>
        obtain ⟨i, bo, bc, hi, rfl, rfl, hS⟩ := hrel
        by_cases hlt : i < M.length
        · have hlt' : (i : Int) < (M.length : Int) := by omega
          obtain ⟨c, u, he⟩ : ∃ c u, M[i] = (c, u) := ⟨_, _, rfl⟩
          obtain ⟨b, o, hao, hb, v0, v1⟩ := pcells hs3'.out hlt he
          have hcl : Hid (∀ wq : World, (∀ {ao : Option Addr} {L : List Pr}, PE.Rd w3 ao L → PE.Rd wq ao L) → wq.cell? ⟨b, o + i * 2, none⟩ = some (.int .i64 c) ∧ wq.cell? ⟨b, o + i * 2 + 1, none⟩ = some (.int .i32 u)) := Hid.mk' (by
            intro wq hq
            obtain ⟨b', o', e', _, z0, z1⟩ := pcells (hq hs3'.out) hlt he
            rw [hao] at e'
            cases e'
            exact ⟨z0, z1⟩)
          obtain ⟨x0, x1⟩ := hcl.out wr (fun L => hS.out.rd L)
          obtain ⟨⟨c0, c1⟩, u0, u1⟩ := hMok.out (c, u) (by rw [← he]; exact List.getElem_mem hlt)
          simp only at c0 c1 u0 u1
          have htk : Hid (Z.take (i + 1) = Z.take i ++ [(u, c)]) := Hid.mk' (by rw [hsw.out i hlt, he])
          have hlq : Hid ((Z.take i).length = i) := Hid.mk' (by rw [List.length_take, hQl.out]; omega)
          clear v0 v1
          generalize Z.take i = Q at *
          obtain ⟨k, hkd⟩ : ∃ k, Hid (u / 64 = k) := ⟨_, Hid.mk' rfl⟩
          obtain ⟨a, had⟩ : ∃ a, Hid (u % 64 = a) := ⟨_, Hid.mk' rfl⟩
          have k0 : 0 ≤ k := by rw [← hkd.out]; omega
          have k1 : k ≤ 262143 := by rw [← hkd.out]; omega
          have a0 : 0 ≤ a := by rw [← had.out]; omega
          have a1 : a < 64 := by rw [← had.out]; omega
          have hdv : u.tdiv 64 = k := by rw [Int.tdiv_eq_ediv_of_nonneg u0]; exact hkd.out
          have hmd : u.tmod 64 = a := by rw [Int.tmod_eq_emod_of_nonneg u0]; exact had.out
          have w1' : IntKind.i64.wrap a = a := by rw [IntKind.wrap_i64]; omega
          have w2' : IntKind.i64.wrap k = k := by rw [IntKind.wrap_i64]; omega
          have w3' : IntKind.i64.wrap u = u := by rw [IntKind.wrap_i64]; omega
          have hks := length_nub (Q.map (fun q => q.1 / 64))
          have hkl : (keys Q).length ≤ 65536 := by rw [List.length_map, hlq.out] at hks; exact Nat.le_trans hks (by omega)
          clear hks
          obtain ⟨sk, hsk⟩ : ∃ sk, Hid (str (TX Q k) = sk) := ⟨_, Hid.mk' rfl⟩
          have hsz : sk.size ≤ 1638400 := by rw [← hsk.out, str_size]; have := TX_len Q k; rw [hlq.out] at this; omega
          have hse : sk.toList.isEmpty = decide (k ∉ keys Q) := by rw [← hsk.out, str_toList]; exact TX_nil Q k
          have q1 := look_text hS.out.s k (by omega) (by omega)
          rw [hsk.out] at q1
          obtain ⟨it, hit⟩ : ∃ it, Hid (str (itemC (a, c)) = it) := ⟨_, Hid.mk' rfl⟩
          have hiz : it.size ≤ 25 := by rw [← hit.out, str_size]; exact item_len
          have hsum : ¬ (9223372036854775807 < sk.size + it.size) := by omega
          have hsum2 : sk.size + it.size ≤ 9223372036854775807 := by omega
          obtain ⟨sn, hcat⟩ : ∃ sn, sk ++ it = sn := ⟨_, rfl⟩
          have hsn : Hid (sn = str (TX (Q ++ [(u, c)]) k)) := Hid.mk' (by rw [← hcat, ← hsk.out, ← hit.out, ← hkd.out, (TX_snoc Q (u, c)).1, ← had.out]; apply ByteArray.ext; simp [str])
          have hsnz : sn.size ≤ 1700000 := by rw [← hcat, ByteArray.size_append]; omega
          have htx := Hid.mk' (fun w => text_any a c a0 a1 c0 c1 w)
          rw [hit.out] at htx
          subst hao
          by_cases hk : k ∈ keys Q
          · rw [decide_eq_false (fun h => h hk)] at hse
            have hK' : Hid (keys (Q ++ [(u, c)]) = keys Q) := Hid.mk' (by rw [keys_snoc]; unfold addN; rw [if_pos (by rw [hkd.out]; exact hk)])
            go_wp2_with fail
            have hS1 := hS
            obtain ⟨wA, hwA⟩ : ∃ z, z = wr := ⟨_, rfl⟩
            subst hwA
            have y0 := x0
            have y1 := x1
            clear x0 x1 q1
            have hS2 : Hid (St2 w w3 wA.drew _ _ _ _ _ _) := Hid.mk' (hS1.out.kept0 ⟨rfl, rfl, rfl, Nat.le_refl _, fun _ _ _ => rfl⟩)
            have q3 := look_text hS2.out.s k (by omega) (by omega)
            rw [hsk.out] at q3
            have hS0 : wA.drew.cell? ⟨b, o + i * 2, none⟩ = some (.int .i64 c) ∧ wA.drew.cell? ⟨b, o + i * 2 + 1, none⟩ = some (.int .i32 u) := ⟨y0, y1⟩
            obtain ⟨w6, hup, hm6, hg6⟩ := hS2.out.s.put kInt Try.underlying63 (by unfold maxLen; omega) (keyOf_int_mk Try.underlying3 (wf64 (z := k) (by omega) (by omega))) trivial (plainElem_string Try.underlying9 (s := sn) (by unfold maxLen; omega)) (FT (TX (Q ++ [(u, c)]))) (by rw [hsn.out, str_data]; rfl) (by rw [← hkd.out]; exact (FT_put Q (u, c)).2)
            have hS6 := Hid.mk' (hS2.out.putS hg6 hm6)
            clear hm6 hg6
            obtain ⟨z0, z1⟩ := hcl.out w6 (fun L => hS6.out.rd L)
            have hS6c : w6.cell? ⟨b, o + i * 2, none⟩ = some (.int .i64 c) ∧ w6.cell? ⟨b, o + i * 2 + 1, none⟩ = some (.int .i32 u) := ⟨z0, z1⟩
            go_region_held3 (fun w' => w'.cell? ⟨b, o + i * 2, none⟩ = some (.int .i64 c) ∧ w'.cell? ⟨b, o + i * 2 + 1, none⟩ = some (.int .i32 u)) (first | assumption | exact hS0 | exact hS6c | go_keep) (first
              | (go_at_call 28; refine (htx.out _).mono ?_; rintro e w5 ⟨rfl, rfl⟩))
            all_goals clear hS0 y0 y1 q3 hup
            all_goals go_wp2_with fail
            all_goals go_roundw
            all_goals first | (simp [intOf]; omega) | (refine ⟨i + 1, bo, bc, by omega, by go_num, ?_, ?_⟩ <;> rw [htk.out] <;> first | (rw [hK'.out]; done) | (rw [hK'.out]; simp; done) | (rw [hK'.out]; exact hS6))
          · rw [decide_eq_true hk] at hse
            have hK' : Hid (keys (Q ++ [(u, c)]) = keys Q ++ [k]) := Hid.mk' (by rw [keys_snoc]; unfold addN; rw [if_neg (by rw [hkd.out]; exact hk), hkd.out])
            go_wp2_with (at_builtin; refine wpList_num _ rfl _ _ rfl bo bc (keys Q) rfl (hS.out.b.alloc _) _ rfl [k] (src_num1 wr k) (by simp; omega) (keys Q ++ [k]) rfl ?_; intro bo' bc' wA ho1 hg1 hat1)
            have hS1 := Hid.mk' ((hS.out.kept0 (World.grownBy_alloc wr (.cells #[.int .i64 k] 3) none)).appB hw3 hg1 ho1 hat1)
            obtain ⟨y0, y1⟩ := hcl.out wA (fun L => hS1.out.rd L)
            clear x0 x1 q1 ho1 hg1 hat1 hS
            have hS2 : Hid (St2 w w3 wA.drew _ _ _ _ _ _) := Hid.mk' (hS1.out.kept0 ⟨rfl, rfl, rfl, Nat.le_refl _, fun _ _ _ => rfl⟩)
            have q3 := look_text hS2.out.s k (by omega) (by omega)
            rw [hsk.out] at q3
            have hS0 : wA.drew.cell? ⟨b, o + i * 2, none⟩ = some (.int .i64 c) ∧ wA.drew.cell? ⟨b, o + i * 2 + 1, none⟩ = some (.int .i32 u) := ⟨y0, y1⟩
            obtain ⟨w6, hup, hm6, hg6⟩ := hS2.out.s.put kInt Try.underlying63 (by unfold maxLen; omega) (keyOf_int_mk Try.underlying3 (wf64 (z := k) (by omega) (by omega))) trivial (plainElem_string Try.underlying9 (s := sn) (by unfold maxLen; omega)) (FT (TX (Q ++ [(u, c)]))) (by rw [hsn.out, str_data]; rfl) (by rw [← hkd.out]; exact (FT_put Q (u, c)).2)
            have hS6 := Hid.mk' (hS2.out.putS hg6 hm6)
            clear hm6 hg6
            obtain ⟨z0, z1⟩ := hcl.out w6 (fun L => hS6.out.rd L)
            have hS6c : w6.cell? ⟨b, o + i * 2, none⟩ = some (.int .i64 c) ∧ w6.cell? ⟨b, o + i * 2 + 1, none⟩ = some (.int .i32 u) := ⟨z0, z1⟩
            go_region_held3 (fun w' => w'.cell? ⟨b, o + i * 2, none⟩ = some (.int .i64 c) ∧ w'.cell? ⟨b, o + i * 2 + 1, none⟩ = some (.int .i32 u)) (first | assumption | exact hS0 | exact hS6c | go_keep) (first
              | (go_at_call 28; refine (htx.out _).mono ?_; rintro e w5 ⟨rfl, rfl⟩))
            all_goals clear hS0 y0 y1 q3 hup
            all_goals go_wp2_with fail
            all_goals go_roundw
            all_goals first | (simp [intOf]; omega) | (refine ⟨i + 1, bo', bc', by omega, by go_num, ?_, ?_⟩ <;> rw [htk.out] <;> first | (rw [hK'.out]; done) | (rw [hK'.out]; simp; done) | (rw [hK'.out]; exact hS6))
        · obtain rfl : i = M.length := by omega
          rw [show Z.take M.length = Z by rw [← hQl.out, List.take_length]] at hS ⊢
          have hcA : Hid ((nub ((keys P).map (TX P))).length = A) := Hid.mk' (by rw [← hA.out]; exact texts_count (fun q hq => by have := hok0.out q hq; omega))
          have hcB : Hid ((nub ((keys Z).map (TX Z))).length = B) := Hid.mk' (by rw [← hB.out]; exact texts_count (fun q hq => by have := hQok.out q hq; omega))
          have hkP : Hid (∀ k ∈ keys P, 0 ≤ k ∧ k ≤ 262143) := Hid.mk' (keys_bound (fun q hq => by have := hok0.out q hq; omega))
          have hkZ : Hid (∀ k ∈ keys Z, 0 ≤ k ∧ k ≤ 262143) := Hid.mk' (keys_bound (fun q hq => by have := hQok.out q hq; omega))
          have hl1 : (keys P).length ≤ 65536 := by have := length_nub (P.map (fun q => q.1 / 64)); rw [List.length_map] at this; exact Nat.le_trans this hl
          have hl2 : (keys Z).length ≤ 65536 := by have := length_nub (Z.map (fun q => q.1 / 64)); rw [List.length_map, hQl.out] at this; exact Nat.le_trans this (by omega)
          have hca := hS3.out.a.cap_le
          have hcb := hS.out.b.cap_le
          go_wp2_with (first
            | (go_at_call_of 30 (Value.map (some m1)); refine (different_any ao ac (keys P) m1 _ (TX P) wr (hS.out.rd hS3.out.a.rd) hl1 hca (hS.out.mf hS3.out.c (by omega)) (fun k hk => by have := hkP.out k hk; omega) (fun k _ => by have := TX_len P k; omega) A hcA).mono ?_; rintro e w7 ⟨rfl, hg7⟩; have hS7 := Hid.mk' (hS.out.kept0 hg7))
            | (go_at_call 30; refine (different_any bo bc (keys Z) (m1 + 1) _ (TX Z) _ hS7.out.b.rd hl2 hcb hS7.out.s (fun k hk => by have := hkZ.out k hk; omega) (fun k _ => by have := TX_len Z k; rw [hQl.out] at this; omega) B hcB).mono ?_; rintro e w8 ⟨rfl, hg8⟩))
          go_ret2
          exact ⟨rfl, grownBy_trans hS7.out.gr hg8⟩
end Go.Proofs.Ytcoiddmgcoeocaa.Tr

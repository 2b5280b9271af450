/- TrieMoved: a walk. -/
import Derived.Test.YtcoiddmgcoeocaaWk1
import Derived.Test.YtcoiddmgcoeocaaStep
import Derived.Test.YtcoiddmgcoeocaaArgs
namespace Go.Proofs.Ytcoiddmgcoeocaa.Tr
open Go.ChangeShapes Go.WideShapes Go.ChangeAt Go.RowKit Go.Maps Go.Proofs.Ytcoiddmgcoeocaa.Mem Go.Proofs.Ytcoiddmgcoeocaa.Ucs Go.Proofs.Ytcoiddmgcoeocaa.El Go.Sort Go.Proofs.Ytcoiddmgcoeocaa.Rn
set_option linter.unusedVariables false
set_option linter.unusedSimpArgs false

/-- Pairs whose codes are moved on. -/
def moved (y : Int) (L : List Pr) : List Pr := L.map (fun p => (p.1 + y, p.2))
theorem okP_weaken {b b' : Int} {L : List Pr} (h : okP b L = true) (hb : b' ≤ b) : okP b' L = true := by
  cases L with
  | nil => rfl
  | cons p L =>
    obtain ⟨c, u⟩ := p
    obtain ⟨h1, h2, h3, h4⟩ := okP_cons.1 h
    exact okP_cons.2 ⟨h1, by omega, h3, h4⟩
theorem okP_moved (y : Int) (hy : 0 ≤ y) : ∀ (L : List Pr) (b : Int), okP b L = true → (∀ p ∈ L, p.1 + y ≤ 16777215) → okP (b + y) (moved y L) = true
  | [], b, _, _ => rfl
  | p :: L, b, h, hm => by
    obtain ⟨c, u⟩ := p
    obtain ⟨h1, h2, h3, h4⟩ := okP_cons.1 h
    have hc := hm (c, u) (by simp)
    have ih := okP_moved y hy L c h4 (fun q hq => hm q (by simp [hq]))
    exact okP_cons.2 ⟨⟨by omega, hc⟩, by omega, h3, ih⟩
theorem right_moved {y : Int} (hy : 0 ≤ y) {L : List Pr} (h : rightE L = 0) (hm : ∀ p ∈ L, p.1 + y ≤ 16777215) : rightE (moved y L) = 0 := by
  obtain ⟨h1, h2⟩ := rightE_ok.1 h
  exact rightE_ok.2 ⟨by simpa [moved] using h1, okP_weaken (okP_moved y hy L _ h2 hm) (by omega)⟩
theorem keys_moved (r : Int) (L : List Pr) : keys (moved (64 * r) L) = (keys L).map (· + r) := by
  unfold keys moved
  rw [List.map_map, ← nub_map (· + r) (L.map (fun q => q.1 / 64)) (fun x _ y _ h => by simpa using h), List.map_map]
  congr 1
  apply List.map_congr_left
  intro q _
  show (q.1 + 64 * r) / 64 = q.1 / 64 + r
  omega
theorem cont_moved (r : Int) (L : List Pr) (k : Int) : cont (moved (64 * r) L) (k + r) = cont L k := by
  unfold cont moved
  rw [List.filter_map, List.map_map]
  have e1 : L.filter ((fun q : Pr => q.1 / 64 == k + r) ∘ fun p => (p.1 + 64 * r, p.2)) = L.filter (fun q => q.1 / 64 == k) := by
    congr 1
    funext q
    show ((q.1 + 64 * r) / 64 == k + r) = (q.1 / 64 == k)
    have : (q.1 + 64 * r) / 64 = q.1 / 64 + r := by omega
    rw [this]
    by_cases h : q.1 / 64 = k
    · rw [beq_iff_eq.2 h, beq_iff_eq.2 (show q.1 / 64 + r = k + r by omega)]
    · rw [beq_eq_false_iff_ne.2 h, beq_eq_false_iff_ne.2 (show q.1 / 64 + r ≠ k + r by omega)]
  rw [e1]
  apply List.map_congr_left
  intro q _
  simp only [Function.comp]
  have : (q.1 + 64 * r) % 64 = q.1 % 64 := by omega
  rw [this]
theorem blocks_moved (r : Int) (L : List Pr) : blocksN (moved (64 * r) L) = blocksN L := by
  unfold blocksN
  rw [keys_moved, List.map_map]
  congr 2
  apply List.map_congr_left
  intro k _
  exact cont_moved r L k
theorem moved_take {y c u : Int} {L : List Pr} {i : Nat} (hi : i < L.length) (he : L[i] = (c, u)) : (moved y L).take (i + 1) = (moved y L).take i ++ [(c + y, u)] := by
  rw [List.take_succ_eq_append_getElem (by simpa [moved] using hi)]
  simp [moved, he]

set_option maxRecDepth 100000 in
set_option maxHeartbeats 4000000 in
theorem moved_walk (ao : Option Addr) (cap : Nat) (L : List Pr) (a : Int) (hk1 : -9223372036854775808 ≤ a) (hk2 : a ≤ 9223372036854775807) (w : World) (hrd : PE.Rd w ao L) (hle : L.length ≤ cap) (hcb : cap * 16 ≤ 140737488351232) :
    Calls Try.prog 5 #[.slice ao L.length cap, .int .i64 a] w fun e w' => e = .returned (.bool true) ∧ Below w.heap.size w w' := by
  have hR0 := Hid.mk' hrd
  have hcm : cap ≤ 9223372036854775807 := by omega
  obtain ⟨n, hn⟩ : ∃ n, L.length = n := ⟨_, rfl⟩
  have hn0 := Hid.mk' hn
  rw [hn] at hle ⊢
  clear hrd hcb hn
  by_cases hbig : 400 < n
  · have hb' : (400 : Int) < (n : Int) := by omega
    go_enter Try.func5, Try.ntmps5
    go_wp2_with (go_at_call 16; refine (works_any _).mono ?_; rintro e w1 ⟨rfl, hg1⟩)
    go_ret
    exact ⟨rfl, below_g hg1⟩
  · have hb' : ¬ (400 : Int) < (n : Int) := by omega
    have hb'' : decide ((400 : Int) < (n : Int)) = false := decide_eq_false hb'
    have hb3 : decide (400 < n) = false := decide_eq_false hbig
    obtain ⟨r, hr, hr2⟩ := mod_fit a 1000 (by omega) (by omega)
    obtain ⟨y, hy⟩ : ∃ y : Nat, y = 64 * r := ⟨_, rfl⟩
    have hy1 : 64 * (r : Int) = (y : Int) := by omega
    have hy2 : y ≤ 63936 := by omega
    have hy0 := Hid.mk' hy
    obtain ⟨t, ht⟩ : ∃ t : Nat, (16777215 : Int) - (y : Int) = (t : Int) := ⟨16777215 - y, by omega⟩
    have ht2 : t ≤ 16777215 := by omega
    clear hy
    have hr' : wrap64 ((IntKind.u64.wrap a).tmod 1000) = (r : Int) := hr
    clear hr
    obtain ⟨E, hE⟩ : ∃ E, Hid (rightE L = E) := ⟨_, Hid.mk' rfl⟩
    by_cases hE0 : E = 0
    · subst hE0
      obtain ⟨_, hok⟩ := rightE_ok.1 hE.out
      have hok0 := Hid.mk' hok
      have hrng0 := Hid.mk' (okP_range hok)
      obtain ⟨A, hA⟩ : ∃ A, Hid (blocksN L = A) := ⟨_, Hid.mk' rfl⟩
      obtain ⟨B, hB⟩ : ∃ B, Hid (blocksN (byScalar L) = B) := ⟨_, Hid.mk' rfl⟩
      have hnew := Hid.mk' (fun (w : World) (hw : PE.Rd w ao L) => new_ok ao cap L n hn0.out w hw hle hcm hE)
      clear hok
      go_enter Try.func5, Try.ntmps5
      go_wp2_with (first
        | (go_at_call 16; refine (works_any _).mono ?_; rintro e w1 ⟨rfl, hg1⟩; have hR1 := hR0.out.kept0 hg1)
        | (go_at_call 7; refine (hnew.out w1 hR1).mono ?_; rintro e w2 ⟨T, rfl, hT2, hg2⟩; have hR2 := hR1.kept0 hg2))
      have hT20 := Hid.mk' hT2
      have hR20 := Hid.mk' hR2
      have hg20 := Hid.mk' (grownBy_trans hg1 hg2)
      clear hT2 hR1 hR2 hg1 hg2 hnew
      go_loopw [8, 9] (fun t8 t9 wx => ∃ (i mc : Nat) (mo : Option Addr) (D : List Pr), i ≤ n ∧ t9 = .int .i64 (i : Int) ∧ t8 = .slice mo D.length mc ∧ D.length = i ∧ Hid (D = (moved (y : Int) L).take i) ∧ Hid (PE.Own wx mo mc D) ∧ Hid (∀ g, blk mo = some g → w2.heap.size ≤ g) ∧ Hid (w2.grownBy wx none) ∧ Hid (∀ p ∈ L.take i, p.1 + (y : Int) ≤ 16777215)) (fun _ t9 _ => n - (intOf t9).toNat)
      case atStart => exact ⟨0, 0, none, [], by omega, rfl, rfl, rfl, Hid.mk' (by simp), Hid.mk' (.inl ⟨rfl, rfl, rfl⟩), Hid.mk' (by intro g e; cases e), Hid.mk' (grownBy_refl _ _), Hid.mk' (by simp)⟩
      case round =>
        obtain ⟨i, mc, mo, D, hi, rfl, rfl, hDl, hD, hO, hbl, hG, hfit⟩ := hrel
        have hDl0 := Hid.mk' hDl
        by_cases hlt : i < n
        · have hlL : i < L.length := by rw [hn0.out]; exact hlt
          obtain ⟨c, u, he⟩ : ∃ c u, L[i] = (c, u) := ⟨_, _, rfl⟩
          obtain ⟨b, o, hao, hb, x0, x1⟩ := pcells (hR20.out.kept0 hG.out) hlL he
          obtain ⟨b2, o2, hao2, hb2, _, _⟩ := pcells hR20.out hlL he
          rw [hao] at hao2
          obtain ⟨rfl, rfl⟩ : b = b2 ∧ o = o2 := by simpa using hao2
          subst hao
          obtain ⟨q1, q2⟩ := hrng0.out _ (List.getElem_mem hlL)
          rw [he] at q1 q2
          simp only at q1 q2
          have hlt' : (i : Int) < (n : Int) := by omega
          have hiz : (0 : Int) ≤ (i : Int) := by omega
          have hD2 : Hid (D ++ [(c + (y : Int), u)] = (moved (y : Int) L).take (i + 1)) := Hid.mk' (by rw [hD.out, moved_take hlL he])
          have hbr : Hid (∀ g, blk mo = some g → g ≠ b) := Hid.mk' (fun g e => by have := hbl.out g e; omega)
          have hfit2 : Hid (c + (y : Int) ≤ 16777215 → ∀ p ∈ L.take (i + 1), p.1 + (y : Int) ≤ 16777215) := Hid.mk' (fun h p hp => by
            rw [List.take_succ_eq_append_getElem hlL] at hp
            rcases List.mem_append.1 hp with hp | hp
            · exact hfit.out p hp
            · rw [List.mem_singleton.1 hp, he]; exact h)
          have hDm : D.length ≤ 400 := by omega
          clear he hlL hao2 hDl
          by_cases hct : (t : Int) < c
          · go_wp2_with fail
            go_ret
            exact ⟨rfl, below_g (grownBy_trans hg20.out hG.out)⟩
          · have hcy : Hid (∀ p ∈ L.take (i + 1), p.1 + (y : Int) ≤ 16777215) := Hid.mk' (hfit2.out (by omega))
            obtain ⟨cy, hcy2⟩ : ∃ cy, c + (y : Int) = cy := ⟨_, rfl⟩
            rw [hcy2] at hD2
            have hcy3 : 0 ≤ cy := by omega
            have hcy4 : cy ≤ 16777215 := by omega
            have hwc : IntKind.i64.wrap cy = cy := by rw [IntKind.wrap_i64]; omega
            go_wp2_with fail
            have hS0 : wr.drew.cell? ⟨b, o + i * 2, none⟩ = some (.int .i64 c) ∧ wr.drew.cell? ⟨b, o + i * 2 + 1, none⟩ = some (.int .i32 u) := ⟨x0, x1⟩
            go_region_held3 (fun w' => w'.cell? ⟨b, o + i * 2, none⟩ = some (.int .i64 c) ∧ w'.cell? ⟨b, o + i * 2 + 1, none⟩ = some (.int .i32 u)) (first | assumption | exact hS0 | go_keep) (first | (refine step_pair ((wr.alloc (.cells #[.int .i64 cy, .int .i32 u] 30)).drew) (by rfl) _ _ (by rfl) mo mc D (by simp [Act.eval, Act.put]) (by exact (hO.out.alloc _)) (.slice (some ⟨wr.heap.size, 0, none⟩) 1 1) (by simp [Act.eval, Act.put]) [(cy, u)] (src_pair (M := [(cy, u)]) (show PE.Rd ((wr.alloc (.cells #[.int .i64 cy, .int .i32 u] 30)).drew) (some ⟨wr.heap.size, 0, none⟩) [(cy, u)] from new_pair wr cy u) 1) (by simp; omega) (D ++ [(cy, u)]) (by rfl) ?_; intro mo' mc' w3 ho' hg3 hat; have hS1 : w3.cell? ⟨b, o + i * 2, none⟩ = some (.int .i64 c) ∧ w3.cell? ⟨b, o + i * 2 + 1, none⟩ = some (.int .i32 u) := ⟨hg3.cell ((World.grownBy_alloc wr _ none).cell x0 (by simp)) (fun e => hbr.out _ e.symm rfl), hg3.cell ((World.grownBy_alloc wr _ none).cell x1 (by simp)) (fun e => hbr.out _ e.symm rfl)⟩))
            go_wp2_with fail
            go_roundw
            case rel =>
              refine ⟨i + 1, mc', mo', D ++ [(cy, u)], by omega, by go_num, by simp, by simp [hDl0.out], Hid.mk' hD2.out, Hid.mk' ho', Hid.mk' ?_, Hid.mk' ?_, hcy⟩
              · intro g e
                rcases hat with rfl | rfl
                · exact hbl.out g e
                · have e1 := Option.some.inj e
                  have e2 := hG.out.size
                  simp at e1
                  omega
              · exact grownBy_new (grownBy_drew (grownBy_trans hG.out (World.grownBy_alloc wr _ none))) hg3 (fun g e => hbl.out g e)
            case measure => simp [intOf]; omega
        · obtain rfl : i = n := by omega
          have hlt' : ¬ (i : Int) < (i : Int) := by omega
          have hDM : Hid (D = moved (y : Int) L) := Hid.mk' (by rw [hD.out, List.take_of_length_le (by rw [moved, List.length_map, hn0.out]; exact Nat.le_refl _)])
          have hfitA : Hid (∀ p ∈ L, p.1 + (y : Int) ≤ 16777215) := Hid.mk' (by have := hfit.out; rwa [List.take_of_length_le (by rw [hn0.out]; exact Nat.le_refl _)] at this)
          have hED : Hid (rightE D = 0) := Hid.mk' (by rw [hDM.out]; exact right_moved (by omega) hE.out hfitA.out)
          have hAD : Hid (blocksN D = A) := Hid.mk' (by rw [hDM.out, show (y : Int) = 64 * (r : Int) by omega, blocks_moved]; exact hA.out)
          obtain ⟨B2, hB2⟩ : ∃ B, Hid (blocksN (byScalar D) = B) := ⟨_, Hid.mk' rfl⟩
          have hokD := Hid.mk' (rightE_ok.1 hED.out).2
          have hmc1 := hO.out.cap_le
          have hmc2 := hO.out.cap_max
          have hnew := Hid.mk' (new_ok mo mc D i hDl0.out wr hO.out.rd (by omega) hmc2 hED)
          have hTr := Hid.mk' (hT20.out.kept hG.out)
          have hAA : ((A : Int) == (A : Int)) = true := by simp
          rw [hDl]
          clear hD hfit hmc1
          go_wp2_with (first
            | (go_at_call 7; refine hnew.out.mono ?_; rintro e w4 ⟨T2, rfl, hT4, hg4⟩; have hTr4 := hTr.out.kept hg4)
            | (go_at_call_of 14 (Value.pointer (some ⟨T, 0, none⟩)); refine (tBlocks_any T L w4 hTr4 A B hA hB).mono ?_; rintro e w5 ⟨rfl, hg5⟩; have hT5 := hT4.kept hg5)
            | (go_at_call_of 14 (Value.pointer (some ⟨T2, 0, none⟩)); refine (tBlocks_any T2 D w5 hT5 A B2 hAD hB2).mono ?_; rintro e w6 ⟨rfl, hg6⟩; have hT6 := hT5.kept hg6))
          have hT60 := Hid.mk' hT6
          have ho6 := Hid.mk' (((hO.out.kept0 hg4).kept0 hg5).kept0 hg6)
          have hR6 := Hid.mk' ((((hR20.out.kept0 hG.out).kept0 hg4).kept0 hg5).kept0 hg6)
          have hg60 := Hid.mk' (grownBy_trans (grownBy_trans (grownBy_trans (grownBy_trans hg20.out hG.out) hg4) hg5) hg6)
          clear hnew hTr hT4 hTr4 hT5 hT6 hg4 hg5 hg6 hO hG
          go_loopw [16] (fun t16 wx => ∃ (j : Nat), j ≤ i ∧ t16 = .int .i64 (j : Int) ∧ Hid (w6.grownBy wx none)) (fun t16 _ => i - (intOf t16).toNat)
          case atStart => exact ⟨0, by omega, rfl, Hid.mk' (grownBy_refl _ _)⟩
          case round =>
            obtain ⟨j, hj, rfl, hG2⟩ := hrel
            by_cases hlt2 : j < i
            · have hjL : j < L.length := by rw [hn0.out]; exact hlt2
              have hjD : j < D.length := by rw [hDl0.out]; exact hlt2
              obtain ⟨c, u, he⟩ : ∃ c u, L[j] = (c, u) := ⟨_, _, rfl⟩
              have heD : D[j] = (c + (y : Int), u) := by
                have e1 := hDM.out
                subst e1
                simp [moved, he]
              obtain ⟨b, o, rfl, hb, x0, x1⟩ := pcells (hR6.out.kept0 hG2.out) hjL he
              obtain ⟨b3, o3, rfl, hb3, z0, z1⟩ := pcells (ho6.out.rd.kept0 hG2.out) hjD heD
              obtain ⟨q1, q2⟩ := hrng0.out _ (List.getElem_mem hjL)
              rw [he] at q1 q2
              simp only at q1 q2
              have hps : Hid (pS D (c + (y : Int)) = some u) := Hid.mk' (by have := pS_at hokD.out j hjD; rw [heD] at this; exact this)
              obtain ⟨cy, hcy2⟩ : ∃ cy, c + (y : Int) = cy := ⟨_, rfl⟩
              rw [hcy2] at hps z0
              have hcy3 : 0 ≤ cy := by omega
              have hcy4 : cy ≤ 16841151 := by omega
              have hlt3 : (j : Int) < (i : Int) := by omega
              have hjz : (0 : Int) ≤ (j : Int) := by omega
              have hTx := Hid.mk' (hT60.out.kept hG2.out)
              clear he heD hjL hjD hcy2
              go_wp2_with (go_at_call 10; refine (tScalar_any T2 D cy (by omega) (by omega) wr hTx.out (some u) hps).mono ?_; rintro e w7 ⟨rfl, hg7⟩; have k1 := hg7.cell x1 (by simp))
              go_roundw
              case rel => exact ⟨j + 1, by omega, by go_num, Hid.mk' (grownBy_trans hG2.out hg7)⟩
              case measure => simp [intOf]; omega
            · obtain rfl : j = i := by omega
              have hlt3 : ¬ (j : Int) < (j : Int) := by omega
              go_wp2_with fail
              go_ret
              refine ⟨?_, below_g (grownBy_trans hg60.out hG2.out)⟩
              first | rfl | simp
    · have hE1 : (E == 0) = false := by simpa using hE0
      have hno := Hid.mk' (fun (w : World) (hw : PE.Rd w ao L) => new_no ao cap L w hw (by rw [hn0.out]; exact hle) hcm E hE hE0)
      rw [hn0.out] at hno
      go_enter Try.func5, Try.ntmps5
      go_wp2_with (first
        | (go_at_call 16; refine (works_any _).mono ?_; rintro e w1 ⟨rfl, hg1⟩; have hR1 := hR0.out.kept0 hg1)
        | (go_at_call 7; refine (hno.out w1 hR1).mono ?_; rintro e w2 ⟨rfl, hg2⟩))
      go_ret
      exact ⟨rfl, below_g (grownBy_trans hg1 hg2)⟩
end Go.Proofs.Ytcoiddmgcoeocaa.Tr

/- Iso2022Plain: the walk. -/
import Derived.Test.YtdobjijebalkkaaIY21
import Derived.Test.YtdobjijebalkkaaBw
import Derived.Test.YtdobjijebalkkaaCs
import Derived.Test.YtdobjijebalkkaaCw
import Derived.Test.YtdobjijebalkkaaConvApp
import Derived.Test.YtdobjijebalkkaaRegion
import Derived.Deep.RegionHeld3
import Derived.Deep.CutRange
import Derived.BigQuiet
namespace Go.Proofs.Ytdobjijebalkkaa.C21
open Go.ChangeShapes Go.WideShapes Go.ChangeAt Go.RowKit Go.Proofs.Ytdobjijebalkkaa.Mem Go.Proofs.Ytdobjijebalkkaa.Cb Go.Proofs.Ytdobjijebalkkaa.Sp
set_option linter.unusedVariables false
set_option linter.unusedSimpArgs false

theorem bytes_at {w : World} {ao : Option Addr} {L : List UInt8} (h : Bytes w ao L) {i : Nat} (hi : i < L.length) : ∃ g o, ao = some ⟨g, o, none⟩ ∧ (∀ wx, w.grownBy wx none → wx.cell? ⟨g, o + i, none⟩ = some (.int .u8 (L[i].toNat : Int))) ∧ ∀ wx, w.grownBy wx none → Bytes wx (some ⟨g, o + i, none⟩) (L.drop i) := by
  rcases h with ⟨rfl, rfl⟩ | ⟨a, rfl, hcell⟩
  · simp at hi
  · obtain ⟨g, o, sp⟩ := a
    have hb0 := hcell 0 (by omega)
    have hsp : sp = none := by simpa [Addr.add] using World.cell?_spot hb0
    subst hsp
    have hk : ∀ wx, w.grownBy wx none → ∀ j (hj : j < L.length), wx.cell? ⟨g, o + j, none⟩ = some (.int .u8 (L[j].toNat : Int)) := fun wx hg j hj => by
      have hbj := hcell j hj
      have hlt := World.block_lt_of_cell? w _ hbj
      rw [addr_add] at hbj
      simp only [addr_add] at hlt
      have := hg.block g hlt (by simp)
      simpa [World.cell?, this] using hbj
    refine ⟨g, o, rfl, fun wx hg => hk wx hg i hi, fun wx hg => .inr ⟨_, rfl, fun j hj => ?_⟩⟩
    rw [addr_add]
    have hj2 : i + j < L.length := by simp at hj; omega
    have := hk wx hg (i + j) hj2
    rw [← Nat.add_assoc] at this
    rw [this]
    simp
def tx (V : List UInt8) : List UInt8 := if V = [] then [] else hd ++ V
def mV (V : List UInt8) : Nat := if V = [] then 0 else 1
def xV (V : List UInt8) (n : Nat) : List UInt8 := if V = [] then hd ++ [b8 n] else [b8 n]
theorem mV_lt (V : List UInt8) : mV V < 2 := by unfold mV; split <;> omega
theorem mV_snoc (V : List UInt8) (c : UInt8) : mV (V ++ [c]) = 1 := by unfold mV; rw [if_neg (by simp)]
theorem tx_snoc (V : List UInt8) (n : Nat) : tx V ++ xV V n = tx (V ++ [b8 n]) := by
  unfold tx xV
  by_cases h : V = []
  · subst h; rw [if_pos rfl, if_pos rfl, if_neg (by simp)]; rfl
  · rw [if_neg h, if_neg h, if_neg (by simp), List.append_assoc]
theorem xV_len (V : List UInt8) (n : Nat) : (xV V n).length ≤ 5 := by unfold xV; split <;> simp [hd]
theorem tx_len (V : List UInt8) : (tx V).length ≤ V.length + 4 := by unfold tx; split <;> simp [hd] <;> omega
theorem set83 (n : Nat) (hn : n < 128) (h27 : n ≠ 27) : sE 83 0 (n : Int) = (0, [b8 n], 0) := by
  unfold sE
  rw [if_neg (by decide), if_neg (by omega), if_neg (by omega), if_neg (by omega)]
  unfold sJ
  rw [if_pos (by omega), Int.toNat_natCast]
  rfl
theorem get83 (n : Nat) (hn : n < 128) (h27 : n ≠ 27) (M : List UInt8) : gE 83 0 (b8 n :: M) = (0, 1, 1, (n : Int), 0) := by
  have e2 : (b8 n).toNat = n := b8_toNat (by omega)
  rw [gE_jp (by omega), gJ_low (ne27 (by rw [e2]; omega)), e2]
  unfold jC
  rw [if_neg (by omega), if_neg (by omega), if_pos (.inl rfl)]
  rfl
theorem set88 (V : List UInt8) (n : Nat) (hn : n < 128) (h27 : n ≠ 27) (h14 : n ≠ 14) (h15 : n ≠ 15) : sE 88 (mV V) (n : Int) = (0, xV V n, 1) := by
  have hm := mV_lt V
  unfold sE
  rw [if_neg (by decide), if_neg (by omega), if_neg (by omega), if_pos rfl]
  unfold sK
  rw [if_pos (by omega), Int.toNat_natCast]
  unfold xV mV
  by_cases h : V = []
  · rw [if_pos h, if_pos h]; rfl
  · rw [if_neg h, if_neg h]; rfl
set_option maxRecDepth 100000 in
set_option maxHeartbeats 4000000 in
theorem plain_walk {P : World → Prop} (C : Con P) (ao : Option Addr) (cap : Nat) (L : List UInt8) (len : Nat) (hlen : L.length = len) (w : World) (hw : P w) (hB : Bytes w ao L) (hLc : len ≤ cap) (hcm : cap ≤ 140737488351232) :
    Calls Try.prog 7 #[.slice ao len cap] w fun e w' => e = .returned (.bool true) ∧ w.grownBy w' none := by
  have a0 := Hid.mk' (fun w hw => works_any C w hw)
  have aS := Hid.mk' (fun (n : Nat) (hn : n < 128) (h : n ≠ 27) => (C.put 83 (by unfold I64; omega) 0 0 0 0 0 rfl (n : Int) (by unfold I32; omega) _ _ _ (set83 n hn h)).out)
  have aG := Hid.mk' (fun (n : Nat) (hn : n < 128) (h : n ≠ 27) (M : List UInt8) => (C.got 83 (by unfold I64; omega) 0 0 0 0 0 rfl (b8 n :: M) _ _ _ _ _ (get83 n hn h M)).out)
  have aK := Hid.mk' (fun (V : List UInt8) (n : Nat) (hn : n < 128) (h : n ≠ 27) (h14 : n ≠ 14) (h15 : n ≠ 15) => (C.put 88 (by unfold I64; omega) (mV V : Int) 0 0 0 (mV V) (mo_is _ (by have := mV_lt V; omega)) (n : Int) (by unfold I32; omega) _ _ _ (set88 V n hn h h14 h15)).out)
  have K := Hid.mk' (fun (a b : World) (h : P a) (g : a.grownBy b none) => C.keep h g)
  have hq := Hid.mk' hw
  have hB0 := Hid.mk' hB
  have hl0 := Hid.mk' hlen
  clear hw C hB hlen
  go_enter Try.func7, Try.ntmps7
  go_upto_region 4 with (first
    | (go_at_call 16; refine (a0.out _ hq.out).mono ?_; rintro e w1 ⟨rfl, hg1, hp1⟩)
    | (refine wpList_allocC _ rfl 24 rfl (sC 0 0 0 0) (zeroS _) ?_; intro w2 s2 hg2)
    | (refine wpList_storeC _ rfl 24 _ _ rfl _ (sC 0 0 0 0) (sC 0 0 0 0) infoS rfl (sC_one _ _ _ _) rfl rfl s2 ?_; intro w3 s3 hg3))
  have hG3 : Hid (w.grownBy w3 none) := Hid.mk' (grownBy_new (gt hg1 hg2) hg3 (fun k hk => by have h5 := Option.some.inj hk; have h6 := hg1.size; omega))
  have hSB : Hid (w.heap.size ≤ w1.heap.size) := Hid.mk' hg1.size
  have s30 := Hid.mk' s3
  clear hg1 hp1 a0 hg2 hg3 s2 s3
  generalize w1.heap.size = SB at *
  go_wp2
  go_loopw [4, 5, 6] (fun t4 t5 t6 wx => ∃ (i : Nat) (V : List UInt8) (s q : ByteArray), i ≤ 200 ∧ i ≤ len ∧ t4 = .string s ∧ t5 = .string q ∧ t6 = .int .i64 (i : Int) ∧ s.size ≤ i + 4 ∧ q.size ≤ i ∧ Hid (s = str (tx V)) ∧ Hid (q = str V) ∧ Hid (CA wx SB 24 (sC (mV V : Int) 0 0 0)) ∧ Hid (w.grownBy wx none)) (fun _ _ t6 _ => 200 - (intOf t6).toNat)
  case atStart => exact ⟨0, [], ⟨#[]⟩, ⟨#[]⟩, by omega, by omega, rfl, rfl, rfl, by simp [ByteArray.size], by simp [ByteArray.size], Hid.mk' rfl, Hid.mk' rfl, s30, hG3⟩
  case round =>
    obtain ⟨i, V, s, q, hi, hil, rfl, rfl, rfl, hsz, hqz, hs, hqq, hst, hG⟩ := hrel
    by_cases hlt : i < len
    · have hlt' : (i : Int) < (len : Int) := by omega
      by_cases hlt2 : i < 200
      · have hlt2' : (i : Int) < 200 := by omega
        have hiL : i < L.length := by rw [hl0.out]; exact hlt
        obtain ⟨g, o, rfl, hy, hby⟩ := bytes_at hB0.out hiL
        have hdr : L.drop i = L[i] :: L.drop (i + 1) := List.drop_eq_getElem_cons hiL
        have hby0 := Hid.mk' hby
        have hdr0 := Hid.mk' hdr
        have hy0 := Hid.mk' hy
        have e2 : (0 : Int) ≤ (i : Int) := by omega
        have hc := L[i].toNat_lt
        have hb8 := b8_of L[i]
        obtain ⟨n, hn⟩ : ∃ n, L[i].toNat = n := ⟨_, rfl⟩
        rw [hn] at hy0 hb8 hc
        have hb80 := Hid.mk' hb8
        have x0 := hy0.out _ hG.out
        clear hby hdr hy hn hb8
        by_cases h8 : 128 ≤ n
        · have h8' : (128 : Int) ≤ (n : Int) := by omega
          go_wp2
          go_roundw
          case rel => exact ⟨i + 1, V, s, q, by omega, by omega, rfl, rfl, by go_num, by omega, by omega, hs, hqq, hst, hG⟩
          case measure => simp [intOf]; omega
        · by_cases h27 : n = 27
          · have h8' : ¬ (128 : Int) ≤ (n : Int) := by omega
            subst h27
            go_wp2
            go_roundw
            case rel => exact ⟨i + 1, V, s, q, by omega, by omega, rfl, rfl, by go_num, by omega, by omega, hs, hqq, hst, hG⟩
            case measure => simp [intOf]; omega
          · by_cases h14 : n = 14
            · have h8' : ¬ (128 : Int) ≤ (n : Int) := by omega
              subst h14
              go_wp2
              go_roundw
              case rel => exact ⟨i + 1, V, s, q, by omega, by omega, rfl, rfl, by go_num, by omega, by omega, hs, hqq, hst, hG⟩
              case measure => simp [intOf]; omega
            · by_cases h15 : n = 15
              · have h8' : ¬ (128 : Int) ≤ (n : Int) := by omega
                subst h15
                go_wp2
                go_roundw
                case rel => exact ⟨i + 1, V, s, q, by omega, by omega, rfl, rfl, by go_num, by omega, by omega, hs, hqq, hst, hG⟩
                case measure => simp [intOf]; omega
              · have h8' : ¬ (128 : Int) ≤ (n : Int) := by omega
                have f1 : ((n : Int) == 27) = false := by simp; omega
                have f2 : ((n : Int) == 14) = false := by simp; omega
                have f3 : ((n : Int) == 15) = false := by simp; omega
                have aSz := Hid.mk' (aS.out n (by omega) h27)
                have aKz := Hid.mk' (aK.out V n (by omega) h27 h14 h15)
                have hlz : Hid ((b8 n :: L.drop (i + 1)).length = len - i) := Hid.mk' (by rw [hb80.out, ← hdr0.out, List.length_drop, hl0.out])
                have hbz : Hid (∀ wx, w.grownBy wx none → Bytes wx (some ⟨g, o + i, none⟩) (b8 n :: L.drop (i + 1))) := Hid.mk' (fun wx hg => by
                  have := hby0.out wx hg
                  rwa [hdr0.out, ← hb80.out] at this)
                have aGz := Hid.mk' (fun w hB hw => aG.out n (by omega) h27 (L.drop (i + 1)) (len - i) hlz.out (some ⟨g, o + i, none⟩) (cap - i) w hB (by omega) (by omega) hw)
                obtain ⟨q1, hq1⟩ : ∃ s, Hid (str [b8 n] = s) := ⟨_, Hid.mk' rfl⟩
                obtain ⟨x1, hx1⟩ : ∃ s, Hid (str (xV V n) = s) := ⟨_, Hid.mk' rfl⟩
                rw [hq1.out] at aSz
                rw [hx1.out] at aKz
                have hq1z : q1.size ≤ 1 := by rw [← hq1.out, str_size]; simp
                have hx1z : x1.size ≤ 5 := by rw [← hx1.out, str_size]; exact xV_len V n
                have hcell : Hid (∀ wx, w.grownBy wx none → (fun w' => (convert 25 9 (.slice (some ⟨g, o + i, none⟩) 1 (cap - i))).run Try.prog w' = .ok (.string q1) w') wx) := Hid.mk' (fun wx hg => by
                  have := conv ((hbz.out _ hg).take 1) 25 9 (cap - i) Try.underlying25 Try.underlying5 Try.underlying9
                  simp only [List.take_succ_cons, List.take_zero, List.length_cons, List.length_nil, Nat.zero_add] at this
                  rw [hq1.out] at this
                  exact this)
                have e1 : (i : Int) + 1 ≤ (cap : Int) := by omega
                have e4 : (0 : Int) ≤ (i : Int) + 1 := by omega
                have e5 : ¬ cap = i := by omega
                have e3 : IntKind.i64.wrap ((i : Int) + 1) = (i : Int) + 1 := by rw [IntKind.wrap_i64]; omega
                have e6 : IntKind.i32.wrap (n : Int) = (n : Int) := by rw [IntKind.wrap_i32]; omega
                have e7 : (i : Int) ≤ (len : Int) := by omega
                have e8 : (len : Int) ≤ (cap : Int) := by omega
                have e9 : (i : Int) ≤ (i : Int) + 1 := by omega
                have hqr := Hid.mk' (K.out _ _ hq.out hG.out)
                go_upto_region 11 with fail
                clear x0
                have hS0 := hcell.out _ (gt hG.out (gd (grownBy_refl wr none)))
                go_region_held3 (fun w' => (convert 25 9 (.slice (some ⟨g, o + i, none⟩) 1 (cap - i))).run Try.prog w' = .ok (.string q1) w') (first | assumption | exact hS0) (first
                  | (go_at_call 14; refine (aSz.out _ (K.out _ _ hqr.out (by (repeat (first | with_reducible exact grownBy_refl _ _ | (with_reducible refine gs ?_ ?_; first | omega | (simp; omega)) | with_reducible refine ga ?_ | with_reducible refine gd ?_ | with_reducible refine gdn ?_ | with_reducible refine gt ?_ (by assumption)))))).mono ?_; rintro e w3 ⟨rfl, hg3⟩; have hS3 := hcell.out _ (gt hG.out (show wr.grownBy w3 none by (repeat (first | with_reducible exact grownBy_refl _ _ | (with_reducible refine gs ?_ ?_; first | omega | (simp; omega)) | with_reducible refine ga ?_ | with_reducible refine gd ?_ | with_reducible refine gdn ?_ | with_reducible refine gt ?_ (by assumption))))))
                  | (go_at_call 8; refine (aGz.out _ (hbz.out _ (gt hG.out (by (repeat (first | with_reducible exact grownBy_refl _ _ | (with_reducible refine gs ?_ ?_; first | omega | (simp; omega)) | with_reducible refine ga ?_ | with_reducible refine gd ?_ | with_reducible refine gdn ?_ | with_reducible refine gt ?_ (by assumption)))))) (K.out _ _ hqr.out (by (repeat (first | with_reducible exact grownBy_refl _ _ | (with_reducible refine gs ?_ ?_; first | omega | (simp; omega)) | with_reducible refine ga ?_ | with_reducible refine gd ?_ | with_reducible refine gdn ?_ | with_reducible refine gt ?_ (by assumption)))))).mono ?_; rintro e w4 ⟨rfl, hg4⟩; have hS4 := hcell.out _ (gt hG.out (show wr.grownBy w4 none by (repeat (first | with_reducible exact grownBy_refl _ _ | (with_reducible refine gs ?_ ?_; first | omega | (simp; omega)) | with_reducible refine ga ?_ | with_reducible refine gd ?_ | with_reducible refine gdn ?_ | with_reducible refine gt ?_ (by assumption)))))))
                have hgr4 : Hid (wr.grownBy w4 none) := Hid.mk' (by (repeat (first | with_reducible exact grownBy_refl _ _ | (with_reducible refine gs ?_ ?_; first | omega | (simp; omega)) | with_reducible refine ga ?_ | with_reducible refine gd ?_ | with_reducible refine gdn ?_ | with_reducible refine gt ?_ (by assumption))))
                clear hS0 hS3 hS4 hg3 hg4 aSz aGz
                have hst4 := hst.out.kept0 hgr4.out
                have hq4 := Hid.mk' (K.out _ _ hqr.out hgr4.out)
                go_upto_region 13 with fail
                go_upto_region 14 with (first
                  | (refine wpList_loadC _ rfl 24 _ rfl _ Try.underlying24 rfl SB (sC (mV V : Int) 0 0 0) infoS rfl hst4 ?_)
                  | (go_at_call 14; refine (aKz.out _ hq4.out).mono ?_; rintro e w5 ⟨rfl, hg5⟩)
                  | (refine wpList_allocC _ rfl 35 rfl (pZ 0 ⟨#[]⟩) (zeroP _) ?_; intro w6 p6 hg6)
                  | (refine wpList_storeC _ rfl 35 _ _ rfl _ (pZ 0 ⟨#[]⟩) (pM 0 x1 1) infoP rfl (pC_one _ _ _ _ _ _) rfl rfl p6 ?_; intro w7 p7 hg7))
                have hg47 : Hid (w4.grownBy w7 none) := Hid.mk' (grownBy_new (gt hg5 hg6) hg7 (fun k hk => by have h5 := Option.some.inj hk; have h6 := hg5.size; omega))
                have hst7 := Hid.mk' (hst4.kept0 hg47.out)
                have hG7 : Hid (w.grownBy w7 none) := Hid.mk' (gt hG.out (gt hgr4.out hg47.out))
                have p70 := Hid.mk' p7
                clear hg5 hg6 hg7 p6 hst4
                generalize w5.heap.size = PB at *
                have y0 := p7.cell 0 (v := .int .i64 0) rfl
                have y2 := p7.cell 2 (v := .int .i64 1) rfl
                have y3 := p7.cell 3 (v := .int .i64 0) rfl
                have y4 := p7.cell 4 (v := .int .u32 0) rfl
                have y5 := p7.cell 5 (v := .int .i32 0) rfl
                go_upto_region 16 with fail
                clear y0 y2 y3 y4 y5 p7
                have hne : Hid (some PB ≠ some SB) := Hid.mk' (by intro e; have h5 := Option.some.inj e; have := hst7.out.ne p70.out (by decide); omega)
                have hD7 : w7.grownBy w7.drew none := gd (grownBy_refl w7 none)
                have ha1 : ¬ 9223372036854775807 < s.size + x1.size := by omega
                have ha2 : ¬ 9223372036854775807 < q.size + q1.size := by omega
                have hcl : Hid (∀ wx, w.grownBy wx none → CA wx PB 35 (pM 0 x1 1) → (fun w' => w'.cell? ⟨PB, 1, none⟩ = some (.string x1) ∧ w'.cell? ⟨PB, 2, none⟩ = some (.int .i64 1) ∧ w'.cell? ⟨PB, 3, none⟩ = some (.int .i64 0) ∧ w'.cell? ⟨PB, 4, none⟩ = some (.int .u32 0) ∧ w'.cell? ⟨PB, 5, none⟩ = some (.int .i32 0) ∧ (convert 25 9 (.slice (some ⟨g, o + i, none⟩) 1 (cap - i))).run Try.prog w' = .ok (.string q1) w') wx) := Hid.mk' (fun wx hg hp => ⟨hp.cell 1 rfl, hp.cell 2 rfl, hp.cell 3 rfl, hp.cell 4 rfl, hp.cell 5 rfl, hcell.out _ hg⟩)
                have hSd := hcl.out _ (gt hG7.out hD7) (p70.out.kept0 hD7)
                refine wp_region_held_drew (S := fun w' => w'.cell? ⟨PB, 1, none⟩ = some (.string x1) ∧ w'.cell? ⟨PB, 2, none⟩ = some (.int .i64 1) ∧ w'.cell? ⟨PB, 3, none⟩ = some (.int .i64 0) ∧ w'.cell? ⟨PB, 4, none⟩ = some (.int .u32 0) ∧ w'.cell? ⟨PB, 5, none⟩ = some (.int .i32 0) ∧ (convert 25 9 (.slice (some ⟨g, o + i, none⟩) 1 (cap - i))).run Try.prog w' = .ok (.string q1) w') (by kernel_rfl) hSd (fun hHeld => ?_)
                refine wpAnyH_take (i := 0) (v := ?_) rfl (by kernel_rfl) (by kernel_rfl) (by kernel_rfl) (fun _ _ _ h => h) (Or.inl ⟨by rfl, ?_⟩) (by assumption) ?_; rotate_left
                · (intro w hSw; (try dsimp only at hSw); go_simp; try with_reducible rfl)
                try simp only [List.getElem_toArray, List.getElem_cons_zero, Act.put, List.setIfInBounds_toArray, List.set_cons_zero, List.set_cons_succ]
                refine wpAnyH_take (i := 1) (v := ?_) rfl (by kernel_rfl) (by kernel_rfl) (by kernel_rfl) (fun _ _ _ h => h) (Or.inl ⟨by rfl, ?_⟩) (by assumption) ?_; rotate_left
                · (intro w hSw; (try dsimp only at hSw); go_simp; try with_reducible rfl)
                try simp only [List.getElem_toArray, List.getElem_cons_zero, List.getElem_cons_succ, Act.put, List.setIfInBounds_toArray, List.set_cons_zero, List.set_cons_succ]
                refine wpAnyH_take (i := 2) (v := ?_) rfl (by kernel_rfl) (by kernel_rfl) (by kernel_rfl) (fun _ _ _ h => h) (Or.inl ⟨by rfl, ?_⟩) (by assumption) ?_; rotate_left
                · (intro w hSw; (try dsimp only at hSw); go_simp; try with_reducible rfl)
                try simp only [List.getElem_toArray, List.getElem_cons_zero, List.getElem_cons_succ, Act.put, List.setIfInBounds_toArray, List.set_cons_zero, List.set_cons_succ]
                refine wpAnyH_take (i := 3) (v := ?_) rfl (by kernel_rfl) (by kernel_rfl) (by kernel_rfl) (fun _ _ _ h => h) (Or.inl ⟨by rfl, ?_⟩) (by assumption) ?_; rotate_left
                · (intro w hSw; (try dsimp only at hSw); go_simp; try with_reducible rfl)
                try simp only [List.getElem_toArray, List.getElem_cons_zero, List.getElem_cons_succ, Act.put, List.setIfInBounds_toArray, List.set_cons_zero, List.set_cons_succ]
                refine wpAnyH_take (i := 4) (v := ?_) rfl (by kernel_rfl) (by kernel_rfl) (by kernel_rfl) (fun _ _ _ h => h) (Or.inl ⟨by rfl, ?_⟩) (by assumption) ?_; rotate_left
                · (intro w hSw; (try dsimp only at hSw); go_simp; try with_reducible rfl)
                try simp only [List.getElem_toArray, List.getElem_cons_zero, List.getElem_cons_succ, Act.put, List.setIfInBounds_toArray, List.set_cons_zero, List.set_cons_succ]
                refine wpAnyH_take (i := 5) (v := ?_) rfl (by kernel_rfl) (by kernel_rfl) (by kernel_rfl) (fun _ _ _ h => h) (Or.inl ⟨by rfl, ?_⟩) (by assumption) ?_; rotate_left
                · (intro w hSw; (try dsimp only at hSw); go_simp; try with_reducible rfl)
                try simp only [List.getElem_toArray, List.getElem_cons_zero, List.getElem_cons_succ, Act.put, List.setIfInBounds_toArray, List.set_cons_zero, List.set_cons_succ]
                refine wpAnyH_take (i := 6) (v := ?_) rfl (by kernel_rfl) (by kernel_rfl) (by kernel_rfl) (fun _ _ _ h => h) (Or.inl ⟨by rfl, ?_⟩) (by assumption) ?_; rotate_left
                · (intro w hSw; (try dsimp only at hSw); go_simp; try with_reducible rfl)
                try simp only [List.getElem_toArray, List.getElem_cons_zero, List.getElem_cons_succ, Act.put, List.setIfInBounds_toArray, List.set_cons_zero, List.set_cons_succ]
                refine wpAnyH_take (i := 7) (v := ?_) rfl (by kernel_rfl) (by kernel_rfl) (by kernel_rfl) (fun _ _ _ h => h) (Or.inl ⟨by rfl, ?_⟩) (by assumption) ?_; rotate_left
                · (intro w hSw; (try dsimp only at hSw); go_simp; try with_reducible rfl)
                try simp only [List.getElem_toArray, List.getElem_cons_zero, List.getElem_cons_succ, Act.put, List.setIfInBounds_toArray, List.set_cons_zero, List.set_cons_succ]
                refine wpAnyH_take (i := 8) (v := ?_) rfl (by kernel_rfl) (by kernel_rfl) (by kernel_rfl) (fun _ _ _ h => h) (Or.inl ⟨by rfl, ?_⟩) (by assumption) ?_; rotate_left
                · (intro w hSw; (try dsimp only at hSw); go_simp; try with_reducible rfl)
                try simp only [List.getElem_toArray, List.getElem_cons_zero, List.getElem_cons_succ, Act.put, List.setIfInBounds_toArray, List.set_cons_zero, List.set_cons_succ]
                refine wpAnyH_take (i := 9) (v := ?_) rfl (by kernel_rfl) (by kernel_rfl) (by kernel_rfl) (fun _ _ _ h => h) (Or.inl ⟨by rfl, ?_⟩) (by assumption) ?_; rotate_left
                · (intro w hSw; (try dsimp only at hSw); go_simp; try with_reducible rfl)
                try simp only [List.getElem_toArray, List.getElem_cons_zero, List.getElem_cons_succ, Act.put, List.setIfInBounds_toArray, List.set_cons_zero, List.set_cons_succ]
                refine wpAnyH_take (i := 10) (v := ?_) rfl (by kernel_rfl) (by kernel_rfl) (by kernel_rfl) (fun _ _ _ h => h) (Or.inl ⟨by rfl, ?_⟩) (by assumption) ?_; rotate_left
                · (intro w hSw; (try dsimp only at hSw); go_simp; try with_reducible rfl)
                try simp only [List.getElem_toArray, List.getElem_cons_zero, List.getElem_cons_succ, Act.put, List.setIfInBounds_toArray, List.set_cons_zero, List.set_cons_succ]
                refine wpAnyH_take (i := 11) (v := ?_) rfl (by kernel_rfl) (by kernel_rfl) (by kernel_rfl) (fun _ _ _ h => h) (Or.inl ⟨by rfl, ?_⟩) (by assumption) ?_; rotate_left
                · (intro w hSw; (try dsimp only at hSw); go_simp; try with_reducible rfl)
                try simp only [List.getElem_toArray, List.getElem_cons_zero, List.getElem_cons_succ, Act.put, List.setIfInBounds_toArray, List.set_cons_zero, List.set_cons_succ]
                refine wpAnyH_take (i := 12) (v := ?_) rfl (by kernel_rfl) (by kernel_rfl) (by kernel_rfl) (fun _ _ _ h => h) (Or.inl ⟨by rfl, ?_⟩) (by assumption) ?_; rotate_left
                · (intro w hSw; (try dsimp only at hSw); go_simp; try with_reducible rfl)
                try simp only [List.getElem_toArray, List.getElem_cons_zero, List.getElem_cons_succ, Act.put, List.setIfInBounds_toArray, List.set_cons_zero, List.set_cons_succ]
                refine wpAnyH_take (i := 13) (v := ?_) rfl (by kernel_rfl) (by kernel_rfl) (by kernel_rfl) (fun _ _ _ h => h) (Or.inl ⟨by rfl, ?_⟩) (by assumption) ?_; rotate_left
                · (intro w hSw; (try dsimp only at hSw); go_simp; try with_reducible rfl)
                try simp only [List.getElem_toArray, List.getElem_cons_zero, List.getElem_cons_succ, Act.put, List.setIfInBounds_toArray, List.set_cons_zero, List.set_cons_succ]
                refine wpAnyH_take (i := 14) (v := ?_) rfl (by kernel_rfl) (by kernel_rfl) (by kernel_rfl) (fun _ _ _ h => h) (Or.inl ⟨by rfl, ?_⟩) (by assumption) ?_; rotate_left
                · (intro w hSw; (try dsimp only at hSw); go_simp; try with_reducible rfl)
                try simp only [List.getElem_toArray, List.getElem_cons_zero, List.getElem_cons_succ, Act.put, List.setIfInBounds_toArray, List.set_cons_zero, List.set_cons_succ]
                refine wpAnyH_ready (rs := [15]) (by kernel_rfl) (by simp) ?_
                refine AllReadyH.cons rfl (fun K hK => ?_) AllReadyH.nil
                refine step_storeC (by rfl) 24 _ _ (by rfl) SB (sC (mV V : Int) 0 0 0) (sC 1 0 0 0) infoS rfl (sC_one _ _ _ _) (by simp [Act.eval]) (by simp [Act.eval]) (hst7.out.kept0 hD7) ?_
                intro wF sF hgF
                have hGF : Hid (w.grownBy wF none) := Hid.mk' (grownBy_new (gt hG7.out hD7) hgF (fun k hk => by have h5 := Option.some.inj hk; have h6 := hSB.out; omega))
                refine hK.out _ _ (hcl.out _ hGF.out ((p70.out.kept0 hD7).kept hgF hne.out)) (fun hHeld => ?_)
                clear hK K
                try simp only [List.getElem_toArray, List.getElem_cons_zero, List.getElem_cons_succ, Act.put, List.setIfInBounds_toArray, List.set_cons_zero, List.set_cons_succ]
                refine wpAnyH_take (i := 16) (v := ?_) rfl (by kernel_rfl) (by kernel_rfl) (by kernel_rfl) (fun _ _ _ h => h) (Or.inl ⟨by rfl, ?_⟩) (by assumption) ?_; rotate_left
                · (intro w hSw; (try dsimp only at hSw); go_simp; try with_reducible rfl)
                try simp only [List.getElem_toArray, List.getElem_cons_zero, List.getElem_cons_succ, Act.put, List.setIfInBounds_toArray, List.set_cons_zero, List.set_cons_succ]
                refine wpAnyH_done (by kernel_rfl) ?_ _
                go_wp2_with fail
                go_roundw
                case rel =>
                  refine ⟨i + 1, V ++ [b8 n], s ++ x1, q ++ q1, by omega, by omega, rfl, rfl, by go_num, ?_, by rw [ByteArray.size_append]; omega, Hid.mk' (by rw [hs.out, ← hx1.out, str_app, tx_snoc]), Hid.mk' (by rw [hqq.out, ← hq1.out, str_app]), ?_, hGF⟩
                  · have h1 : (s ++ x1).size = (tx (V ++ [b8 n])).length := by rw [hs.out, ← hx1.out, str_app, tx_snoc, str_size]
                    have h2 := tx_len (V ++ [b8 n])
                    have h3 : q.size = V.length := by rw [hqq.out, str_size]
                    simp at h2
                    omega
                  · rw [mV_snoc]
                    exact Hid.mk' sF
                case measure => simp [intOf]; omega
      · obtain rfl : i = 200 := by omega
        rcases V with _ | ⟨c0, V0⟩
        · have hs2 : s = ⟨#[]⟩ := hs.out
          have hq2 : q = ⟨#[]⟩ := hqq.out
          subst hs2
          subst hq2
          go_wp2
          go_ret
          exact ⟨rfl, hG.out⟩
        · have hq3 : (q.toList == (⟨#[]⟩ : ByteArray).toList) = false := by rw [hqq.out, str_toList, ByteArray.toList_eq]; rfl
          have hq4 : q.toList.isEmpty = false := by rw [hqq.out, str_toList]; rfl
          have hs3 : s = (⟨#[27, 36, 41, 67]⟩ : ByteArray) ++ q := by rw [hs.out, hqq.out]; unfold tx; rw [if_neg (by simp), ← str_app]; rfl
          have ha1 : ¬ 9223372036854775807 < (⟨#[27, 36, 41, 67]⟩ : ByteArray).size + q.size := by have : (⟨#[27, 36, 41, 67]⟩ : ByteArray).size = 4 := rfl; omega
          generalize hrr : (⟨#[27, 36, 41, 67]⟩ : ByteArray) ++ q = rr at *
          subst hs3
          go_wp2
          go_ret
          exact ⟨rfl, hG.out⟩
    · obtain rfl : i = len := by omega
      rcases V with _ | ⟨c0, V0⟩
      · have hs2 : s = ⟨#[]⟩ := hs.out
        have hq2 : q = ⟨#[]⟩ := hqq.out
        subst hs2
        subst hq2
        go_wp2
        go_ret
        exact ⟨rfl, hG.out⟩
      · have hq3 : (q.toList == (⟨#[]⟩ : ByteArray).toList) = false := by rw [hqq.out, str_toList, ByteArray.toList_eq]; rfl
        have hq4 : q.toList.isEmpty = false := by rw [hqq.out, str_toList]; rfl
        have hs3 : s = (⟨#[27, 36, 41, 67]⟩ : ByteArray) ++ q := by rw [hs.out, hqq.out]; unfold tx; rw [if_neg (by simp), ← str_app]; rfl
        have ha1 : ¬ 9223372036854775807 < (⟨#[27, 36, 41, 67]⟩ : ByteArray).size + q.size := by have : (⟨#[27, 36, 41, 67]⟩ : ByteArray).size = 4 := rfl; omega
        generalize hrr : (⟨#[27, 36, 41, 67]⟩ : ByteArray) ++ q = rr at *
        subst hs3
        go_wp2
        go_ret
        exact ⟨rfl, hG.out⟩
end Go.Proofs.Ytdobjijebalkkaa.C21

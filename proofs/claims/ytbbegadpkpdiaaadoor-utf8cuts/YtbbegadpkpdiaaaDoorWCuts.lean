/- Utf8Cuts: the walk. -/
import Derived.Test.YtbbegadpkpdiaaaDoorValid
import Derived.Test.YtbbegadpkpdiaaaDoorConv
import Derived.Test.YtbbegadpkpdiaaaDoorArgs
namespace Go.Proofs.YtbbegadpkpdiaaaDoor.U8
open Go.ChangeShapes Go.WideShapes Go.ChangeAt Go.RowKit Go.Proofs.YtbbegadpkpdiaaaDoor.Mem Go.Proofs.YtbbegadpkpdiaaaDoor.Ucs
set_option linter.unusedVariables false

def texts (us : List Nat) : List UInt8 := us.flatMap unit
def Scs (us : List Nat) : Prop := ∀ u ∈ us, scB (u : Int) = true
theorem cut_math : ∀ (us : List Nat), Scs us → ∀ k, k ≤ (texts us).length →
    ((scanAll ((texts us).take k)).2.2 = 0 ∧ (scanAll ((texts us).take k)).2.1 = k) ∨
    ((scanAll ((texts us).take k)).2.2 ≠ 0 ∧ (scanAll ((texts us).take k)).2.1 < k ∧ k - (scanAll ((texts us).take k)).2.1 < 4 ∧ get (((texts us).take k).drop (scanAll ((texts us).take k)).2.1) = .more) := by
  intro us
  induction us with
  | nil =>
    intro _ k hk
    simp [texts] at hk
    subst hk
    left
    simp [texts, scanAll_nil]
  | cons u us ih =>
    intro hs k hk
    have hu : scB (u : Int) = true := hs u (by simp)
    have hus : Scs us := fun x hx => hs x (by simp [hx])
    have ht : texts (u :: us) = unit u ++ texts us := by simp [texts]
    rw [ht] at hk ⊢
    have hul := unit_length u
    have huk := uk_le u
    by_cases hlt : k < (unit u).length
    · rw [List.take_append_of_le_length (by omega)]
      by_cases h0 : k = 0
      · subst h0
        left
        simp [scanAll_nil]
      · right
        have hg := get_cut hu k hlt
        have hne : (unit u).take k ≠ [] := List.ne_nil_of_length_pos (by simp; omega)
        rw [scanAll_stop hne (by rw [hg]; simp [Res.err]), hg]
        exact ⟨by simp [Res.err], by show 0 < k; omega, by show k - 0 < 4; omega, hg⟩
    · have e : (unit u ++ texts us).take k = unit u ++ (texts us).take (k - (unit u).length) := by
        rw [List.take_append, List.take_of_length_le (by omega)]
      rw [e, scan_unit hu]
      have := ih hus (k - (unit u).length) (by simp at hk; omega)
      rcases this with ⟨a, b⟩ | ⟨a, b, c, d⟩
      · left
        exact ⟨a, by show _ + _ = k; omega⟩
      · right
        refine ⟨a, by show _ + _ < k; omega, by show k - (_ + _) < 4; omega, ?_⟩
        show get ((unit u ++ _).drop (_ + _)) = .more
        rw [List.drop_append, List.drop_eq_nil_of_le (by omega), Nat.add_sub_cancel_left]
        exact d
theorem set_text (z : Int) : ∃ e s us, setV z = putV e s ∧ s.toList = texts us ∧ Scs us ∧ s.size ≤ 4 := by
  unfold setV
  split
  · rename_i h
    obtain ⟨n, rfl⟩ := Int.eq_ofNat_of_zero_le (scB_iff.1 h).1
    refine ⟨_, _, [n], rfl, by rw [str_toList]; simp [texts], ?_, by rw [str_size, Int.toNat_natCast, unit_length]; have := uk_le n; omega⟩
    intro x hx
    simp at hx
    subst hx
    exact h
  · exact ⟨_, _, [], rfl, by simp [texts, ByteArray.toList_eq], (fun x hx => by cases hx), by decide⟩
theorem size_list (x : ByteArray) : x.size = x.toList.length := by rw [ByteArray.toList_eq, Array.length_toList]; rfl
theorem extract_list' (x : ByteArray) (i j : Nat) : (x.extract i j).toList = (x.toList.take j).drop i := by
  rw [ByteArray.toList_eq, ByteArray.toList_eq, ByteArray.data_extract, Array.toList_extract]
  simp [List.extract, List.drop_take]

set_option maxRecDepth 100000 in
set_option maxHeartbeats 2000000 in
theorem cuts_walk (at_ : Int) (ao : Option Addr) (len cap : Nat) (w : World) (hF : Forms w) (Z : Nat → Int) (hZ : ∀ j, j < len → (Lit.int .i32 (Z j)).wf = true ∧ ∃ b o, ao = some ⟨b, o, none⟩ ∧ b < w.heap.size ∧ w.cell? ⟨b, o + j, none⟩ = some (.int .i32 (Z j))) (hlen : len ≤ 140737488351232) :
    Calls Tryd.prog 7 #[.slice ao len cap, .int .i64 at_] w fun e w' => e = .returned (.bool true) ∧ Below w.heap.size w w' := by
  have hw := works_any w hF
  have hF0 : Hid (Forms w) := hF
  have hZ0 : Hid (∀ j, j < len → (Lit.int .i32 (Z j)).wf = true ∧ ∃ b o, ao = some ⟨b, o, none⟩ ∧ b < w.heap.size ∧ w.cell? ⟨b, o + j, none⟩ = some (.int .i32 (Z j))) := hZ
  have hpb := put_bytes
  clear hF hZ
  go_enter Tryd.func7, Tryd.ntmps7
  go_wp2_with (go_at_call 17; refine hw.mono ?_; rintro e w1 ⟨rfl, hg1⟩; clear hw)
  go_loopw [5, 6] (fun t5 t6 wx => ∃ (i : Nat) (x : ByteArray), i ≤ 200 ∧ t5 = .string x ∧ t6 = .int .i64 (i : Int) ∧ x.size ≤ 4 * i ∧ Hid (∃ us, x.toList = texts us ∧ Scs us) ∧ Hid (w.grownBy wx none)) (fun _ t6 _ => 201 - (intOf t6).toNat)
  case atStart => exact ⟨0, ⟨#[]⟩, by omega, rfl, rfl, by decide, (⟨[], by simp [texts, ByteArray.toList_eq], by intro x hx; cases hx⟩ : ∃ us, _), hg1⟩
  case round =>
    obtain ⟨i, x, hi, rfl, rfl, hxs, hus, hgx⟩ := hrel
    by_cases hgo : i < len ∧ i < 200
    · obtain ⟨hg, c1, c2⟩ : (i : Int) < 200 ∧ (i : Int) < (len : Int) ∧ True := ⟨by omega, by omega, trivial⟩
      obtain ⟨hwf, b, o, rfl, hbl, hcell⟩ := hZ0.out i hgo.1
      have xc : wr.cell? ⟨b, o + i, none⟩ = some (.int .i32 (Z i)) := hgx.out.cell hcell (by simp)
      obtain ⟨e1, s1, us1, hs1, ht1, hsc1, hsz1⟩ := set_text (Z i)
      have hset : Hid (Calls Tryd.prog 11 #[.int .i32 (Z i)] wr fun e w' => e = .returned (putV e1 s1) ∧ wr.grownBy w' none) := by
        have := set_any (Z i) wr (hF0.out.kept0 hgx.out)
        rwa [hs1] at this
      have ht1' := Hid.mk' ht1
      clear ht1 hs1 hcell
      go_wp2_with (go_at_call 11; refine hset.out.mono ?_; rintro e w2 ⟨rfl, hg2⟩)
      go_roundw
      case rel =>
        refine ⟨i + 1, x ++ s1, by omega, rfl, by go_num, by rw [ByteArray.size_append]; omega, ?_, ?_⟩
        · refine (?_ : ∃ us, _)
          obtain ⟨us, h1, h2⟩ := hus.out
          refine ⟨us ++ us1, ?_, fun y hy => ?_⟩
          · rw [ByteArray.toList_eq, ByteArray.data_append, Array.toList_append, ← ByteArray.toList_eq, ← ByteArray.toList_eq, h1, ht1'.out]
            simp [texts]
          · rcases List.mem_append.1 hy with h | h
            · exact h2 y h
            · exact hsc1 y h
        · exact grownBy_trans hgx.out hg2
      case measure => simp [intOf]; omega
    · have hgo' : (len : Int) ≤ (i : Int) ∨ ((i : Int) < (len : Int) ∧ (200 : Int) ≤ (i : Int)) := by omega
      clear hgo
      obtain ⟨r, hr0, hrl⟩ := mod_fit at_ (x.size + 1) (by omega) (by omega)
      have hr : wrap64 ((IntKind.u64.wrap at_).tmod ((x.size : Int) + 1)) = (r : Int) := by simpa using hr0
      clear hr0
      obtain ⟨us, hx, hus'⟩ := hus.out
      have hxl := size_list x
      have hm := cut_math us hus' r (by rw [← hx, ← hxl]; omega)
      have hDe : (x.extract 0 r).toList = (texts us).take r := by rw [extract_list', hx, List.drop_zero]
      obtain ⟨D, hD⟩ : ∃ D, D = (texts us).take r := ⟨_, rfl⟩
      rw [← hD] at hm hDe
      have hDl : D.length = r := by rw [hD, ← hx, List.length_take]; omega
      have hys : (x.extract 0 r).size = r := by rw [size_list, hDe, hDl]
      obtain ⟨cc, w5, hcv, hB5, hg5, hcc, hcm⟩ := conv_new (P := Tryd.prog) wr 9 22 (x.extract 0 r) Tryd.underlying9 Tryd.underlying22 Tryd.underlying5 (by omega)
      rw [hys] at hcv hcc
      rw [hDe] at hB5
      obtain ⟨n, hn⟩ : ∃ n, Hid ((scanAll D).2.1 = n) := ⟨_, rfl⟩
      obtain ⟨ok, hok⟩ : ∃ ok, Hid (decide ((scanAll D).2.2 = 0) = ok) := ⟨_, rfl⟩
      have hB6 : Hid (Bytes w5 (some ⟨wr.heap.size, 0, none⟩) D) := hB5
      have hF6 : Hid (Forms w5) := (hF0.out.kept0 hgx.out).kept0 hg5
      have hgw : Hid (w.grownBy w5 none) := grownBy_trans hgx.out hg5
      have key : Hid (Calls Tryd.prog 14 #[.slice (some ⟨wr.heap.size, 0, none⟩) r cc] w5 fun e w' => e = .returned (.tuple #[.int .i64 (n : Int), .bool ok]) ∧ w5.grownBy w' none) := by
        have := valid_any (some ⟨wr.heap.size, 0, none⟩) cc D w5 hF6.out hB6.out (by omega) (by omega) hcm n ok hn hok
        rwa [hDl] at this
      rw [hn.out] at hm
      clear hB5 hcc
      rcases hm with ⟨h1, h2⟩ | ⟨h1, h2, h3, h4⟩
      · obtain rfl : ok = true := by rw [← hok.out]; simpa using h1
        subst h2
        clear hok hn h1 hDe hD hx hxl
        rcases hgo' with c1 | ⟨c1, c2⟩
        all_goals
          go_wp2_with (go_at_call 14; refine key.out.mono ?_; rintro e w6 ⟨rfl, hg6⟩)
          go_ret
          exact ⟨rfl, (Below.refl _ w).grown (grownBy_trans hgw.out hg6) (Nat.le_refl _) (by simp)⟩
      · obtain rfl : ok = false := by rw [← hok.out]; simpa using h1
        have h2' : (n : Int) < (r : Int) := by omega
        have h3' : (r : Int) - (n : Int) < 4 := by omega
        have hDe2 : (x.extract n r).toList = D.drop n := by rw [extract_list', hx, hD]
        have hzs : (x.extract n r).size = r - n := by
          rw [size_list, hDe2, List.length_drop, hDl]
        have hcv2 : Hid (∀ w6 : World, ∃ c w', (convert 9 22 (.string (x.extract n r))).run Tryd.prog w6 = .ok (.slice (some ⟨w6.heap.size, 0, none⟩) (r - n) c) w' ∧ Bytes w' (some ⟨w6.heap.size, 0, none⟩) (D.drop n) ∧ w6.grownBy w' none) := by
          refine (?_ : ∀ w6, _)
          intro w6
          obtain ⟨c, w', k1, k2, k3, _, _⟩ := conv_new (P := Tryd.prog) w6 9 22 (x.extract n r) Tryd.underlying9 Tryd.underlying22 Tryd.underlying5 (by omega)
          rw [hzs] at k1
          rw [hDe2] at k2
          exact ⟨c, w', k1, k2, k3⟩
        have h4' := Hid.mk' h4
        clear hok hn h1 hDe hD hx h4 hDe2 hzs hxl
        rcases hgo' with c1 | ⟨c1, c2⟩
        all_goals
          go_wp2_with (first | (go_at_call 14; refine key.out.mono ?_; rintro e w6 ⟨rfl, hg6⟩; obtain ⟨c7, w7, hcv7, hB7, hg7⟩ := hcv2.out w6; have hB7' := Hid.mk' hB7; clear hB7 hcv) | (go_at_call 9; refine (get_at _ _ _ (D.drop n) _ ((hF6.out.kept0 hg6).kept0 hg7) hB7'.out (by rw [List.length_drop, hDl]) (by omega) _ h4'.out).mono ?_; rintro e w8 ⟨rfl, hg8⟩; simp only [Res.err, Res.n, Res.k, Res.a]))
          go_ret
          exact ⟨rfl, (Below.refl _ w).grown (grownBy_trans hgw.out (grownBy_trans hg6 (grownBy_trans hg7 hg8))) (Nat.le_refl _) (by simp)⟩
end Go.Proofs.YtbbegadpkpdiaaaDoor.U8

/- The document's parts of layer 23: a walk. -/
import Derived.Test.YtljkncgbabiojaaDoorNF23
namespace Go.Proofs.YtljkncgbabiojaaDoor.C23
open Go.ChangeShapes Go.WideShapes Go.ChangeAt Go.RowKit Go.Proofs.YtljkncgbabiojaaDoor.Mem Go.Proofs.YtljkncgbabiojaaDoor.El Go.Proofs.YtljkncgbabiojaaDoor.St Go.Proofs.YtljkncgbabiojaaDoor.Ri Go.Proofs.YtljkncgbabiojaaDoor.Sx
set_option linter.unusedVariables false
set_option linter.unusedSimpArgs false

/-- A text's parts, at each //: cur is what stands before it, behind the last //. -/
def pts : List UInt8 → List UInt8 → List (List UInt8)
  | cur, [] => [cur]
  | cur, [a] => [cur ++ [a]]
  | cur, a :: b :: r => if a = 47 ∧ b = 47 then cur :: pts [] r else pts (cur ++ [a]) (b :: r)
theorem pts_cons (cur : List UInt8) (a b : UInt8) (r : List UInt8) : pts cur (a :: b :: r) = if a = 47 ∧ b = 47 then cur :: pts [] r else pts (cur ++ [a]) (b :: r) := by rw [pts]
theorem pts_end {cur L : List UInt8} (h : L.length ≤ 1) : pts cur L = [cur ++ L] := by
  match L, h with
  | [], _ => rw [pts, List.append_nil]
  | [a], _ => rw [pts]
theorem ext_of (L : List UInt8) (a b : Nat) (h : b ≤ L.length) : (str L).extract a b = str ((L.take b).drop a) := by
  have e : ((str L).extract a b).data = (str ((L.take b).drop a)).data := by
    rw [ByteArray.data_extract]
    apply Array.toList_inj.1
    rw [Array.toList_extract]
    simp only [str, List.extract_eq_take_drop]
    rw [List.drop_take]
  cases h1 : (str L).extract a b
  cases h2 : str ((L.take b).drop a)
  rw [h1, h2] at e
  exact congrArg _ e
theorem ext_end (L : List UInt8) (a : Nat) : (str L).extract a (str L).size = str (L.drop a) := by
  have h := ext_of L a (str L).size (by rw [str_size]; exact Nat.le_refl _)
  rw [h, str_size, List.take_length]
theorem src_str1 (w : World) (x : List UInt8) : Src Tryd.prog 1 38 (.slice (some ⟨w.heap.size, 0, none⟩) 1 1) 1 (StE.cells [x]) (w.alloc (.cells #[.string (str x)] 9)) :=
  src_strs (rd_new w _ _ [x] rfl) 1
/-- One step of parts: behind a //, and behind any other byte. -/
theorem pts_hit {s : List UInt8} {f i : Nat} (hf : f ≤ i) (h : i + 1 < s.length) (h1 : s[i] = 47) (h2 : s[i + 1] = 47) : pts ((s.take i).drop f) (s.drop i) = (s.take i).drop f :: pts ((s.take (i + 2)).drop (i + 2)) (s.drop (i + 2)) := by
  rw [List.drop_eq_getElem_cons (show i < s.length by omega), List.drop_eq_getElem_cons (show i + 1 < s.length by omega), pts_cons, if_pos ⟨h1, h2⟩]
  have e : (s.take (i + 2)).drop (i + 2) = [] := List.drop_eq_nil_of_le (by rw [List.length_take]; omega)
  rw [e]
theorem pts_step {s : List UInt8} {f i : Nat} (hf : f ≤ i) (h : i + 1 < s.length) (hn : ¬ (s[i] = 47 ∧ s[i + 1] = 47)) : pts ((s.take i).drop f) (s.drop i) = pts ((s.take (i + 1)).drop f) (s.drop (i + 1)) := by
  have e : (s.take (i + 1)).drop f = (s.take i).drop f ++ [s[i]'(by omega)] := by
    rw [List.take_add_one, List.getElem?_eq_getElem (show i < s.length by omega), List.drop_append_of_le_length (by rw [List.length_take]; omega)]
    rfl
  rw [List.drop_eq_getElem_cons (show i < s.length by omega), List.drop_eq_getElem_cons (show i + 1 < s.length by omega), pts_cons, if_neg hn, e]
set_option maxRecDepth 100000 in
set_option maxHeartbeats 3000000 in
theorem parts_any (s : List UInt8) (hs : s.length ≤ 1000) (w : World) : Calls Tryd.prog 18 #[.string (str s)] w fun e w' => STold w (pts [] s) e w' := by
  have hsz : (str s).size = s.length := str_size s
  obtain ⟨P, hP⟩ : ∃ P, Hid (pts [] s = P) := ⟨_, Hid.mk' rfl⟩
  rw [hP.out]
  go_enter Tryd.func18, Tryd.ntmps18
  go_wp2
  go_loopw [3, 4, 5] (fun t3 t4 t5 wx => ∃ (i f : Nat) (ao : Option Addr) (cap : Nat) (A : List (List UInt8)), i ≤ s.length ∧ f ≤ i ∧ t5 = .int .i64 (i : Int) ∧ t4 = .int .i64 (f : Int) ∧ t3 = .slice ao A.length cap ∧ Hid (StE.Own wx ao cap A) ∧ Hid (A.length ≤ i ∧ A ++ pts ((s.take i).drop f) (s.drop i) = pts [] s) ∧ Hid (∀ g, blk ao = some g → w.heap.size ≤ g) ∧ Hid (w.grownBy wx none)) (fun _ _ t5 _ => s.length - (intOf t5).toNat)
  case atStart => exact ⟨0, 0, none, 0, [], by omega, by omega, rfl, rfl, rfl, Hid.mk' (.inl ⟨rfl, rfl, rfl⟩), Hid.mk' ⟨by simp, by simp⟩, Hid.mk' (by simp [blk]), Hid.mk' (grownBy_refl _ _)⟩
  case round =>
    obtain ⟨i, f, ao, cap, A, hi, hfi, rfl, rfl, rfl, ho, hA, hb, hG⟩ := hrel
    by_cases hlt : i + 1 < s.length
    · have hlt' : (i : Int) + 1 < (s.length : Int) := by omega
      obtain ⟨c, hc⟩ : ∃ c, Hid (s[i] = c) := ⟨_, Hid.mk' rfl⟩
      obtain ⟨d, hd⟩ : ∃ d, Hid (s[i + 1] = d) := ⟨_, Hid.mk' rfl⟩
      have hix := index_of (L := s) (i := i) (c := c) (by rw [List.getElem?_eq_getElem (by omega), hc.out]) wr
      have hiy0 := index_of (L := s) (i := i + 1) (c := d) (by rw [List.getElem?_eq_getElem hlt, hd.out]) wr
      have ec : ((i + 1 : Nat) : Int) = (i : Int) + 1 := by omega
      rw [ec] at hiy0
      by_cases h1 : c = 47
      · by_cases h2 : d = 47
        · have f1 : ((c.toNat : Int) == 47) = true := by rw [h1]; decide
          have f2 : ((d.toNat : Int) == 47) = true := by rw [h2]; decide
          have hst := Hid.mk' (pts_hit hfi hlt (by rw [hc.out]; exact h1) (by rw [hd.out]; exact h2))
          obtain ⟨x, hx⟩ : ∃ x, Hid ((s.take i).drop f = x) := ⟨_, Hid.mk' rfl⟩
          have hex : (str s).extract f i = str x := by rw [← hx.out]; exact ext_of s f i (by omega)
          obtain ⟨A2, hA2⟩ : ∃ A2, Hid (A ++ [x] = A2) := ⟨_, Hid.mk' rfl⟩
          have hA3 : Hid (A2.length ≤ i + 2 ∧ A2 ++ pts ((s.take (i + 2)).drop (i + 2)) (s.drop (i + 2)) = pts [] s) := Hid.mk' (by
            obtain ⟨p1, p2⟩ := hA.out
            rw [← hA2.out]
            refine ⟨by rw [List.length_append]; simp; omega, ?_⟩
            rw [← p2, hst.out, hx.out, List.append_assoc]
            rfl)
          have g1 : (0 : Int) ≤ (f : Int) := by omega
          have g2 : (f : Int) ≤ (i : Int) := by omega
          have g3 : (i : Int) ≤ (s.length : Int) := by omega
          have hA1 := Hid.mk' hA.out.1
          clear hst hx h1 h2 hc hd ec
          go_wp2_with (at_builtin; refine wpList_strs _ rfl _ _ rfl ao cap A rfl (ho.out.alloc _) _ rfl [x] (src_str1 _ x) (by have := hA1.out; simp; omega) A2 hA2.out ?_; intro a2 c2 w2 o2 g4 at2)
          go_roundw
          case rel =>
            refine ⟨i + 2, i + 2, a2, c2, A2, by omega, by omega, by go_num, by go_num, rfl, Hid.mk' o2, hA3, Hid.mk' (fun g hg => ?_), Hid.mk' (grownBy_new (gt hG.out (World.grownBy_alloc _ _ _)) g4 (fun g hg => hb.out g hg))⟩
            rcases at2 with rfl | rfl
            · exact hb.out g hg
            · simp [blk] at hg; have := hG.out.size; omega
          all_goals (simp [intOf] <;> omega)
        · have f1 : ((c.toNat : Int) == 47) = true := by rw [h1]; decide
          have f2 : ((d.toNat : Int) == 47) = false := by
            have : ¬ d.toNat = 47 := fun e => h2 (UInt8.toNat_inj.1 e)
            simp; omega
          have hst := Hid.mk' (pts_step hfi hlt (fun e => h2 (by rw [← hd.out]; exact e.2)))
          go_wp2
          go_roundw
          case rel => exact ⟨i + 1, f, ao, cap, A, by omega, by omega, by go_num, rfl, rfl, ho, Hid.mk' ⟨by have := hA.out.1; omega, by rw [← hst.out]; exact hA.out.2⟩, hb, hG⟩
          all_goals (simp [intOf] <;> omega)
      · have f1 : ((c.toNat : Int) == 47) = false := by
          have : ¬ c.toNat = 47 := fun e => h1 (UInt8.toNat_inj.1 e)
          simp; omega
        have hst := Hid.mk' (pts_step hfi hlt (fun e => h1 (by rw [← hc.out]; exact e.1)))
        go_wp2
        go_roundw
        case rel => exact ⟨i + 1, f, ao, cap, A, by omega, by omega, by go_num, rfl, rfl, ho, Hid.mk' ⟨by have := hA.out.1; omega, by rw [← hst.out]; exact hA.out.2⟩, hb, hG⟩
        all_goals (simp [intOf] <;> omega)
    · have hlt' : ¬ (i : Int) + 1 < (s.length : Int) := by omega
      obtain ⟨x, hx⟩ : ∃ x, Hid (s.drop f = x) := ⟨_, Hid.mk' rfl⟩
      have hex : (str s).extract f (str s).size = str x := by rw [← hx.out]; exact ext_end s f
      rw [hsz] at hex
      have hfin : Hid (A ++ [x] = P) := Hid.mk' (by
        rw [← hP.out, ← hA.out.2, pts_end (by rw [List.length_drop]; omega), ← hx.out]
        congr 2
        rw [← List.drop_append_of_le_length (by rw [List.length_take]; omega), List.take_append_drop])
      have g1 : (0 : Int) ≤ (f : Int) := by omega
      have g2 : (f : Int) ≤ (s.length : Int) := by omega
      have hA1 := Hid.mk' hA.out.1
      clear hx hA
      go_wp2_with (at_builtin; refine wpList_strs _ rfl _ _ rfl ao cap A rfl (ho.out.alloc _) _ rfl [x] (src_str1 _ x) (by have := hA1.out; simp; omega) P hfin.out ?_; intro a2 c2 w2 o2 g4 at2)
      go_ret
      refine ⟨a2, c2, rfl, o2, grownBy_new (gt hG.out (World.grownBy_alloc _ _ _)) g4 (fun g hg => hb.out g hg), fun g hg => ?_⟩
      rcases at2 with rfl | rfl
      · exact hb.out g hg
      · simp [blk] at hg; have := hG.out.size; omega
end Go.Proofs.YtljkncgbabiojaaDoor.C23

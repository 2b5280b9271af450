/- The document's Print of layer 23: walks. -/
import Derived.Test.YtljkncgbabiojaaDoorNR23
namespace Go.Proofs.YtljkncgbabiojaaDoor.C23
open Go.ChangeShapes Go.WideShapes Go.ChangeAt Go.RowKit Go.Proofs.YtljkncgbabiojaaDoor.Mem Go.Proofs.YtljkncgbabiojaaDoor.El Go.Proofs.YtljkncgbabiojaaDoor.St Go.Proofs.YtljkncgbabiojaaDoor.Ri Go.Proofs.YtljkncgbabiojaaDoor.Sx Go.Proofs.YtljkncgbabiojaaDoor.Cb Go.Proofs.YtljkncgbabiojaaDoor.Ar
set_option linter.unusedVariables false
set_option linter.unusedSimpArgs false

theorem str_app (A B : List UInt8) : str A ++ str B = str (A ++ B) := by
  have e : (str A ++ str B).data = (str (A ++ B)).data := by
    rw [ByteArray.data_append]
    simp [str]
  cases h1 : str A ++ str B
  cases h2 : str (A ++ B)
  rw [h1, h2] at e
  exact congrArg _ e
theorem nm_len (k : Int) : (nm k).length ≤ 20 := by
  unfold nm
  cases h : al k with
  | nil => simp
  | cons a l => exact ((al_short k).2 a (by rw [h]; simp)).2
set_option maxRecDepth 100000 in
set_option maxHeartbeats 1000000 in
theorem print_ff (k : Int) (n : List UInt8) (hn : Hid (nm k = n)) (hne : n ≠ []) (hl : n.length ≤ 20) (w : World) : Calls Tryd.prog 9 #[.agg (wC k false false)] w fun e w' => e = .returned (.string (str (n))) ∧ w.grownBy w' none := by
  have a1 := Hid.mk' (name_any k)
  rw [hn.out] at a1
  have f3 : (str n).toList.isEmpty = false := by rw [str_toList]; simpa using hne
  clear hne
  go_enter Tryd.func9, Tryd.ntmps9
  go_upto_region 1 with (refine wpList_boxC _ rfl 23 _ rfl (wC k false false) rfl ?_; intro w1 va hg1)
  have c0 := va.cell 0 rfl
  go_upto_region 2 with (go_at_call 21; refine (a1.out _).mono ?_; rintro e w2 ⟨rfl, hg2⟩)
  have c1 := (va.kept0 hg2).cell 1 rfl
  have c2 := (va.kept0 hg2).cell 2 rfl
  clear c0
  go_wp2
  go_ret
  exact ⟨by first | rfl | simp [List.append_assoc], gt hg1 hg2⟩
set_option maxRecDepth 100000 in
set_option maxHeartbeats 1000000 in
theorem print_tf (k : Int) (n : List UInt8) (hn : Hid (nm k = n)) (hne : n ≠ []) (hl : n.length ≤ 20) (w : World) : Calls Tryd.prog 9 #[.agg (wC k true false)] w fun e w' => e = .returned (.string (str (n ++ [47, 47, 84, 82, 65, 78, 83, 76, 73, 84]))) ∧ w.grownBy w' none := by
  have a1 := Hid.mk' (name_any k)
  rw [hn.out] at a1
  have f3 : (str n).toList.isEmpty = false := by rw [str_toList]; simpa using hne
  have e1 : str n ++ ({ data := #[47, 47, 84, 82, 65, 78, 83, 76, 73, 84] } : ByteArray) = str (n ++ [47, 47, 84, 82, 65, 78, 83, 76, 73, 84]) := str_app n [47, 47, 84, 82, 65, 78, 83, 76, 73, 84]
  have z1 : ¬ 9223372036854775807 < (str n).size + ({ data := #[47, 47, 84, 82, 65, 78, 83, 76, 73, 84] } : ByteArray).size := by rw [str_size]; show ¬ 9223372036854775807 < n.length + 10; omega
  clear hne
  go_enter Tryd.func9, Tryd.ntmps9
  go_upto_region 1 with (refine wpList_boxC _ rfl 23 _ rfl (wC k true false) rfl ?_; intro w1 va hg1)
  have c0 := va.cell 0 rfl
  go_upto_region 2 with (go_at_call 21; refine (a1.out _).mono ?_; rintro e w2 ⟨rfl, hg2⟩)
  have c1 := (va.kept0 hg2).cell 1 rfl
  have c2 := (va.kept0 hg2).cell 2 rfl
  clear c0
  go_wp2
  go_ret
  exact ⟨by first | rfl | simp [List.append_assoc], gt hg1 hg2⟩
set_option maxRecDepth 100000 in
set_option maxHeartbeats 1000000 in
theorem print_ft (k : Int) (n : List UInt8) (hn : Hid (nm k = n)) (hne : n ≠ []) (hl : n.length ≤ 20) (w : World) : Calls Tryd.prog 9 #[.agg (wC k false true)] w fun e w' => e = .returned (.string (str (n ++ [47, 47, 73, 71, 78, 79, 82, 69]))) ∧ w.grownBy w' none := by
  have a1 := Hid.mk' (name_any k)
  rw [hn.out] at a1
  have f3 : (str n).toList.isEmpty = false := by rw [str_toList]; simpa using hne
  have e2 : str (n) ++ ({ data := #[47, 47, 73, 71, 78, 79, 82, 69] } : ByteArray) = str (n ++ [47, 47, 73, 71, 78, 79, 82, 69]) := str_app (n) [47, 47, 73, 71, 78, 79, 82, 69]
  have z2 : ¬ 9223372036854775807 < (str (n)).size + ({ data := #[47, 47, 73, 71, 78, 79, 82, 69] } : ByteArray).size := by rw [str_size]; show ¬ 9223372036854775807 < (n).length + 8; (try simp only [List.length_append, List.length_cons, List.length_nil]); omega
  clear hne
  go_enter Tryd.func9, Tryd.ntmps9
  go_upto_region 1 with (refine wpList_boxC _ rfl 23 _ rfl (wC k false true) rfl ?_; intro w1 va hg1)
  have c0 := va.cell 0 rfl
  go_upto_region 2 with (go_at_call 21; refine (a1.out _).mono ?_; rintro e w2 ⟨rfl, hg2⟩)
  have c1 := (va.kept0 hg2).cell 1 rfl
  have c2 := (va.kept0 hg2).cell 2 rfl
  clear c0
  go_wp2
  go_ret
  exact ⟨by first | rfl | simp [List.append_assoc], gt hg1 hg2⟩
set_option maxRecDepth 100000 in
set_option maxHeartbeats 1000000 in
theorem print_tt (k : Int) (n : List UInt8) (hn : Hid (nm k = n)) (hne : n ≠ []) (hl : n.length ≤ 20) (w : World) : Calls Tryd.prog 9 #[.agg (wC k true true)] w fun e w' => e = .returned (.string (str (n ++ [47, 47, 84, 82, 65, 78, 83, 76, 73, 84] ++ [47, 47, 73, 71, 78, 79, 82, 69]))) ∧ w.grownBy w' none := by
  have a1 := Hid.mk' (name_any k)
  rw [hn.out] at a1
  have f3 : (str n).toList.isEmpty = false := by rw [str_toList]; simpa using hne
  have e1 : str n ++ ({ data := #[47, 47, 84, 82, 65, 78, 83, 76, 73, 84] } : ByteArray) = str (n ++ [47, 47, 84, 82, 65, 78, 83, 76, 73, 84]) := str_app n [47, 47, 84, 82, 65, 78, 83, 76, 73, 84]
  have z1 : ¬ 9223372036854775807 < (str n).size + ({ data := #[47, 47, 84, 82, 65, 78, 83, 76, 73, 84] } : ByteArray).size := by rw [str_size]; show ¬ 9223372036854775807 < n.length + 10; omega
  have e2 : str (n ++ [47, 47, 84, 82, 65, 78, 83, 76, 73, 84]) ++ ({ data := #[47, 47, 73, 71, 78, 79, 82, 69] } : ByteArray) = str (n ++ [47, 47, 84, 82, 65, 78, 83, 76, 73, 84] ++ [47, 47, 73, 71, 78, 79, 82, 69]) := str_app (n ++ [47, 47, 84, 82, 65, 78, 83, 76, 73, 84]) [47, 47, 73, 71, 78, 79, 82, 69]
  have z2 : ¬ 9223372036854775807 < (str (n ++ [47, 47, 84, 82, 65, 78, 83, 76, 73, 84])).size + ({ data := #[47, 47, 73, 71, 78, 79, 82, 69] } : ByteArray).size := by rw [str_size]; show ¬ 9223372036854775807 < (n ++ [47, 47, 84, 82, 65, 78, 83, 76, 73, 84]).length + 8; (try simp only [List.length_append, List.length_cons, List.length_nil]); omega
  clear hne
  go_enter Tryd.func9, Tryd.ntmps9
  go_upto_region 1 with (refine wpList_boxC _ rfl 23 _ rfl (wC k true true) rfl ?_; intro w1 va hg1)
  have c0 := va.cell 0 rfl
  go_upto_region 2 with (go_at_call 21; refine (a1.out _).mono ?_; rintro e w2 ⟨rfl, hg2⟩)
  have c1 := (va.kept0 hg2).cell 1 rfl
  have c2 := (va.kept0 hg2).cell 2 rfl
  clear c0
  go_wp2
  go_ret
  exact ⟨by first | rfl | simp [List.append_assoc], gt hg1 hg2⟩
set_option maxRecDepth 100000 in
set_option maxHeartbeats 1000000 in
theorem print_no (k : Int) (t i : Bool) (hn : Hid (nm k = [])) (w : World) : Calls Tryd.prog 9 #[.agg (wC k t i)] w fun e w' => e = .returned (.string (str [])) ∧ w.grownBy w' none := by
  have a1 := Hid.mk' (name_any k)
  rw [hn.out] at a1
  obtain ⟨s, hs⟩ : ∃ s, str [] = s := ⟨_, rfl⟩
  rw [hs] at a1
  have f3 : s.toList.isEmpty = true := by rw [← hs, str_toList]; rfl
  go_enter Tryd.func9, Tryd.ntmps9
  go_upto_region 1 with (refine wpList_boxC _ rfl 23 _ rfl (wC k t i) rfl ?_; intro w1 va hg1)
  have c0 := va.cell 0 rfl
  go_wp2_with (go_at_call 21; refine (a1.out _).mono ?_; rintro e w2 ⟨rfl, hg2⟩)
  go_ret
  exact ⟨rfl, gt hg1 hg2⟩
theorem print_any (k : Int) (t i : Bool) (w : World) : Calls Tryd.prog 9 #[.agg (wC k t i)] w fun e w' => e = .returned (.string (str (prt k t i))) ∧ w.grownBy w' none := by
  unfold prt
  by_cases h : nm k = []
  · rw [if_pos h]
    exact print_no k t i (Hid.mk' h) w
  · rw [if_neg h]
    have hl := nm_len k
    cases t <;> cases i
    · have := print_ff k (nm k) (Hid.mk' rfl) h hl w
      simpa using this
    · have := print_ft k (nm k) (Hid.mk' rfl) h hl w
      simpa using this
    · have := print_tf k (nm k) (Hid.mk' rfl) h hl w
      simpa using this
    · have := print_tt k (nm k) (Hid.mk' rfl) h hl w
      simpa using this
end Go.Proofs.YtljkncgbabiojaaDoor.C23

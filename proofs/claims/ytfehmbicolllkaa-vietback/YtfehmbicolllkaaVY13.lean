/- The law's own 'works', and VietBytes: walks. -/
import Derived.Test.YtfehmbicolllkaaVX13
import Derived.Lib.SlBytesConst
namespace Go.Proofs.Ytfehmbicolllkaa.C13
open Go.ChangeShapes Go.WideShapes Go.ChangeAt Go.RowKit Go.Proofs.Ytfehmbicolllkaa.Mem
set_option linter.unusedVariables false
set_option linter.unusedSimpArgs false

theorem se_7844 : seR 7844 = some [194, 236] := by decide +kernel
theorem se_19968 : seR 19968 = none := by decide +kernel
theorem ge_65 : geV 0 0 0 65 [66] = vgV 0 1 2 65 66 0 := by
  have h1 : fitR 0 0 0 65 = true := by decide +kernel
  have h2 : coR 65 66 = none := by decide +kernel
  have h3 : hoR 66 = false := by decide +kernel
  have h4 : vsR 66 = 66 := by decide
  unfold geV
  rw [if_pos h1]
  show gtV 65 (vsR 66) = _
  rw [h4]
  unfold gtV
  rw [if_neg (by decide), if_neg (by decide)]
  show (match coR 65 66 with | some u => vgV 0 1 1 (u : Int) 0 0 | none => if hoR 66 = true then vgV 0 1 1 65 0 66 else vgV 0 1 2 65 66 0) = _
  rw [h2]
  simp only [h3]
  rfl
theorem bytes_new (w : World) (c : UInt8) (fr : Nat × Nat) : Bytes (w.alloc (.cells #[.int .u8 (c.toNat : Int)] 5 fr)) (some ⟨w.heap.size, 0, none⟩) [c] := .inr ⟨_, rfl, fun j hj => by
  simp at hj
  subst hj
  rw [addr_add]
  exact cell_at (heap_alloc_new w _) 0 (by simp)⟩
theorem put_field (e : Int) (s : ByteArray) (w : World) : (Instr.field 39 (vpV e s) 0).run Try.prog w = .ok (.int .i64 e) w := by kernel_rfl
theorem conv_same (w : World) : (convert 30 30 (.slice (some ⟨w.heap.size, 0, none⟩) 1 1)).run Try.prog (w.alloc (.cells #[.int .u8 66] 5)) = .ok (.slice (some ⟨w.heap.size, 0, none⟩) 1 1) (w.alloc (.cells #[.int .u8 66] 5 (1, 2))) :=
  Lib.run_convert_bytes_const w 30 5 #[.int .u8 66] 1 1 Try.underlying30 Try.underlying5
set_option maxRecDepth 100000 in
set_option maxHeartbeats 2000000 in
theorem works_any {P : World → Prop} (C : Con P) (w : World) (hw : P w) : Calls Try.prog 21 #[] w fun e w' => e = .returned (.bool true) ∧ w.grownBy w' none ∧ P w' := by
  have K := Hid.mk' (fun (a b : World) (h : P a) (g : a.grownBy b none) => C.keep h g)
  have hq := Hid.mk' hw
  have a1 : Hid (∀ w, P w → Calls Try.prog 9 #[.int .i32 65, .int .i32 768] w fun e w' => e = .returned (.tuple #[.int .i32 192, .bool true]) ∧ w.grownBy w' none) := Hid.mk' (fun w hw => C.compose 65 768 (by unfold I32; omega) (by unfold I32; omega) w (some 192) (Hid.mk' (by decide +kernel)) hw)
  have a2 : Hid (∀ w, P w → Calls Try.prog 19 #[.int .i32 7844] w fun e w' => e = .returned (vpV 0 ⟨#[194, 236]⟩) ∧ w.grownBy w' none) := Hid.mk' (fun w hw => by have := C.set 7844 (by unfold I32; omega) w hw; rw [se_7844] at this; exact this)
  have a3 : Hid (∀ w, P w → Calls Try.prog 19 #[.int .i32 19968] w fun e w' => e = .returned (vpV 11 ⟨#[]⟩) ∧ w.grownBy w' none) := Hid.mk' (fun w hw => by have := C.set 19968 (by unfold I32; omega) w hw; rw [se_19968] at this; exact this)
  have a4 : Hid (∀ w, P w → Calls Try.prog 15 #[stV 0 0 0 65, .slice (some ⟨w.heap.size, 0, none⟩) 1 1] (w.alloc (.cells #[.int .u8 66] 5 (1, 2))) fun e w' => e = .returned (vgV 0 1 2 65 66 0) ∧ w.grownBy w' none) := Hid.mk' (fun w hw => by
    have := C.get 0 0 0 65 (some ⟨w.heap.size, 0, none⟩) 1 [66] 1 rfl _ (bytes_new w 66 (1, 2)) (by omega) (by omega) (C.keep hw (World.grownBy_alloc w _ none))
    rw [ge_65] at this
    exact this.mono (fun e w' h => ⟨h.1, gt (World.grownBy_alloc _ _ _) h.2⟩))
  have pf := put_field 11 ⟨#[]⟩
  have cs := conv_same
  clear hw C
  go_enter Try.func21, Try.ntmps21
  go_wp2_with (first
    | (go_at_call 9; refine (a1.out _ hq.out).mono ?_; rintro e w1 ⟨rfl, hg1⟩; have hq1 := Hid.mk' (K.out _ _ hq.out hg1))
    | (go_at_call_of 19 (Value.int IntKind.i32 7844); refine (a2.out _ hq1.out).mono ?_; rintro e w2 ⟨rfl, hg2⟩; have hq2 := Hid.mk' (K.out _ _ hq1.out hg2))
    | (go_at_call_of 19 (Value.int IntKind.i32 19968); refine (a3.out _ hq2.out).mono ?_; rintro e w3 ⟨rfl, hg3⟩; have hq3 := Hid.mk' (K.out _ _ hq2.out hg3))
    | (go_at_call 15; refine (a4.out w3 hq3.out).mono ?_; rintro e w4 ⟨rfl, hg4⟩; have hq4 := Hid.mk' (K.out _ _ hq3.out hg4)))
  go_ret
  exact ⟨rfl, gt (gt (gt hg1 hg2) hg3) hg4, hq4.out⟩
end Go.Proofs.Ytfehmbicolllkaa.C13

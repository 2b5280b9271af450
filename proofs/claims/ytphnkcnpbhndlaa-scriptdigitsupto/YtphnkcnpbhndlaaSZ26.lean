/- ScriptDigits as a law: over arguments of bulk at most 1048576. -/
import Derived.Test.YtphnkcnpbhndlaaSW26
import Derived.Test.YtphnkcnpbhndlaaSQ26
import Derived.Test.YtphnkcnpbhndlaaArgs
import Derived.Below
namespace Go.Proofs.Ytphnkcnpbhndlaa.C26
open Go.RowKit Go.Proofs.Ytphnkcnpbhndlaa.Mem
theorem digits_law (a0 : Option Addr) (cap0 : Nat) (L0 : List UInt8) (a1 : ByteArray) (W : World) (hB0 : Bytes W a0 L0) (hLc0 : L0.length ≤ cap0) (hcm0 : cap0 ≤ 140737488351232) (hq0 : L0.length ≤ 1048576) (s1 : a1.data.toList.length ≤ 1048576) :
    Calls Try.prog 3 #[.slice a0 L0.length cap0, .string a1] W fun e W' => e = .returned (.bool true) ∧ Below W.heap.size W W' :=
  (digits_walk con a0 cap0 L0 L0.length rfl a1.data.toList a1 (str_of a1) W hB0 hLc0 hcm0 (by omega) (by omega)).mono fun e W' ⟨he, hg⟩ => ⟨he, (Below.refl W.heap.size W).grown hg (Nat.le_refl _) (by simp)⟩
end Go.Proofs.Ytphnkcnpbhndlaa.C26

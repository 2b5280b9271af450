/- Units of UTF-8, as lists of bytes. -/
import Derived.Test.YtjhdepbiakekaaaPlain
import Derived.Test.YtjhdepbiakekaaaMem
namespace Go.Proofs.Ytjhdepbiakekaaa.U8
open Go.Proofs.Ytjhdepbiakekaaa.Ucs Go.Proofs.Ytjhdepbiakekaaa.Mem

/-- A byte that goes on. -/
def tl (u : Nat) : UInt8 := UInt8.ofNat (128 + u % 64)
/-- The last j bytes of a scalar's unit. -/
def tls : Nat → Nat → List UInt8
  | 0, _ => []
  | j + 1, u => tl (u / 64 ^ j) :: tls j u
def unit (u : Nat) : List UInt8 :=
  if u < 128 then [UInt8.ofNat u] else if u < 2048 then UInt8.ofNat (192 + u / 64) :: tls 1 u
  else if u < 65536 then UInt8.ofNat (224 + u / 4096) :: tls 2 u else UInt8.ofNat (240 + u / 262144) :: tls 3 u
theorem tls_length : ∀ j u, (tls j u).length = j
  | 0, _ => rfl
  | j + 1, u => by rw [tls, List.length_cons, tls_length j u]
abbrev putV (e : Int) (s : ByteArray) : Value := .agg #[.int .i64 e, .string s, .int .i64 0, .int .i64 0, .int .u32 0, .int .i32 0]
/-- What is put out for a number. -/
def setV (u : Int) : Value := if scB u = true then putV 0 (str (unit u.toNat)) else putV 11 ⟨#[]⟩
end Go.Proofs.Ytjhdepbiakekaaa.U8

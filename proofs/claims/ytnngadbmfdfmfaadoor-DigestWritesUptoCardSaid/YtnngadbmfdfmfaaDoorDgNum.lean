/-
  Helper: words of 32 bits, as the walks spell them.
-/
import Derived.Laws.BitsAllLaws
import Derived.Laws.Bits64b
import Derived.Laws.Shifts
import Derived.Lib.Hide
namespace Go.Proofs.YtnngadbmfdfmfaaDoor
set_option linter.unusedVariables false

theorem ofInt_w (a : BitVec 32) : BitVec.ofInt 32 ((a.toNat : Nat) : Int) = a := by
  rw [BitVec.ofInt_natCast, BitVec.ofNat_toNat]; simp
theorem wrap_w (a : BitVec 32) : IntKind.u32.wrap ((a.toNat : Nat) : Int) = ((a.toNat : Nat) : Int) := by
  have := a.isLt
  rw [IntKind.wrap_u32]; omega
theorem x_xor (a b : BitVec 32) : bits .xor .u32 ((a.toNat : Nat) : Int) ((b.toNat : Nat) : Int) = (((a ^^^ b).toNat : Nat) : Int) := by
  show IntKind.u32.wrap ((BitVec.ofInt 32 ((a.toNat : Nat) : Int) ^^^ BitVec.ofInt 32 ((b.toNat : Nat) : Int)).toNat : Int) = _
  rw [ofInt_w, ofInt_w, wrap_w]
theorem x_and (a b : BitVec 32) : bits .and .u32 ((a.toNat : Nat) : Int) ((b.toNat : Nat) : Int) = (((a &&& b).toNat : Nat) : Int) := by
  show IntKind.u32.wrap ((BitVec.ofInt 32 ((a.toNat : Nat) : Int) &&& BitVec.ofInt 32 ((b.toNat : Nat) : Int)).toNat : Int) = _
  rw [ofInt_w, ofInt_w, wrap_w]
theorem x_or (a b : BitVec 32) : bits .or .u32 ((a.toNat : Nat) : Int) ((b.toNat : Nat) : Int) = (((a ||| b).toNat : Nat) : Int) := by
  show IntKind.u32.wrap ((BitVec.ofInt 32 ((a.toNat : Nat) : Int) ||| BitVec.ofInt 32 ((b.toNat : Nat) : Int)).toNat : Int) = _
  rw [ofInt_w, ofInt_w, wrap_w]
theorem x_not (a : BitVec 32) : bits .xor .u32 4294967295 ((a.toNat : Nat) : Int) = (((~~~a).toNat : Nat) : Int) := by
  show IntKind.u32.wrap ((BitVec.ofInt 32 4294967295 ^^^ BitVec.ofInt 32 ((a.toNat : Nat) : Int)).toNat : Int) = _
  rw [ofInt_w, wrap_w, show BitVec.ofInt 32 4294967295 = BitVec.allOnes 32 by decide, BitVec.allOnes_xor]
theorem x_add (a b : BitVec 32) : (((a.toNat : Nat) : Int) + ((b.toNat : Nat) : Int)) % 4294967296 = (((a + b).toNat : Nat) : Int) := by
  rw [BitVec.toNat_add]; omega
theorem x_wadd (a b : BitVec 32) : IntKind.u32.wrap (((a.toNat : Nat) : Int) + ((b.toNat : Nat) : Int)) = (((a + b).toNat : Nat) : Int) := by
  rw [IntKind.wrap_u32, x_add]
theorem x_shr (a : BitVec 32) (k : Nat) : ((a.toNat : Nat) : Int) / 2 ^ k = (((a >>> k).toNat : Nat) : Int) := by
  rw [BitVec.toNat_ushiftRight, Nat.shiftRight_eq_div_pow]; norm_cast
theorem x_wshl (a : BitVec 32) (k : Nat) : IntKind.u32.wrap (((a.toNat : Nat) : Int) * 2 ^ k) = (((a <<< k).toNat : Nat) : Int) := by
  rw [IntKind.wrap_u32, BitVec.toNat_shiftLeft, Nat.shiftLeft_eq, Int.natCast_emod, Int.natCast_mul, Int.natCast_pow]
  rfl
theorem x_shl (a : BitVec 32) (k : Nat) : (((a.toNat : Nat) : Int) * 2 ^ k) % 4294967296 = (((a <<< k).toNat : Nat) : Int) := by
  rw [BitVec.toNat_shiftLeft, Nat.shiftLeft_eq, Int.natCast_emod, Int.natCast_mul, Int.natCast_pow]
  rfl
theorem x_byte (c : UInt8) : ((c.toNat : Nat) : Int) = (((BitVec.ofNat 32 c.toNat).toNat : Nat) : Int) := by
  have := UInt8.toNat_lt c
  rw [BitVec.toNat_ofNat]; omega
theorem x_part (x : BitVec 32) (c : UInt8) : bits .or .u32 (((x.toNat : Nat) : Int) * 256 % 4294967296) ((c.toNat : Nat) : Int) = ((((x <<< 8) ||| BitVec.ofNat 32 c.toNat).toNat : Nat) : Int) := by
  rw [show (256 : Int) = 2 ^ 8 by decide, x_shl, x_byte, x_or]
theorem x_add4 (a b c d : BitVec 32) : (((a.toNat : Nat) : Int) + ((b.toNat : Nat) : Int) + ((c.toNat : Nat) : Int) + ((d.toNat : Nat) : Int)) % 4294967296 = (((a + b + c + d).toNat : Nat) : Int) := by
  rw [BitVec.toNat_add, BitVec.toNat_add, BitVec.toNat_add]; omega
theorem x_add5 (a b c d e : BitVec 32) : (((a.toNat : Nat) : Int) + ((b.toNat : Nat) : Int) + ((c.toNat : Nat) : Int) + ((d.toNat : Nat) : Int) + ((e.toNat : Nat) : Int)) % 4294967296 = (((a + b + c + d + e).toNat : Nat) : Int) := by
  rw [BitVec.toNat_add, BitVec.toNat_add, BitVec.toNat_add, BitVec.toNat_add]; omega
/-- turned to the right -/
def rr (x : BitVec 32) (n : Nat) : BitVec 32 := (x >>> n) ||| (x <<< (32 - n))
theorem or_comm' (a b : BitVec 32) : a ||| b = b ||| a := BitVec.or_comm a b
end Go.Proofs.YtnngadbmfdfmfaaDoor

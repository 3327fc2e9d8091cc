/-
  The rows of the program's table of names, read out of its own text, and what the kernel finds of them: they are the table; each is in form; keys rise; a key without a semicolon stands ahead of itself with one.
-/
import Derived.Test.YtbcmfcddkegcoaaGreatDoorP3
import Derived.Test.YtbcmfcddkegcoaaGreatDoorProg
import Derived.KernelRfl
namespace Go.Proofs.YtbcmfcddkegcoaaGreatDoor

/-- the table, out of the program's own text -/
def strOf : Operand → ByteArray
  | .const (.string b) => b
  | _ => ⟨#[]⟩
def argOf : List Oper → ByteArray
  | _ :: _ :: ⟨_, .call ⟨_, xs, _⟩, _, _, _, _⟩ :: _ => (xs.toList.map strOf).headD ⟨#[]⟩
  | _ => ⟨#[]⟩
def nmOf : Option Code → ByteArray
  | some (.seq _ (.seq (.region _ ops _) _)) => argOf ops.toList
  | _ => ⟨#[]⟩
noncomputable def nmT : ByteArray := nmOf Tryz.f144.body

/-- a text's rows: up to a blank the key, up to a 10 what stands behind it -/
def rowsOf (k v : Txt) (b : Bool) : Txt → List Ln
  | [] => [(k.reverse, v.reverse)]
  | c :: l => match b, c == 32, c == 10 with
    | false, true, _ => rowsOf k v true l
    | false, false, _ => rowsOf (c :: k) v false l
    | true, _, true => (k.reverse, v.reverse) :: rowsOf [] [] false l
    | true, _, false => rowsOf k (c :: v) true l
noncomputable def nmRows : List Ln := rowsOf [] [] false nmT.data.toList

def eqB : Txt → Txt → Bool
  | [], [] => true
  | a :: x, b :: y => if a == b then eqB x y else false
  | _, _ => false
theorem eqB_eq : ∀ a b, eqB a b = true → a = b
  | [], [], _ => rfl
  | a :: x, b :: y, h => by
    unfold eqB at h
    split at h
    · rename_i e; rw [beq_iff_eq.1 e, eqB_eq x y h]
    · simp at h

/-- a digit with sixteen digits, in large letters -/
def hexB (c : UInt8) : Bool := decide (48 ≤ c.toNat ∧ c.toNat ≤ 57 ∨ 65 ≤ c.toNat ∧ c.toNat ≤ 70)
/-- the part ahead of the first blank, and the one behind it -/
def firL : Txt → Txt
  | [] => []
  | c :: l => if c == 32 then [] else c :: firL l
def secL : Txt → Txt
  | [] => []
  | c :: l => if c == 32 then l else secL l
def rowB (r : Ln) : Bool :=
  !r.1.isEmpty && Nat.ble r.1.length 32 && (r.1.all fun c => !(c == 32 || c == 10)) && (r.1.dropLast.all fun c => !(c == 59)) &&
  (!(firL r.2).isEmpty && Nat.ble (firL r.2).length 5 && (firL r.2).all hexB) &&
  (Nat.ble (secL r.2).length 5 && (secL r.2).all hexB) &&
  (eqB r.2 (firL r.2) && (secL r.2).isEmpty || eqB r.2 (firL r.2 ++ 32 :: secL r.2) && ((secL r.2).any fun c => !(c == 48)) && Nat.ble 3 r.1.length) &&
  ((firL r.2).any fun c => !(c == 48))
def riseB : Txt → List Ln → Bool
  | _, [] => true
  | k, r :: rs => Op.bytesLess k r.1 && riseB r.1 rs
set_option maxRecDepth 1000000 in
theorem row_all : nmRows.all rowB = true := by kernel_rfl
set_option maxRecDepth 1000000 in
theorem rise_all : riseB [] nmRows = true := by kernel_rfl
set_option maxRecDepth 1000000 in
theorem flat_all : eqB (flatN nmRows) (nmT.data.toList ++ [10]) = true := by kernel_rfl
theorem nm_len : nmRows.length = 2231 := by kernel_rfl
end Go.Proofs.YtbcmfcddkegcoaaGreatDoor

/-
  The rows of the program's table of names, read out of its own text, and what the kernel finds of them: they are the table; each is in form; keys rise; a key without a semicolon stands ahead of itself with one.
-/
import Derived.Test.YtajpoodpbbbkfaaGreatDoorP3
import Derived.Test.YtajpoodpbbbkfaaGreatDoorProg
import Derived.KernelRfl
set_option maxRecDepth 1000000
namespace Go.Proofs.YtajpoodpbbbkfaaGreatDoor
def OX:Operand→ByteArray
 | .const (.string b)=>b
 |_=>⟨#[]⟩
def OY:List Oper→ByteArray
 |_::_::⟨_,.call ⟨_,xs,_⟩,_,_,_,_⟩::_=>(xs.toList.map OX).headD ⟨#[]⟩
 |_=>⟨#[]⟩
def Pw:Option Code→ByteArray
 |some (.seq _ (.seq (.region _ ops _) _))=>OY ops.toList
 |_=>⟨#[]⟩
noncomputable def NP:ByteArray:=Pw Tryz.f189.body
def r9 (k v:ab) (b:Bool):ab→List Ln
 |[]=>[(k.reverse,v.reverse)]
 |c::l=>match b,c==32,c==10 with
  |false,true,_=>r9 k v true l
  |false,false,_=>r9 (c::k) v false l
  |true,_,true=>(k.reverse,v.reverse)::r9 [] [] false l
  |true,_,false=>r9 k (c::v) true l
noncomputable def af:List Ln:=r9 [] [] false NP.data.toList
def ON:ab→ab→Bool
 |[],[]=>true
 |a::x,b::y=>if a==b then ON x y else false
 |_,_=>false
theorem wN:∀a b,ON a b=true→a=b
 |[],[],_=>rfl
 |a::x,b::y,h=>by
  unfold ON at h
  split at h
  ·rename_i e;rw [beq_iff_eq.1 e,wN x y h]
  ·simp at h
def kt (c:UInt8):Bool:=decide (48≤c.toNat∧c.toNat≤57∨65≤c.toNat∧c.toNat≤70)
def fx:ab→ab
 |[]=>[]
 |c::l=>if c==32 then [] else c::fx l
def iX:ab→ab
 |[]=>[]
 |c::l=>if c==32 then l else iX l
def NQ (r:Ln):Bool:=
 !r.1.isEmpty&&Nat.ble r.1.length 32&&(r.1.all fun c=> !(c==32||c==10))&&(r.1.dropLast.all fun c=> !(c==59))&&
 (!(fx r.2).isEmpty&&Nat.ble (fx r.2).length 5&&(fx r.2).all kt)&&
 (Nat.ble (iX r.2).length 5&&(iX r.2).all kt)&&
 (ON r.2 (fx r.2)&&(iX r.2).isEmpty||ON r.2 (fx r.2++32::iX r.2)&&((iX r.2).any fun c=> !(c==48))&&Nat.ble 3 r.1.length)&&
 ((fx r.2).any fun c=> !(c==48))
def Dz:ab→List Ln→Bool
 |_,[]=>true
 |k,r::rs=>Op.bytesLess k r.1&&Dz r.1 rs
theorem KZ:af.all NQ=true:=by kernel_rfl
theorem Hj:Dz [] af=true:=by kernel_rfl
theorem Hk:ON (du af) (NP.data.toList++[10])=true:=by kernel_rfl
theorem NR:af.length=2231:=by kernel_rfl
end Go.Proofs.YtajpoodpbbbkfaaGreatDoor

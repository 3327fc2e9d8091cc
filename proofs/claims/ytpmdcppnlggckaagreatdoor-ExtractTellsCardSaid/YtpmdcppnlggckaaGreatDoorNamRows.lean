/-
  The rows of the program's table of names, read out of its own text, and what the kernel finds of them: they are the table; each is in form; keys rise; a key without a semicolon stands ahead of itself with one.
-/
import Derived.Test.YtpmdcppnlggckaaGreatDoorP3
import Derived.Test.YtpmdcppnlggckaaGreatDoorProg
import Derived.KernelRfl
set_option maxRecDepth 1000000
namespace Go.Proofs.YtpmdcppnlggckaaGreatDoor
def KR:Operand→ByteArray
 | .const (.string b)=>b
 |_=>⟨#[]⟩
def KS:List Oper→ByteArray
 |_::_::⟨_,.call ⟨_,xs,_⟩,_,_,_,_⟩::_=>(xs.toList.map KR).headD ⟨#[]⟩
 |_=>⟨#[]⟩
def LE:Option Code→ByteArray
 |some (.seq _ (.seq (.region _ ops _) _))=>KS ops.toList
 |_=>⟨#[]⟩
noncomputable def JQ:ByteArray:=LE Tryz.f192.body
def qa (k v:ab) (b:Bool):ab→List Ln
 |[]=>[(k.reverse,v.reverse)]
 |c::l=>match b,c==32,c==10 with
  |false,true,_=>qa k v true l
  |false,false,_=>qa (c::k) v false l
  |true,_,true=>(k.reverse,v.reverse)::qa [] [] false l
  |true,_,false=>qa k (c::v) true l
noncomputable def ah:List Ln:=qa [] [] false JQ.data.toList
def KH:ab→ab→Bool
 |[],[]=>true
 |a::x,b::y=>if a==b then KH x y else false
 |_,_=>false
theorem t6:∀a b,KH a b=true→a=b
 |[],[],_=>rfl
 |a::x,b::y,h=>by
  unfold KH at h
  split at h
  ·rename_i e;rw [beq_iff_eq.1 e,t6 x y h]
  ·simp at h
def js (c:UInt8):Bool:=decide (48≤c.toNat∧c.toNat≤57∨65≤c.toNat∧c.toNat≤70)
def eS:ab→ab
 |[]=>[]
 |c::l=>if c==32 then [] else c::eS l
def gY:ab→ab
 |[]=>[]
 |c::l=>if c==32 then l else gY l
def JS (r:Ln):Bool:=
 !r.1.isEmpty&&Nat.ble r.1.length 32&&(r.1.all fun c=> !(c==32||c==10))&&(r.1.dropLast.all fun c=> !(c==59))&&
 (!(eS r.2).isEmpty&&Nat.ble (eS r.2).length 5&&(eS r.2).all js)&&
 (Nat.ble (gY r.2).length 5&&(gY r.2).all js)&&
 (KH r.2 (eS r.2)&&(gY r.2).isEmpty||KH r.2 (eS r.2++32::gY r.2)&&((gY r.2).any fun c=> !(c==48))&&Nat.ble 3 r.1.length)&&
 ((eS r.2).any fun c=> !(c==48))
def Au:ab→List Ln→Bool
 |_,[]=>true
 |k,r::rs=>Op.bytesLess k r.1&&Au r.1 rs
theorem Hi:ah.all JS=true:=by kernel_rfl
theorem DY:Au [] ah=true:=by kernel_rfl
theorem DZ:KH (cZ ah) (JQ.data.toList++[10])=true:=by kernel_rfl
theorem JT:ah.length=2231:=by kernel_rfl
end Go.Proofs.YtpmdcppnlggckaaGreatDoor

/-
  A row of tokens put behind another one.
-/
import Derived.Test.YtpmdcppnlggckaaGreatDoorQB
import Derived.Laws.AppendOwnNone
namespace Go.Proofs.YtpmdcppnlggckaaGreatDoor
open Go.RowKit Go.Lib
theorem gX {ops:Array Oper} {rest:List Oper} {o:Oper} {a:Act} {w:World} {P:Exit→Act→World→Prop} (hgd:o.guard=none) (s x:Operand) (ho:o.op= .call {callee:= .builtin .append,args:=#[s,x],argTypes:=#[33,33]}) (base base':Nat) (v v':Value) (Q R:List aV) (hs:a.eval s=v) (hx:a.eval x=v') (hQ:aE w base v Q) (hR:aE w base' v' R) (hA:∀q∈R,gi w v q) (hlen:Q.length+R.length≤2097152) (hbase:base≤w.heap.size) (h:∀v1 w1,aE w1 base v1 (Q++R)→w.grownBy w1 v.ownBlock→wpList Tryz.prog ops P rest (a.put o.dst v1) w1):wpList Tryz.prog ops P (o::rest) a w:=by
 obtain ⟨i0,hi0,hz0,hz1,hz2⟩:=info_parts fP
 rcases hR.1.2 with ⟨rfl,h0⟩|⟨g,cap,cur,rfl,hb,hg,hn,hm,hsz,htake⟩
 ·have hR0:R=[]:=List.eq_nil_of_length_eq_zero h0
  subst hR0
  refine wpList_append_own_none hgd s x 33 ho base 54 i0 5 Tryz.underlying33 hi0 v Q.length (af Q) hs hQ.1 hx ?_
  exact h v w (by rw [List.append_nil];exact hQ) (World.grownBy.refl w _)
 ·refine wpList_append_own_at (w:=w) hgd s x 33 ho base 54 i0 _ 5 72 Tryz.underlying33 hi0 hz0 hz1 hz2 rfl (by decide) v Q.length (af Q) hs hQ.1 ⟨g,0,none⟩ R.length cap (af R) hx (bJ R) (hR.1.cells rfl) (la R) (by unfold maxLen;omega) (by omega) hbase ?_
  intro v1 w1 hown hgr _ hat
  exact h v1 w1 (hQ.app hA hown hgr hat) hgr
end Go.Proofs.YtpmdcppnlggckaaGreatDoor

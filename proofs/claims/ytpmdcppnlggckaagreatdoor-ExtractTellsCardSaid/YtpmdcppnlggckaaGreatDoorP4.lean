/-
  Texts laid together: LinesMath, BldB, Bld, LinesCode, LinesRef, SignLow.
-/
import Derived.WalkKit
import Derived.Test.YtpmdcppnlggckaaGreatDoorShelf
import Derived.BigCall
import Derived.Lib.RuneBytes
import Derived.Lib.Hide
import Derived.Test.YtpmdcppnlggckaaGreatDoorP3
import Derived.Test.YtpmdcppnlggckaaGreatDoorP1
import Derived.Lib.Bytes
import Derived.WalkSpells
import Derived.WalkLawsBesides
set_option maxHeartbeats 4000000
set_option maxRecDepth 100000
namespace Go.Proofs.YtpmdcppnlggckaaGreatDoor
def aN:List UInt8→List UInt8
 |[]=>[]
 |c::r=>if c≠13 then c::aN r else if r.head?=some 10 then aN r else 10::aN r
def cb:Bool→List UInt8→List UInt8
 |_,[]=>[]
 |p,c::r=>if c=13 then 10::cb true r else if c=10∧p=true then cb false r else c::cb false r
def ap:List UInt8→List UInt8
 |[]=>[]
 |c::r=>if c=0 then 239::191::189::ap r else c::ap r
theorem vP:∀l:List UInt8,cb false l=aN l∧10::cb true l=aN (13::l)
 |[]=>⟨rfl,rfl⟩
 |c::r=>by
  obtain ⟨h1,h2⟩:=vP r
  by_cases h:c=13
  ·subst h
   have e1:cb false (13::r)=10::cb true r:=by simp [cb]
   have e2:cb true (13::r)=10::cb true r:=by simp [cb]
   refine ⟨by rw [e1,h2],?_⟩
   rw [e2,h2]
   rw [show aN (13::13::r)=10::aN (13::r) from by rw [aN];simp]
  ·have e1:cb false (c::r)=c::cb false r:=by simp [cb,h]
   have e0:aN (c::r)=c::aN r:=by rw [aN];simp [h]
   refine ⟨by rw [e1,e0,h1],?_⟩
   by_cases h':c=10
   ·subst h'
    have e2:cb true (10::r)=cb false r:=by simp [cb]
    rw [e2,h1,show aN (13::10::r)=aN (10::r) from by rw [aN];simp,e0]
   ·have e2:cb true (c::r)=c::cb false r:=by simp [cb,h,h']
    rw [e2,h1,show aN (13::c::r)=10::aN (c::r) from by rw [aN];simp [h'],e0]
theorem oz (l:List UInt8):cb false l=aN l:=(vP l).1
theorem nD:∀(p:Bool) (l:List UInt8),(cb p l).length≤l.length
 |_,[]=>by simp [cb]
 |p,c::r=>by
  have h1:=nD true r
  have h2:=nD false r
  rw [cb];repeat' split
  all_goals simp;try omega
theorem sH (l:List UInt8):(aN l).length≤l.length:=by rw [←oz];exact nD false l
theorem oB:∀l:List UInt8,0∉l→ap l=l
 |[],_=>rfl
 |c::r,h=>by
  simp only [List.mem_cons,not_or] at h
  rw [ap,if_neg (fun e=>h.1 e.symm),oB r h.2]
theorem dR:∀l:List UInt8,l.length≤(ap l).length∧(ap l).length≤3*l.length
 |[]=>by simp [ap]
 |c::r=>by
  have:=dR r
  rw [ap];split<;>simp<;>omega
theorem p7:∀a b:List UInt8,ap (a++b)=ap a++ap b
 |[],_=>rfl
 |c::r,b=>by
  have:=p7 r b
  rw [List.cons_append,ap,ap];split<;>simp [this]
end Go.Proofs.YtpmdcppnlggckaaGreatDoor
namespace Go.Proofs.YtpmdcppnlggckaaGreatDoor
open Go.RowKit Go.Shelf
theorem oC : (Tryz.prog.info? 72).map (·.size) = some 2 := by kernel_rfl
theorem vR:liesAt Tryz.prog Tryz.prog.depth 72 (2/Tryz.prog.cellsOf 72) 0 72 1=true:=by kernel_rfl
theorem p8 (b:Nat) (w:World) (h0:w.cell? ⟨b,0,none⟩=some (.pointer (some ⟨b,0,none⟩))):Calls Tryz.prog 76 #[.pointer (some ⟨b,0,none⟩)] w fun e w'=>e= .returned (.tuple #[])∧w=w':=by
 obtain ⟨j,hj,_⟩:=Option.map_eq_some_iff.1 oC
 go_enter Tryz.func76,Tryz.ntmps76
 go_wp2
 rw [Lib.run_neq_ptr_same w _ Tryz.underlying70 hj]
 go_wp2
 go_end0
 exact ⟨rfl,rfl⟩
theorem oZ (b:Nat) (w:World) (h0:w.cell? ⟨b,0,none⟩=some (.pointer none)) (hsh:w.shape? b=some (72,2)) (hfz:w.frozen? ⟨b,0,none⟩=false):Calls Tryz.prog 76 #[.pointer (some ⟨b,0,none⟩)] w fun e w'=>e= .returned (.tuple #[])∧w'=w.setCell ⟨b,0,none⟩ (.pointer (some ⟨b,0,none⟩)):=by
 obtain ⟨j,hj,hjs⟩:=Option.map_eq_some_iff.1 oC
 go_enter Tryz.func76,Tryz.ntmps76
 go_wp2
 rw [Lib.run_to_unsafe w ⟨b,0,none⟩ Tryz.underlying70 Tryz.underlying121 hj (by rw [hjs];decide) hsh (Nat.zero_lt_succ 1)]
 simp only [Result.andThen]
 rw [Oper.upon_value]
 go_wp2
 rw [run_callFunc_extern Tryz.func119 (by kernel_rfl) (by kernel_rfl) (by kernel_rfl) (e:=Extern.AbiNoEscape.same) (by kernel_rfl)]
 rw [Lib.run_noEscape]
 simp only [Result.andThen]
 rw [Oper.upon_value]
 go_wp2
 rw [Lib.run_from_unsafe w ⟨b,0,none⟩ Tryz.underlying121 Tryz.underlying70 hj hsh vR]
 simp only [Result.andThen]
 rw [Oper.upon_value]
 go_wp2
 go_end0
 exact ⟨rfl,rfl⟩
theorem nE (B b:Nat) (bs:List Value) (w:World) (h:Lib.IsBuilderF 72 5 B b bs w):Calls Tryz.prog 76 #[.pointer (some ⟨b,0,none⟩)] w fun e w'=>e= .returned (.tuple #[])∧Lib.BuilderAtF 72 5 B b (.pointer (some ⟨b,0,none⟩)) bs w'∧Below B w w'∧Lib.OthersKept 5 (some b) w w':=by
 rcases h with h|h
 ·refine (oZ b w h.cell0 h.shape h.frozen0).mono ?_
  rintro e w' ⟨rfl,rfl⟩
  exact ⟨rfl,h.used _,(Below.refl B w).setCell (p:=⟨b,0,none⟩) h.1 _,(Lib.OthersKept.refl _ _ w).setCell ⟨b,0,none⟩ rfl _⟩
 ·refine (p8 b w h.cell0).mono ?_
  rintro e w' ⟨rfl,rfl⟩
  exact ⟨rfl,h,Below.refl B _,Lib.OthersKept.refl _ _ _⟩
theorem vS:(Tryz.prog.info? 5).map (fun i=>(i.zero,i.size,i.bytes))=some (some (.int .u8 0),1,1):=by kernel_rfl
theorem ke {w:World} {b:Nat} {o:Obj} (h:w.heap[b]? =some o):b<w.heap.size:=(Array.getElem?_eq_some_iff.1 h).1
theorem iD (B b:Nat) (bs:List Value) (c:Int) (w:World) (h:Lib.IsBuilderF 72 5 B b bs w) (hlen:bs.length+1≤140737488355328) (hBw:B≤w.heap.size):Calls Tryz.prog 48 #[.pointer (some ⟨b,0,none⟩),.int .u8 c] w fun e w'=>e= .returned .nilIface∧Lib.BuilderAtF 72 5 B b (.pointer (some ⟨b,0,none⟩)) (bs++[.int .u8 c]) w'∧Below B w w'∧Lib.OthersKept 5 (some b) w w':=by
 obtain ⟨i0,hi,hz0,hz1,hz2⟩:=info_parts vS
 go_enter Tryz.func48,Tryz.ntmps48
 go_wp2_with (go_at_call 76;refine (nE B b bs _ h).mono ?_)
 rintro e w1 ⟨rfl,h1,hb1,hk1⟩
 obtain ⟨hB,v,hbk,hown,hne⟩:=h1
 have hs1:=hb1.size
 have c0:w1.cell? ⟨b,0,none⟩=some (.pointer (some ⟨b,0,none⟩)):=by rw [Lib.cell_of_heap hbk];rfl
 have c1:w1.cell? ⟨b,1,none⟩=some v:=by rw [Lib.cell_of_heap hbk];rfl
 go_wp2_with (at_builtin;refine wpList_append_ownF _ rfl _ _ 22 rfl B 5 i0 (.int .u8 0) 1 1 Tryz.underlying22 hi hz0 hz1 hz2 rfl (by decide) _ _ _ rfl (hown.alloc _) ⟨w1.heap.size,0,none⟩ 1 1 [.int .u8 c] rfl rfl ?c1 ?c2 ?c3 ?c4 ?c5 ?_)
 case c1=>
  intro j u hj
  match j,hj with
  |0,hj=>simp at hj;subst hj;simp [Addr.add]
 case c2=>intro u hu;simp at hu;subst hu;rfl
 case c3=>unfold maxLen;omega
 case c4=>omega
 case c5=>simp;omega
 intro v' w2 hown' hgrow _
 have hlt:=ke hbk
 have hb2:w2.heap[b]? =some (.cells #[.pointer (some ⟨b,0,none⟩),v] 72 (0,0)):=by
  rw [hgrow.block b (by simp;omega) (fun e=>hne e.symm),Lib.alloc_old w1 _ b hlt]
  exact hbk
 have d0:w2.cell? ⟨b,0,none⟩=some (.pointer (some ⟨b,0,none⟩)):=by rw [Lib.cell_of_heap hb2];rfl
 have d1:w2.cell? ⟨b,1,none⟩=some v:=by rw [Lib.cell_of_heap hb2];rfl
 have f1:w2.frozen? ⟨b,1,none⟩=false:=Lib.frozen_of_heap hb2 1
 obtain ⟨g,cap,rfl⟩:∃g cap,v'= .slice (some ⟨g,0,none⟩) (bs.length+1) cap:=by
  rcases hown'.2 with ⟨_,h0⟩|⟨g,cap,cur,fz,hv,_⟩
  ·omega
  ·exact ⟨g,cap,hv⟩
 go_wp2
 go_ret
 exact ⟨rfl,Lib.BuilderAtF.put (T:=72) (e:=5) hB hb2 (bs':=bs++[.int .u8 c]) (by simpa using hown') (by decide),((hb1.alloc (by omega) _).grown hgrow (by simp;omega) (fun k hk=>(hown.lt k hk).1)).setCell (p:=⟨b,1,none⟩) hB _,((hk1.alloc _).grown hgrow (Lib.ownsRowF_kind (hown.alloc _))).setCell ⟨b,1,none⟩ rfl _⟩
end Go.Proofs.YtpmdcppnlggckaaGreatDoor
namespace Go.Proofs.YtpmdcppnlggckaaGreatDoor
open Go.RowKit Go.Shelf
theorem eK (B b:Nat) (bs:List Value) (s:ByteArray) (w:World) (h:Lib.IsBuilderF 72 5 B b bs w) (hlen:bs.length+s.size≤140737488355328) (hBw:B≤w.heap.size):Calls Tryz.prog 43 #[.pointer (some ⟨b,0,none⟩),.string s] w fun e w'=>e= .returned (.tuple #[.int .i64 s.size,.nilIface])∧Lib.BuilderAtF 72 5 B b (.pointer (some ⟨b,0,none⟩)) (bs++Lib.strCells s) w'∧Below B w w'∧Lib.OthersKept 5 (some b) w w':=by
 obtain ⟨i0,hi,hz0,hz1,hz2⟩:=info_parts vS
 go_enter Tryz.func43,Tryz.ntmps43
 go_wp2_with (go_at_call 76;refine (nE B b bs _ h).mono ?_)
 rintro e w1 ⟨rfl,h1,hb1,hk1⟩
 obtain ⟨hB,v,hbk,hown,hne⟩:=h1
 have hs1:=hb1.size
 have c0:w1.cell? ⟨b,0,none⟩=some (.pointer (some ⟨b,0,none⟩)):=by rw [Lib.cell_of_heap hbk];rfl
 have c1:w1.cell? ⟨b,1,none⟩=some v:=by rw [Lib.cell_of_heap hbk];rfl
 go_wp2_with (at_builtin;refine Lib.wpList_append_own_stringF _ rfl _ _ 22 9 rfl B 5 i0 Tryz.underlying22 Tryz.underlying9 hi hz0 hz1 hz2 _ _ _ rfl hown s rfl ?c3 ?c4 ?c5 ?_)
 case c3=>unfold maxLen;omega
 case c4=>omega
 case c5=>omega
 intro v' w2 hown' hgrow _
 have hb2:w2.heap[b]? =some (.cells #[.pointer (some ⟨b,0,none⟩),v] 72 (0,0)):=by
  rw [hgrow.block b (ke hbk) (fun e=>hne e.symm)]
  exact hbk
 have d0:w2.cell? ⟨b,0,none⟩=some (.pointer (some ⟨b,0,none⟩)):=by rw [Lib.cell_of_heap hb2];rfl
 have d1:w2.cell? ⟨b,1,none⟩=some v:=by rw [Lib.cell_of_heap hb2];rfl
 have f1:w2.frozen? ⟨b,1,none⟩=false:=Lib.frozen_of_heap hb2 1
 obtain ⟨ao,n',cap,rfl⟩:∃ao n' cap,v'= .slice ao n' cap:=by
  rcases hown'.2 with ⟨hv,_⟩|⟨g,cap,cur,fz,hv,_⟩
  ·exact ⟨_,_,_,hv⟩
  ·exact ⟨_,_,_,hv⟩
 go_wp2
 go_ret2
 exact ⟨rfl,Lib.BuilderAtF.put (T:=72) (e:=5) hB hb2 (bs':=bs++Lib.strCells s) (by simpa [Lib.strCells_length] using hown') (by decide),(hb1.grown hgrow (by omega) (fun k hk=>(hown.lt k hk).1)).setCell (p:=⟨b,1,none⟩) hB _,(hk1.grown hgrow (Lib.ownsRowF_kind hown)).setCell ⟨b,1,none⟩ rfl _⟩
end Go.Proofs.YtpmdcppnlggckaaGreatDoor
namespace Go.Proofs.YtpmdcppnlggckaaGreatDoor
open Go.RowKit Go.Lib
theorem DU (s:ByteArray) (i:Nat) (h:i<s.size) (acc:List UInt8) (hc:s[i]≠13) (heq:acc++aN (s.data.toList.drop i)=aN s.data.toList):(acc++[s[i]])++aN (s.data.toList.drop (i+1))=aN s.data.toList:=by
 rw [←heq,aj s i h,aN,if_pos hc,List.append_assoc];rfl
theorem DV (s:ByteArray) (i:Nat) (h:i+1<s.size) (acc:List UInt8) (hc:s[i]'(by omega)=13) (hd:s[i+1]=10) (heq:acc++aN (s.data.toList.drop i)=aN s.data.toList):acc++aN (s.data.toList.drop (i+1))=aN s.data.toList:=by
 rw [←heq,aj s i (by omega),aN,hc,aj s (i+1) h,hd];rfl
theorem vT (s:ByteArray) (i:Nat) (h:i<s.size) (acc:List UInt8) (hc:s[i]=13) (hd:∀h:i+1<s.size,s[i+1]≠10) (heq:acc++aN (s.data.toList.drop i)=aN s.data.toList):(acc++[10])++aN (s.data.toList.drop (i+1))=aN s.data.toList:=by
 have hh:(s.data.toList.drop (i+1)).head?≠some 10:=by
  by_cases h1:i+1<s.size
  ·rw [aj s (i+1) h1];simpa using hd h1
  ·rw [List.drop_eq_nil_of_le (by rw [←Lib.size_eq];omega)];simp
 rw [←heq,aj s i h,aN,hc]
 simp only [ne_eq,not_true_eq_false,if_false,if_neg hh,List.append_assoc];rfl
theorem DW (s:ByteArray) (w:World) (hs:s.size≤1099511627776):Calls Tryz.prog 23 #[.string s] w fun e w'=>e= .returned (.string ⟨(aN s.data.toList).toArray⟩)∧Below w.heap.size w w':=by
 go_enter Tryz.func23,Tryz.ntmps23
 go_wp2
 refine cB 0 (fun a' wr=>∃(at_:Nat) (acc:List UInt8) (u1 u5 u6 u7 u8 u9 u10 u11 u12 u13 u14 u15 u16 u17 u18 u19 u20 u21 u22 u23 u24 u25 u26 u27 u28 u29 u30 u31 u32 u33 u34 u35 u36 u37:Value),a'={tmps:=#[.string s,u1,.string ⟨#[]⟩,.pointer (some ⟨w.heap.size,0,none⟩),.int .i64 (at_:Int),u5,u6,u7,u8,u9,u10,u11,u12,u13,u14,u15,u16,u17,u18,u19,u20,u21,u22,u23,u24,u25,u26,u27,u28,u29,u30,u31,u32,u33,u34,u35,u36,u37],defers:=[]}∧Lib.IsBuilderF 72 5 w.heap.size w.heap.size (Lib.byteCells acc) wr∧Below w.heap.size w wr∧at_≤s.size∧acc++aN (s.data.toList.drop at_)=aN s.data.toList∧acc.length≤at_) (fun a' _=>s.size-(ae (a'.tmps.getD 4 undef)).toNat) rfl ?_ ?_
 ·rintro a' wr ⟨at_,acc,u1,u5,u6,u7,u8,u9,u10,u11,u12,u13,u14,u15,u16,u17,u18,u19,u20,u21,u22,u23,u24,u25,u26,u27,u28,u29,u30,u31,u32,u33,u34,u35,u36,u37,rfl,hI,hbw,hle,heq,hacc⟩
  have hsz:=hbw.size
  by_cases hend:at_=s.size
  ·subst hend
   go_wp2_with (go_at_call 46;refine (Tryz.Builder_String_any_k w.heap.size w.heap.size acc _ hI (by omega)).mono ?_)
   rintro e W1 ⟨rfl,_,b1,_⟩
   go_wp2
   simp only [Exit.jump]
   go_ret
   refine ⟨aY ?_,hbw.trans b1⟩
   rw [←heq,List.drop_eq_nil_of_le (by rw [←Lib.size_eq];omega)];simp [aN]
  ·have hlt:at_<s.size:=by omega
   have HE:=Lib.hid heq
   clear heq
   by_cases h13:((s[at_].toNat:Nat):Int)=13
   ·by_cases hlt1:at_+1<s.size
    ·by_cases h10:((s[at_+1].toNat:Nat):Int)=10
     ·go_wp2
      go_step3
      refine ⟨rfl,⟨at_+1,acc,_,_,_,_,_,_,_,_,_,_,_,_,_,_,_,_,_,_,_,_,_,_,_,_,_,_,_,_,_,_,_,_,_,_,rfl,hI,hbw,by omega,DV s at_ (by omega) acc (aQ _ 13 (by decide) h13) (aQ _ 10 (by decide) h10) HE.out,by omega⟩,?_⟩
      simp [ae];omega
     ·have h10':(((s[at_+1].toNat:Nat):Int)==10)=false:=by simpa using h10
      go_wp2_with (go_at_call 48;refine (iD w.heap.size w.heap.size _ _ _ hI (by rw [byteCells_length];omega) hsz).mono ?_)
      rintro e w1 ⟨rfl,h1,b1,-⟩
      go_wp2
      go_step3
      refine ⟨rfl,⟨at_+1,acc++[10],_,_,_,_,_,_,_,_,_,_,_,_,_,_,_,_,_,_,_,_,_,_,_,_,_,_,_,_,_,_,_,_,_,_,rfl,by rw [byteCells_append];exact .inr h1,hbw.trans b1,by omega,vT s at_ hlt acc (aQ _ 13 (by decide) h13) (fun _=>ef _ 10 (by decide) h10) HE.out,by simp;omega⟩,?_⟩
      simp [ae];omega
    ·go_wp2_with (go_at_call 48;refine (iD w.heap.size w.heap.size _ _ _ hI (by rw [byteCells_length];omega) hsz).mono ?_)
     rintro e w1 rfl h1 b1-
     go_wp2
     go_step3
     refine ⟨rfl,⟨at_+1,acc++[10],_,_,_,_,_,_,_,_,_,_,_,_,_,_,_,_,_,_,_,_,_,_,_,_,_,_,_,_,_,_,_,_,_,_,rfl,by rw [byteCells_append];exact .inr h1,hbw.trans b1,by omega,vT s at_ hlt acc (aQ _ 13 (by decide) h13) (fun _=>absurd ‹_› (by omega)) HE.out,by simp;omega⟩,?_⟩
     simp [ae];omega
   ·have h13':(((s[at_].toNat:Nat):Int) != 13)=true:=by simpa using h13
    go_wp2_with (go_at_call 48;refine (iD w.heap.size w.heap.size _ _ _ hI (by rw [byteCells_length];omega) hsz).mono ?_)
    rintro e w1 ⟨rfl,h1,b1,-⟩
    go_wp2
    go_step3
    refine ⟨rfl,⟨at_+1,acc++[s[at_]],_,_,_,_,_,_,_,_,_,_,_,_,_,_,_,_,_,_,_,_,_,_,_,_,_,_,_,_,_,_,_,_,_,_,rfl,by rw [byteCells_append];exact .inr h1,hbw.trans b1,by omega,DU s at_ hlt acc (ef _ 13 (by decide) h13) HE.out,by simp;omega⟩,?_⟩
    simp [ae];omega
 ·intro hpass
  go_wp2_with (fail)
  refine (Tryz.Builder_Grow_fresh w.heap.size w.heap.size s.size _ (Nat.le_refl _) (heap_alloc_new w _) (by simp) (by omega)).mono ?_
  rintro e w2 ⟨rfl,hB0,hbel0⟩
  have hI0:Lib.IsBuilderF 72 5 w.heap.size w.heap.size [] w2:=Lib.IsBuilderF.of (.inr hB0)
  go_wp2
  go_step3
  rename_i K hK
  refine hK _ _ (hpass _ _ ?_)
  exact ⟨0,[],_,_,_,_,_,_,_,_,_,_,_,_,_,_,_,_,_,_,_,_,_,_,_,_,_,_,_,_,_,_,_,_,_,_,rfl,hI0,((Below.refl _ w).alloc (Nat.le_refl _) _).trans hbel0,Nat.zero_le _,rfl,Nat.zero_le _⟩
theorem p9 (s:ByteArray) (i:Nat) (h:i<s.size) (acc:List UInt8) (hc:s[i]=0) (heq:acc++ap (s.data.toList.drop i)=ap s.data.toList):(acc++[239,191,189])++ap (s.data.toList.drop (i+1))=ap s.data.toList:=by
 rw [←heq,aj s i h,ap,hc,if_pos rfl,List.append_assoc];rfl
theorem sI (s:ByteArray) (i:Nat) (h:i<s.size) (acc:List UInt8) (hc:s[i]≠0) (heq:acc++ap (s.data.toList.drop i)=ap s.data.toList):(acc++[s[i]])++ap (s.data.toList.drop (i+1))=ap s.data.toList:=by
 rw [←heq,aj s i h,ap,if_neg hc,List.append_assoc];rfl
theorem tZ:strCells ⟨#[239,191,189]⟩=byteCells [239,191,189]:=rfl
theorem fy (s:ByteArray) (w:World) (hs:s.size≤1099511627776):Calls Tryz.prog 126 #[.string s] w fun e w'=>e= .returned (.string ⟨(ap s.data.toList).toArray⟩)∧Below w.heap.size w w':=by
 go_enter Tryz.func126,Tryz.ntmps126
 go_wp2
 refine cB 0 (fun a' wr=>∃(at_:Nat) (acc:List UInt8) (u1 u5 u6 u7 u8 u9 u10 u11 u12 u13 u14 u15 u16 u17 u18 u19 u20 u21 u22 u23:Value),a'={tmps:=#[.string s,u1,.string ⟨#[]⟩,.pointer (some ⟨w.heap.size,0,none⟩),.int .i64 (at_:Int),u5,u6,u7,u8,u9,u10,u11,u12,u13,u14,u15,u16,u17,u18,u19,u20,u21,u22,u23],defers:=[]}∧Lib.IsBuilderF 72 5 w.heap.size w.heap.size (Lib.byteCells acc) wr∧Below w.heap.size w wr∧at_≤s.size∧acc++ap (s.data.toList.drop at_)=ap s.data.toList∧acc.length≤3*at_) (fun a' _=>s.size-(ae (a'.tmps.getD 4 undef)).toNat) rfl ?_ ?_
 ·rintro a' wr ⟨at_,acc,u1,u5,u6,u7,u8,u9,u10,u11,u12,u13,u14,u15,u16,u17,u18,u19,u20,u21,u22,u23,rfl,hI,hbw,hle,heq,hacc⟩
  have hsz:=hbw.size
  by_cases hend:at_=s.size
  ·subst hend
   go_wp2_with (go_at_call 46;refine (Tryz.Builder_String_any_k w.heap.size w.heap.size acc _ hI (by omega)).mono ?_)
   rintro e W1 ⟨rfl,_,b1,_⟩
   go_wp2
   simp only [Exit.jump]
   go_ret
   refine ⟨aY ?_,hbw.trans b1⟩
   rw [←heq,List.drop_eq_nil_of_le (by rw [←Lib.size_eq];omega)];simp [ap]
  ·have hlt:at_<s.size:=by omega
   have HE:=Lib.hid heq
   clear heq
   by_cases h0:((s[at_].toNat:Nat):Int)=0
   ·go_wp2_with (go_at_call 43;refine (eK w.heap.size w.heap.size _ _ _ hI (by rw [byteCells_length];have:(ByteArray.mk #[239,191,189]).size=3:=rfl;omega) hsz).mono ?_)
    rintro e w1 ⟨rfl,h1,b1,-⟩
    go_wp2
    go_step3
    refine ⟨rfl,⟨at_+1,acc++[239,191,189],_,_,_,_,_,_,_,_,_,_,_,_,_,_,_,_,_,_,_,_,rfl,by rw [byteCells_append,←tZ];exact .inr h1,hbw.trans b1,by omega,p9 s at_ hlt acc (aQ _ 0 (by decide) h0) HE.out,by simp;omega⟩,?_⟩
    simp [ae];omega
   ·have h0':(((s[at_].toNat:Nat):Int)==0)=false:=by simpa using h0
    go_wp2_with (go_at_call 48;refine (iD w.heap.size w.heap.size _ _ _ hI (by rw [byteCells_length];omega) hsz).mono ?_)
    rintro e w1 ⟨rfl,h1,b1,-⟩
    go_wp2
    go_step3
    refine ⟨rfl,⟨at_+1,acc++[s[at_]],_,_,_,_,_,_,_,_,_,_,_,_,_,_,_,_,_,_,_,_,rfl,by rw [byteCells_append];exact .inr h1,hbw.trans b1,by omega,sI s at_ hlt acc (ef _ 0 (by decide) h0) HE.out,by simp;omega⟩,?_⟩
    simp [ae];omega
 ·intro hpass
  go_wp2_with (fail)
  refine (Tryz.Builder_Grow_fresh w.heap.size w.heap.size s.size _ (Nat.le_refl _) (heap_alloc_new w _) (by simp) (by omega)).mono ?_
  rintro e w2 ⟨rfl,hB0,hbel0⟩
  have hI0:Lib.IsBuilderF 72 5 w.heap.size w.heap.size [] w2:=Lib.IsBuilderF.of (.inr hB0)
  go_wp2
  go_step3
  rename_i K hK
  refine hK _ _ (hpass _ _ ?_)
  exact ⟨0,[],_,_,_,_,_,_,_,_,_,_,_,_,_,_,_,_,_,_,_,_,rfl,hI0,((Below.refl _ w).alloc (Nat.le_refl _) _).trans hbel0,Nat.zero_le _,rfl,Nat.zero_le _⟩
end Go.Proofs.YtpmdcppnlggckaaGreatDoor
namespace Go.Proofs.YtpmdcppnlggckaaGreatDoor
open Go.RowKit Go.Lib
def fT (s:ByteArray) (i:Nat):Bool:=decide (0<i)&&(s.data.toList.getD (i-1) 0==13)
theorem fJ (s:ByteArray) (i:Nat) (h:i<s.size):fT s (i+1)=(s[i]==13):=by
 unfold fT
 rw [show i+1-1=i by omega,List.getD_eq_getElem?_getD,List.getElem?_eq_getElem (by rw [←Lib.size_eq];exact h)]
 simp;rfl
theorem DX (s:ByteArray) (i:Nat) (h:i<s.size) (O:ByteArray) (L:List UInt8) (hc:s[i]=13) (heq:O.data.toList++cb (fT s i) (s.data.toList.drop i)=L):(O++⟨#[10]⟩).data.toList++cb (fT s (i+1)) (s.data.toList.drop (i+1))=L:=by
 rw [←heq,aj s i h,cb,hc,if_pos rfl,fJ s i h,hc]
 simp
theorem yP (s:ByteArray) (i:Nat) (h:i<s.size) (O:ByteArray) (L:List UInt8) (hc:s[i]=10) (hp:fT s i=true) (heq:O.data.toList++cb (fT s i) (s.data.toList.drop i)=L):O.data.toList++cb (fT s (i+1)) (s.data.toList.drop (i+1))=L:=by
 rw [←heq,aj s i h,cb,hc,if_neg (by decide),if_pos ⟨rfl,hp⟩,fJ s i h,hc]
 rfl
theorem nF (s:ByteArray) (i:Nat) (h:i<s.size) (O:ByteArray) (L:List UInt8) (hc:s[i]≠13) (hp:s[i]=10→fT s i=false) (heq:O.data.toList++cb (fT s i) (s.data.toList.drop i)=L):(O++s.extract i (i+1)).data.toList++cb (fT s (i+1)) (s.data.toList.drop (i+1))=L:=by
 have hb:(s[i]==13)=false:=by simpa using hc
 rw [←heq,aj s i h,cb,if_neg hc,fJ s i h,hb]
 by_cases h10:s[i]=10
 ·rw [if_neg (fun x=>by rw [hp h10] at x;simp at x)]
  rw [ByteArray.data_append,Array.toList_append,ct s i h,List.append_assoc];rfl
 ·rw [if_neg (fun x=>h10 x.1)]
  rw [ByteArray.data_append,Array.toList_append,ct s i h,List.append_assoc];rfl
theorem vU (s:ByteArray) (w:World) (hs:s.size≤1099511627776):Calls Tryz.prog 17 #[.string s] w fun e w'=>e= .returned (.string ⟨(aN s.data.toList).toArray⟩)∧Below w.heap.size w w':=by
 go_enter Tryz.func17,Tryz.ntmps17
 go_wp2
 go_loopw [3,4] (fun o v wr=>∃(i:Nat) (O:ByteArray),o= .string O∧v= .int .i64 (i:Int)∧Below w.heap.size w wr∧i≤s.size∧O.data.toList++cb (fT s i) (s.data.toList.drop i)=aN s.data.toList∧O.size≤i) (fun _ v _=>s.size-(ae v).toNat)
 case atStart=>exact ⟨0,⟨#[]⟩,rfl,rfl,Below.refl _ w,Nat.zero_le _,by rw [show fT s 0=false from rfl,oz];rfl,Nat.zero_le _⟩
 case round=>
  obtain ⟨i,O,rfl,rfl,hbw,hle,heq,hO⟩:=hrel
  have HE:=Lib.hid heq
  clear heq
  by_cases hlt:i<s.size
  ·by_cases h13:((s[i].toNat:Nat):Int)=13
   ·go_wp2
    go_roundw
    case rel=>exact ⟨i+1,_,rfl,rfl,hbw,by omega,DX s i hlt O _ (aQ _ 13 (by decide) h13) HE.out,by rw [ByteArray.size_append];have:(ByteArray.mk #[10]).size=1:=rfl;omega⟩
    case measure=>simp [ae];omega
   ·have h13':(((s[i].toNat:Nat):Int) != 13)=true:=by simpa using h13
    by_cases h10:((s[i].toNat:Nat):Int)=10
    ·match i,hlt,h13,h13',h10,hle,HE,hO with
     |0,hlt,h13,h13',h10,hle,HE,hO=>
      go_wp2
      go_roundw
      case rel=>exact ⟨1,_,rfl,rfl,hbw,by omega,nF s 0 hlt O _ (ef _ 13 (by decide) h13) (fun _=>rfl) HE.out,by simp;omega⟩
      case measure=>simp [ae];omega
     |j+1,hlt,h13,h13',h10,hle,HE,hO=>
      have hj:j<s.size:=by omega
      have hi1:(((j+1:Nat):Int)==0)=false:=by simp;omega
      by_cases hp:((s[j].toNat:Nat):Int)=13
      ·go_wp2
       go_roundw
       case rel=>exact ⟨j+1+1,_,rfl,rfl,hbw,by omega,yP s (j+1) hlt O _ (aQ _ 10 (by decide) h10) (by rw [fJ s j hj,aQ _ 13 (by decide) hp];rfl) HE.out,by omega⟩
       case measure=>simp [ae];omega
      ·have hp':(((s[j].toNat:Nat):Int) != 13)=true:=by simpa using hp
       go_wp2
       go_roundw
       case rel=>exact ⟨j+1+1,_,rfl,rfl,hbw,by omega,nF s (j+1) hlt O _ (ef _ 13 (by decide) h13) (fun _=>by rw [fJ s j hj];simpa using ef _ 13 (by decide) hp) HE.out,by simp;omega⟩
       case measure=>simp [ae];omega
    ·have h10':(((s[i].toNat:Nat):Int) != 10)=true:=by simpa using h10
     go_wp2
     go_roundw
     case rel=>exact ⟨i+1,_,rfl,rfl,hbw,by omega,nF s i hlt O _ (ef _ 13 (by decide) h13) (fun x=>absurd x (ef _ 10 (by decide) h10)) HE.out,by simp;omega⟩
     case measure=>simp [ae];omega
  ·go_wp2
   go_ret
   refine ⟨aY ?_,hbw⟩
   have:=HE.out
   rw [List.drop_eq_nil_of_le (by rw [←Lib.size_eq];omega)] at this
   rw [←this];simp [cb]
theorem aZ (s:ByteArray) (w:World) (hs:s.size≤1099511627776):Calls Tryz.prog 71 #[.string s] w fun e w'=>e= .returned (.string ⟨(ap s.data.toList).toArray⟩)∧Below w.heap.size w w':=by
 go_enter Tryz.func71,Tryz.ntmps71
 go_wp2
 go_loopw [3,4] (fun o v wr=>∃(i:Nat) (O:ByteArray),o= .string O∧v= .int .i64 (i:Int)∧Below w.heap.size w wr∧i≤s.size∧O.data.toList++ap (s.data.toList.drop i)=ap s.data.toList∧O.size≤3*i) (fun _ v _=>s.size-(ae v).toNat)
 case atStart=>exact ⟨0,⟨#[]⟩,rfl,rfl,Below.refl _ w,Nat.zero_le _,rfl,Nat.zero_le _⟩
 case round=>
  obtain ⟨i,O,rfl,rfl,hbw,hle,heq,hO⟩:=hrel
  have HE:=Lib.hid heq
  clear heq
  by_cases hlt:i<s.size
  ·by_cases h0:((s[i].toNat:Nat):Int)=0
   ·go_wp2
    go_roundw
    case rel=>exact ⟨i+1,_,rfl,rfl,hbw,by omega,by rw [ByteArray.data_append,Array.toList_append];exact p9 s i hlt _ (aQ _ 0 (by decide) h0) HE.out,by rw [ByteArray.size_append];have:(ByteArray.mk #[239,191,189]).size=3:=rfl;omega⟩
    case measure=>simp [ae];omega
   ·have h0':(((s[i].toNat:Nat):Int)==0)=false:=by simpa using h0
    go_wp2
    go_roundw
    case rel=>exact ⟨i+1,_,rfl,rfl,hbw,by omega,by rw [ByteArray.data_append,Array.toList_append,ct s i hlt];exact sI s i hlt _ (ef _ 0 (by decide) h0) HE.out,by simp;omega⟩
    case measure=>simp [ae];omega
  ·go_wp2
   go_ret
   refine ⟨aY ?_,hbw⟩
   have:=HE.out
   rw [List.drop_eq_nil_of_le (by rw [←Lib.size_eq];omega)] at this
   rw [←this];simp [ap]
end Go.Proofs.YtpmdcppnlggckaaGreatDoor
namespace Go.Proofs.YtpmdcppnlggckaaGreatDoor
open Go.RowKit Go.Lib
theorem Hh (s:ByteArray) (i:Nat) (h:i<s.size) (acc:List UInt8) (heq:acc++aD (s.data.toList.drop i)=aD s.data.toList):(acc++[ca s[i]])++aD (s.data.toList.drop (i+1))=aD s.data.toList:=by
 rw [←heq,aj s i h,aI,List.append_assoc];rfl
theorem rE (acc:List UInt8) (c:UInt8):byteCells (acc++[c])=byteCells acc++[.int .u8 (c.toNat:Int)]:=by rw [byteCells_append];rfl
theorem Jj (s:ByteArray) (w:World) (hs:s.size≤1099511627776):Calls Tryz.prog 127 #[.string s] w fun e w'=>e= .returned (.string (oY s))∧Below w.heap.size w w':=by
 go_enter Tryz.func127,Tryz.ntmps127
 go_wp2_with (fail)
 refine (Tryz.Builder_Grow_fresh w.heap.size w.heap.size s.size _ (Nat.le_refl _) (heap_alloc_new w _) (by simp) (by omega)).mono ?_
 rintro e w2 ⟨rfl,hB0,hbel0⟩
 have hI0:Lib.IsBuilderF 72 5 w.heap.size w.heap.size [] w2:=Lib.IsBuilderF.of (.inr hB0)
 have hb0:Below w.heap.size w w2:=((Below.refl _ w).alloc (Nat.le_refl _) _).trans hbel0
 clear hB0 hbel0
 go_wp2
 go_loopw [10] (fun v wr=>∃(i:Nat) (acc:List UInt8),v= .int .i64 (i:Int)∧Lib.IsBuilderF 72 5 w.heap.size w.heap.size (Lib.byteCells acc) wr∧Below w.heap.size w wr∧i≤s.size∧acc++aD (s.data.toList.drop i)=aD s.data.toList∧acc.length≤i) (fun v _=>s.size-(ae v).toNat)
 case atStart=>exact ⟨0,[],rfl,hI0,hb0,Nat.zero_le _,rfl,Nat.zero_le _⟩
 case round=>
  obtain ⟨i,acc,rfl,hI,hbw,hle,heq,hacc⟩:=hrel
  have hsz:=hbw.size
  have HE:=Lib.hid heq
  clear heq
  by_cases hlt:i<s.size
  ·have hq:=(s[i]'hlt).toNat_lt
   have LB:=Lib.hid (cz (s[i]'hlt))
   go_wp2_with (fail)
   refine (DD _ _ (by omega) (by omega)).mono ?_
   rintro e w' ⟨rfl,rfl⟩
   rw [←LB.out]
   go_wp2_with (fail)
   refine (iD w.heap.size w.heap.size _ _ _ hI (by rw [byteCells_length];omega) hsz).mono ?_
   rintro e w1 ⟨rfl,h1,b1,-⟩
   go_wp2
   go_roundw
   case rel=>exact ⟨i+1,acc++[ca s[i]],rfl,by rw [rE];exact .inr h1,hbw.trans b1,by omega,Hh s i hlt acc HE.out,by simp;omega⟩
   case measure=>simp [ae];omega
  ·go_wp2_with (go_at_call 46;refine (Tryz.Builder_String_any_k w.heap.size w.heap.size acc _ hI (by omega)).mono ?_)
   rintro e W1 ⟨rfl,_,b1,_⟩
   go_wp2
   go_ret
   refine ⟨aY ?_,hbw.trans b1⟩
   have:=HE.out
   rw [List.drop_eq_nil_of_le (by rw [←Lib.size_eq];omega),aD,List.map_nil,List.append_nil] at this
   rw [this];rfl
end Go.Proofs.YtpmdcppnlggckaaGreatDoor

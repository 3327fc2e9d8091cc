/-
  Texts laid together: LinesMath, BldB, Bld, LinesCode, LinesRef, SignLow.
-/
import Derived.WalkKit
import Derived.Test.YtajpoodpbbbkfaaGreatDoorShelf
import Derived.BigCall
import Derived.Lib.RuneBytes
import Derived.Lib.Hide
import Derived.Test.YtajpoodpbbbkfaaGreatDoorP3
import Derived.Test.YtajpoodpbbbkfaaGreatDoorP1
import Derived.Lib.Bytes
import Derived.WalkSpells
import Derived.WalkLawsBesides
set_option maxHeartbeats 4000000
set_option maxRecDepth 100000
namespace Go.Proofs.YtajpoodpbbbkfaaGreatDoor
def ay:List UInt8→List UInt8
 |[]=>[]
 |c::r=>if c≠13 then c::ay r else if r.head?=some 10 then ay r else 10::ay r
def cu:Bool→List UInt8→List UInt8
 |_,[]=>[]
 |p,c::r=>if c=13 then 10::cu true r else if c=10∧p=true then cu false r else c::cu false r
def ap:List UInt8→List UInt8
 |[]=>[]
 |c::r=>if c=0 then 239::191::189::ap r else c::ap r
theorem yG:∀l:List UInt8,cu false l=ay l∧10::cu true l=ay (13::l)
 |[]=>⟨rfl,rfl⟩
 |c::r=>by
  obtain ⟨h1,h2⟩:=yG r
  by_cases h:c=13
  ·subst h
   have e1:cu false (13::r)=10::cu true r:=by simp [cu]
   have e2:cu true (13::r)=10::cu true r:=by simp [cu]
   refine ⟨by rw [e1,h2],?_⟩
   rw [e2,h2]
   rw [show ay (13::13::r)=10::ay (13::r) from by rw [ay];simp]
  ·have e1:cu false (c::r)=c::cu false r:=by simp [cu,h]
   have e0:ay (c::r)=c::ay r:=by rw [ay];simp [h]
   refine ⟨by rw [e1,e0,h1],?_⟩
   by_cases h':c=10
   ·subst h'
    have e2:cu true (10::r)=cu false r:=by simp [cu]
    rw [e2,h1,show ay (13::10::r)=ay (10::r) from by rw [ay];simp,e0]
   ·have e2:cu true (c::r)=c::cu false r:=by simp [cu,h,h']
    rw [e2,h1,show ay (13::c::r)=10::ay (c::r) from by rw [ay];simp [h'],e0]
theorem qx (l:List UInt8):cu false l=ay l:=(yG l).1
theorem np:∀l:List UInt8,13∉l→ay l=l
 |[],_=>rfl
 |c::r,h=>by
  simp only [List.mem_cons,not_or] at h
  rw [ay,if_pos (fun e=>h.1 e.symm),np r h.2]
theorem px:∀(p:Bool) (l:List UInt8),(cu p l).length≤l.length
 |_,[]=>by simp [cu]
 |p,c::r=>by
  have h1:=px true r
  have h2:=px false r
  rw [cu];repeat' split
  all_goals simp;try omega
theorem vc (l:List UInt8):(ay l).length≤l.length:=by rw [←qx];exact px false l
theorem gF:∀l:List UInt8,0∉l→ap l=l
 |[],_=>rfl
 |c::r,h=>by
  simp only [List.mem_cons,not_or] at h
  rw [ap,if_neg (fun e=>h.1 e.symm),gF r h.2]
theorem er:∀l:List UInt8,l.length≤(ap l).length∧(ap l).length≤3*l.length
 |[]=>by simp [ap]
 |c::r=>by
  have:=er r
  rw [ap];split<;>simp<;>omega
theorem kr:∀a b:List UInt8,ap (a++b)=ap a++ap b
 |[],_=>rfl
 |c::r,b=>by
  have:=kr r b
  rw [List.cons_append,ap,ap];split<;>simp [this]
theorem vd:∀(a b:List UInt8),¬(a.getLast?=some 13∧b.head?=some 10)→ay (a++b)=ay a++ay b
 |[],_,_=>rfl
 |[c],b,h=>by
  by_cases hc:c=13
  ·subst hc
   have hb:b.head?≠some 10:=fun e=>h ⟨rfl,e⟩
   show ay (13::b)=ay [13]++ay b
   rw [ay];simp only [ne_eq,not_true_eq_false,if_false,if_neg hb]
   rfl
  ·show ay (c::b)=ay [c]++ay b
   rw [ay,if_pos hc,show ay [c]=[c] from by rw [ay,if_pos hc];rfl];rfl
 |c::d::r,b,h=>by
  have ih:=vd (d::r) b (by rwa [List.getLast?_cons_cons] at h)
  rw [List.cons_append,ay,ay,ih]
  simp only [List.cons_append,List.head?_cons]
  by_cases hc:c≠13
  ·simp [if_pos hc]
  ·simp only [if_neg hc]
   by_cases hd:d=10
   ·simp [hd]
   ·simp [hd]
end Go.Proofs.YtajpoodpbbbkfaaGreatDoor
namespace Go.Proofs.YtajpoodpbbbkfaaGreatDoor
open Go.RowKit Go.Shelf
theorem qy : (Tryz.prog.info? 54).map (·.size) = some 2 := by kernel_rfl
theorem yH:liesAt Tryz.prog Tryz.prog.depth 54 (2/Tryz.prog.cellsOf 54) 0 54 1=true:=by kernel_rfl
theorem r6 (b:Nat) (w:World) (h0:w.cell? ⟨b,0,none⟩=some (.pointer (some ⟨b,0,none⟩))):Calls Tryz.prog 68 #[.pointer (some ⟨b,0,none⟩)] w fun e w'=>e= .returned (.tuple #[])∧w=w':=by
 obtain ⟨j,hj,_⟩:=Option.map_eq_some_iff.1 qy
 go_enter Tryz.func68,Tryz.ntmps68
 go_wp2
 rw [Lib.run_neq_ptr_same w _ Tryz.underlying52 hj]
 go_wp2
 go_end0
 exact ⟨rfl,rfl⟩
theorem qW (b:Nat) (w:World) (h0:w.cell? ⟨b,0,none⟩=some (.pointer none)) (hsh:w.shape? b=some (54,2)) (hfz:w.frozen? ⟨b,0,none⟩=false):Calls Tryz.prog 68 #[.pointer (some ⟨b,0,none⟩)] w fun e w'=>e= .returned (.tuple #[])∧w'=w.setCell ⟨b,0,none⟩ (.pointer (some ⟨b,0,none⟩)):=by
 obtain ⟨j,hj,hjs⟩:=Option.map_eq_some_iff.1 qy
 go_enter Tryz.func68,Tryz.ntmps68
 go_wp2
 rw [Lib.run_to_unsafe w ⟨b,0,none⟩ Tryz.underlying52 Tryz.underlying133 hj (by rw [hjs];decide) hsh (Nat.zero_lt_succ 1)]
 simp only [Result.andThen]
 rw [Oper.upon_value]
 go_wp2
 rw [run_callFunc_extern Tryz.func116 (by kernel_rfl) (by kernel_rfl) (by kernel_rfl) (e:=Extern.AbiNoEscape.same) (by kernel_rfl)]
 rw [Lib.run_noEscape]
 simp only [Result.andThen]
 rw [Oper.upon_value]
 go_wp2
 rw [Lib.run_from_unsafe w ⟨b,0,none⟩ Tryz.underlying133 Tryz.underlying52 hj hsh yH]
 simp only [Result.andThen]
 rw [Oper.upon_value]
 go_wp2
 go_end0
 exact ⟨rfl,rfl⟩
theorem py (B b:Nat) (bs:List Value) (w:World) (h:Lib.IsBuilderF 54 5 B b bs w):Calls Tryz.prog 68 #[.pointer (some ⟨b,0,none⟩)] w fun e w'=>e= .returned (.tuple #[])∧Lib.BuilderAtF 54 5 B b (.pointer (some ⟨b,0,none⟩)) bs w'∧Below B w w'∧Lib.OthersKept 5 (some b) w w':=by
 rcases h with h|h
 ·refine (qW b w h.cell0 h.shape h.frozen0).mono ?_
  rintro e w' ⟨rfl,rfl⟩
  exact ⟨rfl,h.used _,(Below.refl B w).setCell (p:=⟨b,0,none⟩) h.1 _,(Lib.OthersKept.refl _ _ w).setCell ⟨b,0,none⟩ rfl _⟩
 ·refine (r6 b w h.cell0).mono ?_
  rintro e w' ⟨rfl,rfl⟩
  exact ⟨rfl,h,Below.refl B _,Lib.OthersKept.refl _ _ _⟩
theorem yI:(Tryz.prog.info? 5).map (fun i=>(i.zero,i.size,i.bytes))=some (some (.int .u8 0),1,1):=by kernel_rfl
theorem ll {w:World} {b:Nat} {o:Obj} (h:w.heap[b]? =some o):b<w.heap.size:=(Array.getElem?_eq_some_iff.1 h).1
theorem jy (B b:Nat) (bs:List Value) (c:Int) (w:World) (h:Lib.IsBuilderF 54 5 B b bs w) (hlen:bs.length+1≤140737488355328) (hBw:B≤w.heap.size):Calls Tryz.prog 89 #[.pointer (some ⟨b,0,none⟩),.int .u8 c] w fun e w'=>e= .returned .nilIface∧Lib.BuilderAtF 54 5 B b (.pointer (some ⟨b,0,none⟩)) (bs++[.int .u8 c]) w'∧Below B w w'∧Lib.OthersKept 5 (some b) w w':=by
 obtain ⟨i0,hi,hz0,hz1,hz2⟩:=info_parts yI
 go_enter Tryz.func89,Tryz.ntmps89
 go_wp2_with (go_at_call 68;refine (py B b bs _ h).mono ?_)
 rintro e w1 ⟨rfl,h1,hb1,hk1⟩
 obtain ⟨hB,v,hbk,hown,hne⟩:=h1
 have hs1:=hb1.size
 have c0:w1.cell? ⟨b,0,none⟩=some (.pointer (some ⟨b,0,none⟩)):=by rw [Lib.cell_of_heap hbk];rfl
 have c1:w1.cell? ⟨b,1,none⟩=some v:=by rw [Lib.cell_of_heap hbk];rfl
 go_wp2_with (at_builtin;refine wpList_append_ownF _ rfl _ _ 22 rfl B 5 i0 (.int .u8 0) 1 1 Tryz.underlying22 hi hz0 hz1 hz2 rfl (by decide) _ _ _ rfl (hown.alloc _) ⟨w1.heap.size,0,none⟩ 1 1 [.int .u8 c] rfl rfl ?c1 ?c2 ?c3 ?c4 ?c5 ?_)
 case c1=>
  intro j u hj
  match j,hj with
  |0,hj=>simp at hj;subst hj;simp [Addr.add]
 case c2=>intro u hu;simp at hu;subst hu;rfl
 case c3=>unfold maxLen;omega
 case c4=>omega
 case c5=>simp;omega
 intro v' w2 hown' hgrow _
 have hlt:=ll hbk
 have hb2:w2.heap[b]? =some (.cells #[.pointer (some ⟨b,0,none⟩),v] 54 (0,0)):=by
  rw [hgrow.block b (by simp;omega) (fun e=>hne e.symm),Lib.alloc_old w1 _ b hlt]
  exact hbk
 have d0:w2.cell? ⟨b,0,none⟩=some (.pointer (some ⟨b,0,none⟩)):=by rw [Lib.cell_of_heap hb2];rfl
 have d1:w2.cell? ⟨b,1,none⟩=some v:=by rw [Lib.cell_of_heap hb2];rfl
 have f1:w2.frozen? ⟨b,1,none⟩=false:=Lib.frozen_of_heap hb2 1
 obtain ⟨g,cap,rfl⟩:∃g cap,v'= .slice (some ⟨g,0,none⟩) (bs.length+1) cap:=by
  rcases hown'.2 with ⟨_,h0⟩|⟨g,cap,cur,fz,hv,_⟩
  ·omega
  ·exact ⟨g,cap,hv⟩
 go_wp2
 go_ret
 exact ⟨rfl,Lib.BuilderAtF.put (T:=54) (e:=5) hB hb2 (bs':=bs++[.int .u8 c]) (by simpa using hown') (by decide),((hb1.alloc (by omega) _).grown hgrow (by simp;omega) (fun k hk=>(hown.lt k hk).1)).setCell (p:=⟨b,1,none⟩) hB _,((hk1.alloc _).grown hgrow (Lib.ownsRowF_kind (hown.alloc _))).setCell ⟨b,1,none⟩ rfl _⟩
end Go.Proofs.YtajpoodpbbbkfaaGreatDoor
namespace Go.Proofs.YtajpoodpbbbkfaaGreatDoor
open Go.RowKit Go.Shelf
theorem et (B b:Nat) (bs:List Value) (s:ByteArray) (w:World) (h:Lib.IsBuilderF 54 5 B b bs w) (hlen:bs.length+s.size≤140737488355328) (hBw:B≤w.heap.size):Calls Tryz.prog 32 #[.pointer (some ⟨b,0,none⟩),.string s] w fun e w'=>e= .returned (.tuple #[.int .i64 s.size,.nilIface])∧Lib.BuilderAtF 54 5 B b (.pointer (some ⟨b,0,none⟩)) (bs++Lib.strCells s) w'∧Below B w w'∧Lib.OthersKept 5 (some b) w w':=by
 obtain ⟨i0,hi,hz0,hz1,hz2⟩:=info_parts yI
 go_enter Tryz.func32,Tryz.ntmps32
 go_wp2_with (go_at_call 68;refine (py B b bs _ h).mono ?_)
 rintro e w1 ⟨rfl,h1,hb1,hk1⟩
 obtain ⟨hB,v,hbk,hown,hne⟩:=h1
 have hs1:=hb1.size
 have c0:w1.cell? ⟨b,0,none⟩=some (.pointer (some ⟨b,0,none⟩)):=by rw [Lib.cell_of_heap hbk];rfl
 have c1:w1.cell? ⟨b,1,none⟩=some v:=by rw [Lib.cell_of_heap hbk];rfl
 go_wp2_with (at_builtin;refine Lib.wpList_append_own_stringF _ rfl _ _ 22 9 rfl B 5 i0 Tryz.underlying22 Tryz.underlying9 hi hz0 hz1 hz2 _ _ _ rfl hown s rfl ?c3 ?c4 ?c5 ?_)
 case c3=>unfold maxLen;omega
 case c4=>omega
 case c5=>omega
 intro v' w2 hown' hgrow _
 have hb2:w2.heap[b]? =some (.cells #[.pointer (some ⟨b,0,none⟩),v] 54 (0,0)):=by
  rw [hgrow.block b (ll hbk) (fun e=>hne e.symm)]
  exact hbk
 have d0:w2.cell? ⟨b,0,none⟩=some (.pointer (some ⟨b,0,none⟩)):=by rw [Lib.cell_of_heap hb2];rfl
 have d1:w2.cell? ⟨b,1,none⟩=some v:=by rw [Lib.cell_of_heap hb2];rfl
 have f1:w2.frozen? ⟨b,1,none⟩=false:=Lib.frozen_of_heap hb2 1
 obtain ⟨ao,n',cap,rfl⟩:∃ao n' cap,v'= .slice ao n' cap:=by
  rcases hown'.2 with ⟨hv,_⟩|⟨g,cap,cur,fz,hv,_⟩
  ·exact ⟨_,_,_,hv⟩
  ·exact ⟨_,_,_,hv⟩
 go_wp2
 go_ret2
 exact ⟨rfl,Lib.BuilderAtF.put (T:=54) (e:=5) hB hb2 (bs':=bs++Lib.strCells s) (by simpa [Lib.strCells_length] using hown') (by decide),(hb1.grown hgrow (by omega) (fun k hk=>(hown.lt k hk).1)).setCell (p:=⟨b,1,none⟩) hB _,(hk1.grown hgrow (Lib.ownsRowF_kind hown)).setCell ⟨b,1,none⟩ rfl _⟩
end Go.Proofs.YtajpoodpbbbkfaaGreatDoor
namespace Go.Proofs.YtajpoodpbbbkfaaGreatDoor
open Go.RowKit Go.Lib
theorem Hf (s:ByteArray) (i:Nat) (h:i<s.size) (acc:List UInt8) (hc:s[i]≠13) (heq:acc++ay (s.data.toList.drop i)=ay s.data.toList):(acc++[s[i]])++ay (s.data.toList.drop (i+1))=ay s.data.toList:=by
 rw [←heq,aj s i h,ay,if_pos hc,List.append_assoc];rfl
theorem Hg (s:ByteArray) (i:Nat) (h:i+1<s.size) (acc:List UInt8) (hc:s[i]'(by omega)=13) (hd:s[i+1]=10) (heq:acc++ay (s.data.toList.drop i)=ay s.data.toList):acc++ay (s.data.toList.drop (i+1))=ay s.data.toList:=by
 rw [←heq,aj s i (by omega),ay,hc,aj s (i+1) h,hd];rfl
theorem yJ (s:ByteArray) (i:Nat) (h:i<s.size) (acc:List UInt8) (hc:s[i]=13) (hd:∀h:i+1<s.size,s[i+1]≠10) (heq:acc++ay (s.data.toList.drop i)=ay s.data.toList):(acc++[10])++ay (s.data.toList.drop (i+1))=ay s.data.toList:=by
 have hh:(s.data.toList.drop (i+1)).head?≠some 10:=by
  by_cases h1:i+1<s.size
  ·rw [aj s (i+1) h1];simpa using hd h1
  ·rw [List.drop_eq_nil_of_le (by rw [←Lib.size_eq];omega)];simp
 rw [←heq,aj s i h,ay,hc]
 simp only [ne_eq,not_true_eq_false,if_false,if_neg hh,List.append_assoc];rfl
theorem Hh (s:ByteArray) (w:World) (hs:s.size≤1099511627776):Calls Tryz.prog 46 #[.string s] w fun e w'=>e= .returned (.string ⟨(ay s.data.toList).toArray⟩)∧Below w.heap.size w w':=by
 go_enter Tryz.func46,Tryz.ntmps46
 go_wp2
 refine cV 0 (fun a' wr=>∃(at_:Nat) (acc:List UInt8) (u1 u5 u6 u7 u8 u9 u10 u11 u12 u13 u14 u15 u16 u17 u18 u19 u20 u21 u22 u23 u24 u25 u26 u27 u28 u29 u30 u31 u32 u33 u34 u35 u36 u37:Value),a'={tmps:=#[.string s,u1,.string ⟨#[]⟩,.pointer (some ⟨w.heap.size,0,none⟩),.int .i64 (at_:Int),u5,u6,u7,u8,u9,u10,u11,u12,u13,u14,u15,u16,u17,u18,u19,u20,u21,u22,u23,u24,u25,u26,u27,u28,u29,u30,u31,u32,u33,u34,u35,u36,u37],defers:=[]}∧Lib.IsBuilderF 54 5 w.heap.size w.heap.size (Lib.byteCells acc) wr∧Below w.heap.size w wr∧at_≤s.size∧acc++ay (s.data.toList.drop at_)=ay s.data.toList∧acc.length≤at_) (fun a' _=>s.size-(ae (a'.tmps.getD 4 undef)).toNat) rfl ?_ ?_
 ·rintro a' wr ⟨at_,acc,u1,u5,u6,u7,u8,u9,u10,u11,u12,u13,u14,u15,u16,u17,u18,u19,u20,u21,u22,u23,u24,u25,u26,u27,u28,u29,u30,u31,u32,u33,u34,u35,u36,u37,rfl,hI,hbw,hle,heq,hacc⟩
  have hsz:=hbw.size
  by_cases hend:at_=s.size
  ·subst hend
   go_wp2_with (go_at_call 35;refine (Tryz.Builder_String_any_k w.heap.size w.heap.size acc _ hI (by omega)).mono ?_)
   rintro e W1 ⟨rfl,_,b1,_⟩
   go_wp2
   simp only [Exit.jump]
   go_ret
   refine ⟨aO ?_,hbw.trans b1⟩
   rw [←heq,List.drop_eq_nil_of_le (by rw [←Lib.size_eq];omega)];simp [ay]
  ·have hlt:at_<s.size:=by omega
   have HE:=Lib.hid heq
   clear heq
   by_cases h13:((s[at_].toNat:Nat):Int)=13
   ·by_cases hlt1:at_+1<s.size
    ·by_cases h10:((s[at_+1].toNat:Nat):Int)=10
     ·go_wp2
      go_step3
      refine ⟨rfl,⟨at_+1,acc,_,_,_,_,_,_,_,_,_,_,_,_,_,_,_,_,_,_,_,_,_,_,_,_,_,_,_,_,_,_,_,_,_,_,rfl,hI,hbw,by omega,Hg s at_ (by omega) acc (aT _ 13 (by decide) h13) (aT _ 10 (by decide) h10) HE.out,by omega⟩,?_⟩
      simp [ae];omega
     ·have h10':(((s[at_+1].toNat:Nat):Int)==10)=false:=by simpa using h10
      go_wp2_with (go_at_call 89;refine (jy w.heap.size w.heap.size _ _ _ hI (by rw [byteCells_length];omega) hsz).mono ?_)
      rintro e w1 ⟨rfl,h1,b1,-⟩
      go_wp2
      go_step3
      refine ⟨rfl,⟨at_+1,acc++[10],_,_,_,_,_,_,_,_,_,_,_,_,_,_,_,_,_,_,_,_,_,_,_,_,_,_,_,_,_,_,_,_,_,_,rfl,by rw [byteCells_append];exact .inr h1,hbw.trans b1,by omega,yJ s at_ hlt acc (aT _ 13 (by decide) h13) (fun _=>eR _ 10 (by decide) h10) HE.out,by simp;omega⟩,?_⟩
      simp [ae];omega
    ·go_wp2_with (go_at_call 89;refine (jy w.heap.size w.heap.size _ _ _ hI (by rw [byteCells_length];omega) hsz).mono ?_)
     rintro e w1 rfl h1 b1-
     go_wp2
     go_step3
     refine ⟨rfl,⟨at_+1,acc++[10],_,_,_,_,_,_,_,_,_,_,_,_,_,_,_,_,_,_,_,_,_,_,_,_,_,_,_,_,_,_,_,_,_,_,rfl,by rw [byteCells_append];exact .inr h1,hbw.trans b1,by omega,yJ s at_ hlt acc (aT _ 13 (by decide) h13) (fun _=>absurd ‹_› (by omega)) HE.out,by simp;omega⟩,?_⟩
     simp [ae];omega
   ·have h13':(((s[at_].toNat:Nat):Int) != 13)=true:=by simpa using h13
    go_wp2_with (go_at_call 89;refine (jy w.heap.size w.heap.size _ _ _ hI (by rw [byteCells_length];omega) hsz).mono ?_)
    rintro e w1 ⟨rfl,h1,b1,-⟩
    go_wp2
    go_step3
    refine ⟨rfl,⟨at_+1,acc++[s[at_]],_,_,_,_,_,_,_,_,_,_,_,_,_,_,_,_,_,_,_,_,_,_,_,_,_,_,_,_,_,_,_,_,_,_,rfl,by rw [byteCells_append];exact .inr h1,hbw.trans b1,by omega,Hf s at_ hlt acc (eR _ 13 (by decide) h13) HE.out,by simp;omega⟩,?_⟩
    simp [ae];omega
 ·intro hpass
  go_wp2_with (fail)
  refine (Tryz.Builder_Grow_fresh w.heap.size w.heap.size s.size _ (Nat.le_refl _) (heap_alloc_new w _) (by simp) (by omega)).mono ?_
  rintro e w2 ⟨rfl,hB0,hbel0⟩
  have hI0:Lib.IsBuilderF 54 5 w.heap.size w.heap.size [] w2:=Lib.IsBuilderF.of (.inr hB0)
  go_wp2
  go_step3
  rename_i K hK
  refine hK _ _ (hpass _ _ ?_)
  exact ⟨0,[],_,_,_,_,_,_,_,_,_,_,_,_,_,_,_,_,_,_,_,_,_,_,_,_,_,_,_,_,_,_,_,_,_,_,rfl,hI0,((Below.refl _ w).alloc (Nat.le_refl _) _).trans hbel0,Nat.zero_le _,rfl,Nat.zero_le _⟩
theorem r7 (s:ByteArray) (i:Nat) (h:i<s.size) (acc:List UInt8) (hc:s[i]=0) (heq:acc++ap (s.data.toList.drop i)=ap s.data.toList):(acc++[239,191,189])++ap (s.data.toList.drop (i+1))=ap s.data.toList:=by
 rw [←heq,aj s i h,ap,hc,if_pos rfl,List.append_assoc];rfl
theorem ve (s:ByteArray) (i:Nat) (h:i<s.size) (acc:List UInt8) (hc:s[i]≠0) (heq:acc++ap (s.data.toList.drop i)=ap s.data.toList):(acc++[s[i]])++ap (s.data.toList.drop (i+1))=ap s.data.toList:=by
 rw [←heq,aj s i h,ap,if_neg hc,List.append_assoc];rfl
theorem wL:strCells ⟨#[239,191,189]⟩=byteCells [239,191,189]:=rfl
theorem gm (s:ByteArray) (w:World) (hs:s.size≤1099511627776):Calls Tryz.prog 99 #[.string s] w fun e w'=>e= .returned (.string ⟨(ap s.data.toList).toArray⟩)∧Below w.heap.size w w':=by
 go_enter Tryz.func99,Tryz.ntmps99
 go_wp2
 refine cV 0 (fun a' wr=>∃(at_:Nat) (acc:List UInt8) (u1 u5 u6 u7 u8 u9 u10 u11 u12 u13 u14 u15 u16 u17 u18 u19 u20 u21 u22 u23:Value),a'={tmps:=#[.string s,u1,.string ⟨#[]⟩,.pointer (some ⟨w.heap.size,0,none⟩),.int .i64 (at_:Int),u5,u6,u7,u8,u9,u10,u11,u12,u13,u14,u15,u16,u17,u18,u19,u20,u21,u22,u23],defers:=[]}∧Lib.IsBuilderF 54 5 w.heap.size w.heap.size (Lib.byteCells acc) wr∧Below w.heap.size w wr∧at_≤s.size∧acc++ap (s.data.toList.drop at_)=ap s.data.toList∧acc.length≤3*at_) (fun a' _=>s.size-(ae (a'.tmps.getD 4 undef)).toNat) rfl ?_ ?_
 ·rintro a' wr ⟨at_,acc,u1,u5,u6,u7,u8,u9,u10,u11,u12,u13,u14,u15,u16,u17,u18,u19,u20,u21,u22,u23,rfl,hI,hbw,hle,heq,hacc⟩
  have hsz:=hbw.size
  by_cases hend:at_=s.size
  ·subst hend
   go_wp2_with (go_at_call 35;refine (Tryz.Builder_String_any_k w.heap.size w.heap.size acc _ hI (by omega)).mono ?_)
   rintro e W1 ⟨rfl,_,b1,_⟩
   go_wp2
   simp only [Exit.jump]
   go_ret
   refine ⟨aO ?_,hbw.trans b1⟩
   rw [←heq,List.drop_eq_nil_of_le (by rw [←Lib.size_eq];omega)];simp [ap]
  ·have hlt:at_<s.size:=by omega
   have HE:=Lib.hid heq
   clear heq
   by_cases h0:((s[at_].toNat:Nat):Int)=0
   ·go_wp2_with (go_at_call 32;refine (et w.heap.size w.heap.size _ _ _ hI (by rw [byteCells_length];have:(ByteArray.mk #[239,191,189]).size=3:=rfl;omega) hsz).mono ?_)
    rintro e w1 ⟨rfl,h1,b1,-⟩
    go_wp2
    go_step3
    refine ⟨rfl,⟨at_+1,acc++[239,191,189],_,_,_,_,_,_,_,_,_,_,_,_,_,_,_,_,_,_,_,_,rfl,by rw [byteCells_append,←wL];exact .inr h1,hbw.trans b1,by omega,r7 s at_ hlt acc (aT _ 0 (by decide) h0) HE.out,by simp;omega⟩,?_⟩
    simp [ae];omega
   ·have h0':(((s[at_].toNat:Nat):Int)==0)=false:=by simpa using h0
    go_wp2_with (go_at_call 89;refine (jy w.heap.size w.heap.size _ _ _ hI (by rw [byteCells_length];omega) hsz).mono ?_)
    rintro e w1 ⟨rfl,h1,b1,-⟩
    go_wp2
    go_step3
    refine ⟨rfl,⟨at_+1,acc++[s[at_]],_,_,_,_,_,_,_,_,_,_,_,_,_,_,_,_,_,_,_,_,rfl,by rw [byteCells_append];exact .inr h1,hbw.trans b1,by omega,ve s at_ hlt acc (eR _ 0 (by decide) h0) HE.out,by simp;omega⟩,?_⟩
    simp [ae];omega
 ·intro hpass
  go_wp2_with (fail)
  refine (Tryz.Builder_Grow_fresh w.heap.size w.heap.size s.size _ (Nat.le_refl _) (heap_alloc_new w _) (by simp) (by omega)).mono ?_
  rintro e w2 ⟨rfl,hB0,hbel0⟩
  have hI0:Lib.IsBuilderF 54 5 w.heap.size w.heap.size [] w2:=Lib.IsBuilderF.of (.inr hB0)
  go_wp2
  go_step3
  rename_i K hK
  refine hK _ _ (hpass _ _ ?_)
  exact ⟨0,[],_,_,_,_,_,_,_,_,_,_,_,_,_,_,_,_,_,_,_,_,rfl,hI0,((Below.refl _ w).alloc (Nat.le_refl _) _).trans hbel0,Nat.zero_le _,rfl,Nat.zero_le _⟩
end Go.Proofs.YtajpoodpbbbkfaaGreatDoor
namespace Go.Proofs.YtajpoodpbbbkfaaGreatDoor
open Go.RowKit Go.Lib
def gP (s:ByteArray) (i:Nat):Bool:=decide (0<i)&&(s.data.toList.getD (i-1) 0==13)
theorem gG (s:ByteArray) (i:Nat) (h:i<s.size):gP s (i+1)=(s[i]==13):=by
 unfold gP
 rw [show i+1-1=i by omega,List.getD_eq_getElem?_getD,List.getElem?_eq_getElem (by rw [←Lib.size_eq];exact h)]
 simp;rfl
theorem Hi (s:ByteArray) (i:Nat) (h:i<s.size) (O:ByteArray) (L:List UInt8) (hc:s[i]=13) (heq:O.data.toList++cu (gP s i) (s.data.toList.drop i)=L):(O++⟨#[10]⟩).data.toList++cu (gP s (i+1)) (s.data.toList.drop (i+1))=L:=by
 rw [←heq,aj s i h,cu,hc,if_pos rfl,gG s i h,hc]
 simp
theorem Bw (s:ByteArray) (i:Nat) (h:i<s.size) (O:ByteArray) (L:List UInt8) (hc:s[i]=10) (hp:gP s i=true) (heq:O.data.toList++cu (gP s i) (s.data.toList.drop i)=L):O.data.toList++cu (gP s (i+1)) (s.data.toList.drop (i+1))=L:=by
 rw [←heq,aj s i h,cu,hc,if_neg (by decide),if_pos ⟨rfl,hp⟩,gG s i h,hc]
 rfl
theorem pz (s:ByteArray) (i:Nat) (h:i<s.size) (O:ByteArray) (L:List UInt8) (hc:s[i]≠13) (hp:s[i]=10→gP s i=false) (heq:O.data.toList++cu (gP s i) (s.data.toList.drop i)=L):(O++s.extract i (i+1)).data.toList++cu (gP s (i+1)) (s.data.toList.drop (i+1))=L:=by
 have hb:(s[i]==13)=false:=by simpa using hc
 rw [←heq,aj s i h,cu,if_neg hc,gG s i h,hb]
 by_cases h10:s[i]=10
 ·rw [if_neg (fun x=>by rw [hp h10] at x;simp at x)]
  rw [ByteArray.data_append,Array.toList_append,cr s i h,List.append_assoc];rfl
 ·rw [if_neg (fun x=>h10 x.1)]
  rw [ByteArray.data_append,Array.toList_append,cr s i h,List.append_assoc];rfl
theorem yL (s:ByteArray) (w:World) (hs:s.size≤1099511627776):Calls Tryz.prog 39 #[.string s] w fun e w'=>e= .returned (.string ⟨(ay s.data.toList).toArray⟩)∧Below w.heap.size w w':=by
 go_enter Tryz.func39,Tryz.ntmps39
 go_wp2
 go_loopw [3,4] (fun o v wr=>∃(i:Nat) (O:ByteArray),o= .string O∧v= .int .i64 (i:Int)∧Below w.heap.size w wr∧i≤s.size∧O.data.toList++cu (gP s i) (s.data.toList.drop i)=ay s.data.toList∧O.size≤i) (fun _ v _=>s.size-(ae v).toNat)
 case atStart=>exact ⟨0,⟨#[]⟩,rfl,rfl,Below.refl _ w,Nat.zero_le _,by rw [show gP s 0=false from rfl,qx];rfl,Nat.zero_le _⟩
 case round=>
  obtain ⟨i,O,rfl,rfl,hbw,hle,heq,hO⟩:=hrel
  have HE:=Lib.hid heq
  clear heq
  by_cases hlt:i<s.size
  ·by_cases h13:((s[i].toNat:Nat):Int)=13
   ·go_wp2
    go_roundw
    case rel=>exact ⟨i+1,_,rfl,rfl,hbw,by omega,Hi s i hlt O _ (aT _ 13 (by decide) h13) HE.out,by rw [ByteArray.size_append];have:(ByteArray.mk #[10]).size=1:=rfl;omega⟩
    case measure=>simp [ae];omega
   ·have h13':(((s[i].toNat:Nat):Int) != 13)=true:=by simpa using h13
    by_cases h10:((s[i].toNat:Nat):Int)=10
    ·match i,hlt,h13,h13',h10,hle,HE,hO with
     |0,hlt,h13,h13',h10,hle,HE,hO=>
      go_wp2
      go_roundw
      case rel=>exact ⟨1,_,rfl,rfl,hbw,by omega,pz s 0 hlt O _ (eR _ 13 (by decide) h13) (fun _=>rfl) HE.out,by simp;omega⟩
      case measure=>simp [ae];omega
     |j+1,hlt,h13,h13',h10,hle,HE,hO=>
      have hj:j<s.size:=by omega
      have hi1:(((j+1:Nat):Int)==0)=false:=by simp;omega
      by_cases hp:((s[j].toNat:Nat):Int)=13
      ·go_wp2
       go_roundw
       case rel=>exact ⟨j+1+1,_,rfl,rfl,hbw,by omega,Bw s (j+1) hlt O _ (aT _ 10 (by decide) h10) (by rw [gG s j hj,aT _ 13 (by decide) hp];rfl) HE.out,by omega⟩
       case measure=>simp [ae];omega
      ·have hp':(((s[j].toNat:Nat):Int) != 13)=true:=by simpa using hp
       go_wp2
       go_roundw
       case rel=>exact ⟨j+1+1,_,rfl,rfl,hbw,by omega,pz s (j+1) hlt O _ (eR _ 13 (by decide) h13) (fun _=>by rw [gG s j hj];simpa using eR _ 13 (by decide) hp) HE.out,by simp;omega⟩
       case measure=>simp [ae];omega
    ·have h10':(((s[i].toNat:Nat):Int) != 10)=true:=by simpa using h10
     go_wp2
     go_roundw
     case rel=>exact ⟨i+1,_,rfl,rfl,hbw,by omega,pz s i hlt O _ (eR _ 13 (by decide) h13) (fun x=>absurd x (eR _ 10 (by decide) h10)) HE.out,by simp;omega⟩
     case measure=>simp [ae];omega
  ·go_wp2
   go_ret
   refine ⟨aO ?_,hbw⟩
   have:=HE.out
   rw [List.drop_eq_nil_of_le (by rw [←Lib.size_eq];omega)] at this
   rw [←this];simp [cu]
theorem bc (s:ByteArray) (w:World) (hs:s.size≤1099511627776):Calls Tryz.prog 132 #[.string s] w fun e w'=>e= .returned (.string ⟨(ap s.data.toList).toArray⟩)∧Below w.heap.size w w':=by
 go_enter Tryz.func132,Tryz.ntmps132
 go_wp2
 go_loopw [3,4] (fun o v wr=>∃(i:Nat) (O:ByteArray),o= .string O∧v= .int .i64 (i:Int)∧Below w.heap.size w wr∧i≤s.size∧O.data.toList++ap (s.data.toList.drop i)=ap s.data.toList∧O.size≤3*i) (fun _ v _=>s.size-(ae v).toNat)
 case atStart=>exact ⟨0,⟨#[]⟩,rfl,rfl,Below.refl _ w,Nat.zero_le _,rfl,Nat.zero_le _⟩
 case round=>
  obtain ⟨i,O,rfl,rfl,hbw,hle,heq,hO⟩:=hrel
  have HE:=Lib.hid heq
  clear heq
  by_cases hlt:i<s.size
  ·by_cases h0:((s[i].toNat:Nat):Int)=0
   ·go_wp2
    go_roundw
    case rel=>exact ⟨i+1,_,rfl,rfl,hbw,by omega,by rw [ByteArray.data_append,Array.toList_append];exact r7 s i hlt _ (aT _ 0 (by decide) h0) HE.out,by rw [ByteArray.size_append];have:(ByteArray.mk #[239,191,189]).size=3:=rfl;omega⟩
    case measure=>simp [ae];omega
   ·have h0':(((s[i].toNat:Nat):Int)==0)=false:=by simpa using h0
    go_wp2
    go_roundw
    case rel=>exact ⟨i+1,_,rfl,rfl,hbw,by omega,by rw [ByteArray.data_append,Array.toList_append,cr s i hlt];exact ve s i hlt _ (eR _ 0 (by decide) h0) HE.out,by simp;omega⟩
    case measure=>simp [ae];omega
  ·go_wp2
   go_ret
   refine ⟨aO ?_,hbw⟩
   have:=HE.out
   rw [List.drop_eq_nil_of_le (by rw [←Lib.size_eq];omega)] at this
   rw [←this];simp [ap]
end Go.Proofs.YtajpoodpbbbkfaaGreatDoor
namespace Go.Proofs.YtajpoodpbbbkfaaGreatDoor
open Go.RowKit Go.Lib
theorem KY (s:ByteArray) (i:Nat) (h:i<s.size) (acc:List UInt8) (heq:acc++aF (s.data.toList.drop i)=aF s.data.toList):(acc++[ct s[i]])++aF (s.data.toList.drop (i+1))=aF s.data.toList:=by
 rw [←heq,aj s i h,aM,List.append_assoc];rfl
theorem ub (acc:List UInt8) (c:UInt8):byteCells (acc++[c])=byteCells acc++[.int .u8 (c.toNat:Int)]:=by rw [byteCells_append];rfl
theorem Nh (s:ByteArray) (w:World) (hs:s.size≤1099511627776):Calls Tryz.prog 100 #[.string s] w fun e w'=>e= .returned (.string (qV s))∧Below w.heap.size w w':=by
 go_enter Tryz.func100,Tryz.ntmps100
 go_wp2_with (fail)
 refine (Tryz.Builder_Grow_fresh w.heap.size w.heap.size s.size _ (Nat.le_refl _) (heap_alloc_new w _) (by simp) (by omega)).mono ?_
 rintro e w2 ⟨rfl,hB0,hbel0⟩
 have hI0:Lib.IsBuilderF 54 5 w.heap.size w.heap.size [] w2:=Lib.IsBuilderF.of (.inr hB0)
 have hb0:Below w.heap.size w w2:=((Below.refl _ w).alloc (Nat.le_refl _) _).trans hbel0
 clear hB0 hbel0
 go_wp2
 go_loopw [10] (fun v wr=>∃(i:Nat) (acc:List UInt8),v= .int .i64 (i:Int)∧Lib.IsBuilderF 54 5 w.heap.size w.heap.size (Lib.byteCells acc) wr∧Below w.heap.size w wr∧i≤s.size∧acc++aF (s.data.toList.drop i)=aF s.data.toList∧acc.length≤i) (fun v _=>s.size-(ae v).toNat)
 case atStart=>exact ⟨0,[],rfl,hI0,hb0,Nat.zero_le _,rfl,Nat.zero_le _⟩
 case round=>
  obtain ⟨i,acc,rfl,hI,hbw,hle,heq,hacc⟩:=hrel
  have hsz:=hbw.size
  have HE:=Lib.hid heq
  clear heq
  by_cases hlt:i<s.size
  ·have hq:=(s[i]'hlt).toNat_lt
   have LB:=Lib.hid (cU (s[i]'hlt))
   go_wp2_with (fail)
   refine (GT _ _ (by omega) (by omega)).mono ?_
   rintro e w' ⟨rfl,rfl⟩
   rw [←LB.out]
   go_wp2_with (fail)
   refine (jy w.heap.size w.heap.size _ _ _ hI (by rw [byteCells_length];omega) hsz).mono ?_
   rintro e w1 ⟨rfl,h1,b1,-⟩
   go_wp2
   go_roundw
   case rel=>exact ⟨i+1,acc++[ct s[i]],rfl,by rw [ub];exact .inr h1,hbw.trans b1,by omega,KY s i hlt acc HE.out,by simp;omega⟩
   case measure=>simp [ae];omega
  ·go_wp2_with (go_at_call 35;refine (Tryz.Builder_String_any_k w.heap.size w.heap.size acc _ hI (by omega)).mono ?_)
   rintro e W1 ⟨rfl,_,b1,_⟩
   go_wp2
   go_ret
   refine ⟨aO ?_,hbw.trans b1⟩
   have:=HE.out
   rw [List.drop_eq_nil_of_le (by rw [←Lib.size_eq];omega),aF,List.map_nil,List.append_nil] at this
   rw [this];rfl
end Go.Proofs.YtajpoodpbbbkfaaGreatDoor

/-
  What the document's Encode answers. (Written by wip/tools/gen_refesc.py.)
-/
import Derived.Test.YtajpoodpbbbkfaaGreatDoorUB
import Derived.Test.YtajpoodpbbbkfaaGreatDoorEscSign
set_option maxHeartbeats 8000000
set_option maxRecDepth 100000
namespace Go.Proofs.YtajpoodpbbbkfaaGreatDoor
open Go.RowKit Go.Lib
theorem Bl (s:ByteArray) (i:Nat):(s.extract i s.size).data.toList=s.data.toList.drop i:=by
 rw [extract_data]
 exact List.take_of_length_le (by rw [List.length_drop,←Lib.size_eq];exact Nat.le_refl _)
theorem cc (c d:UInt8) (h:c≠d):(((c.toNat:Nat):Int)==(d.toNat:Int))=false:=by
 rw [beq_eq_false_iff_ne]
 intro e
 exact h (UInt8.toNat_inj.1 (by omega))
theorem Bm {l m:dp} (h:l=m):Ending.returned (.string ⟨l.toArray⟩)= .returned (.string ⟨m.toArray⟩):=by rw [h]
theorem Dc (d:Int) (s:ByteArray) (w:World) (hs:s.size≤16777216):Calls Tryz.prog 17 #[.int .i64 d,.string s] w fun e w'=>e= .returned (.string ⟨(fC d s.data.toList).toArray⟩)∧Below w.heap.size w w':=by
 by_cases hd:d<0∨2<d
 ·have hE:Hid (fC d s.data.toList=[]):=Lib.hid (by unfold fC;rw [if_pos hd])
  obtain ⟨T,hT⟩:∃T,fC d s.data.toList=T:=⟨_,rfl⟩
  rw [hT] at hE⊢
  clear hT
  rcases hd with h|h
  ·go_enter Tryz.func17,Tryz.ntmps17
   go_wp2
   go_ret
   exact ⟨Bm hE.out.symm,Below.refl _ _⟩
  ·have h0:¬d<0:=by omega
   go_enter Tryz.func17,Tryz.ntmps17
   go_wp2
   go_ret
   exact ⟨Bm hE.out.symm,Below.refl _ _⟩
 ·have h0:0≤d:=by omega
  have h2:d≤2:=by omega
  have hin:=o4 d s.data.toList ⟨h0,h2⟩
  obtain ⟨T,hT⟩:∃T,fC d s.data.toList=T:=⟨_,rfl⟩
  rw [hT] at hin⊢
  clear hT hd
  have HB:=fun (t p:ByteArray) (w:World)=>Lib.hid (CO t p w)
  by_cases hp:d=2∧s.data.toList.head?=some 10
  focus
   obtain ⟨rfl,hh⟩:=hp
   have hB1:Lib.hasPrefix s.data.toList (ByteArray.mk #[10]).data.toList=true:=by
    cases hl:s.data.toList with
    |nil=>rw [hl] at hh;cases hh
    |cons c t=>rw [hl] at hh;simp only [List.head?_cons,Option.some.injEq] at hh;rw [hh];rfl
   have H1:=HB s ⟨#[10]⟩ w
   rw [hB1] at H1
   rw [if_pos ⟨rfl,hh⟩] at hin
   have HIN:=Lib.hid hin
   clear hh hB1 hin
   go_enter Tryz.func17,Tryz.ntmps17
   go_wp2_with (fail)
   refine H1.out.mono ?_
   rintro e w1 ⟨rfl,rfl⟩
   go_wp2
   go_loopw [5,6] (fun v5 v6 wr=>∃(i:Nat) (O:ByteArray),v6= .int .i64 (i:Int)∧v5= .string O∧i≤s.size∧w=wr∧O.size≤6*i+1∧Hid (T=O.data.toList++ba (s.data.toList.drop i))) (fun _ v _=>s.size-(ae v).toNat)
   case atStart=>exact ⟨0,⟨#[10]⟩,rfl,rfl,Nat.zero_le _,rfl,by show 1≤1;omega,Lib.hid (by rw [HIN.out];rfl)⟩
  rotate_left
  focus
   have hin2:T=[]++ba s.data.toList:=by rw [hin,if_neg hp]
   have HIN:=Lib.hid hin2
   clear hin hin2
   by_cases hd2:d=2
  focus
   subst hd2
   have hB1:Lib.hasPrefix s.data.toList (ByteArray.mk #[10]).data.toList=false:=by
    rw [Bool.eq_false_iff];intro e
    obtain ⟨u,hu⟩:=List.isPrefixOf_iff_prefix.1 e
    exact hp ⟨rfl,by rw [←hu];rfl⟩
   have H1:=HB s ⟨#[10]⟩ w
   rw [hB1] at H1
   clear hp hB1
   go_enter Tryz.func17,Tryz.ntmps17
   go_wp2_with (fail)
   refine H1.out.mono ?_
   rintro e w1 ⟨rfl,rfl⟩
   go_wp2
   go_loopw [5,6] (fun v5 v6 wr=>∃(i:Nat) (O:ByteArray),v6= .int .i64 (i:Int)∧v5= .string O∧i≤s.size∧w=wr∧O.size≤6*i+1∧Hid (T=O.data.toList++ba (s.data.toList.drop i))) (fun _ v _=>s.size-(ae v).toNat)
   case atStart=>exact ⟨0,⟨#[]⟩,rfl,rfl,Nat.zero_le _,rfl,by show 0≤1;omega,Lib.hid (by rw [HIN.out];rfl)⟩
  rotate_left
  focus
   have hne:(d==2)=false:=beq_eq_false_iff_ne.2 hd2
   clear hp
   go_enter Tryz.func17,Tryz.ntmps17
   go_wp2
   go_loopw [5,6] (fun v5 v6 wr=>∃(i:Nat) (O:ByteArray),v6= .int .i64 (i:Int)∧v5= .string O∧i≤s.size∧w=wr∧O.size≤6*i+1∧Hid (T=O.data.toList++ba (s.data.toList.drop i))) (fun _ v _=>s.size-(ae v).toNat)
   case atStart=>exact ⟨0,⟨#[]⟩,rfl,rfl,Nat.zero_le _,rfl,by show 0≤1;omega,Lib.hid (by rw [HIN.out];rfl)⟩
  rotate_left
  all_goals
   case round=>
    obtain ⟨i,O,rfl,rfl,hi,rfl,hO,HT⟩:=hrel
    by_cases hlt:i<s.size
    ·have hdr:=aj s i hlt
     have H2:=HB (s.extract i s.size) ⟨#[239,187,191]⟩ w
     rw [Bl,hdr] at H2
     have HD:=Lib.hid hdr
     have z0:(i:Int)≤(s.size:Int):=by omega
     clear hdr
     by_cases c38:s[i]=38
     ·have b38:(((s[i].toNat:Nat):Int)==38)=true:=by rw [c38];rfl
      have hm:Lib.hasPrefix (s[i]::s.data.toList.drop (i+1)) (ByteArray.mk #[239,187,191]).data.toList=false:=gB _ _ (by rw [c38];decide)
      have HT2:Hid (T=(O++⟨#[38,97,109,112,59]⟩:ByteArray).data.toList++ba (s.data.toList.drop (i+1))):=Lib.hid (by rw [HT.out,HD.out,c38,dF 38 _ (by decide)];simp [ByteArray.data_append,dq])
      have g1:¬9223372036854775807<O.size+5:=by omega
      rw [hm] at H2
      clear hm c38
      go_wp2_with (fail)
      refine H2.out.mono ?_
      rintro e w2 ⟨rfl,rfl⟩
      go_wp2
      go_roundw
      case rel=>exact ⟨i+1,_,by simp,rfl,by omega,trivial,by rw [ByteArray.size_append,show (ByteArray.mk #[38,97,109,112,59]).size=5 from rfl];omega,HT2⟩
      case measure=>simp [ae];omega
     by_cases c60:s[i]=60
     ·have b38:(((s[i].toNat:Nat):Int)==38)=false:=cc _ 38 c38
      have b60:(((s[i].toNat:Nat):Int)==60)=true:=by rw [c60];rfl
      have hm:Lib.hasPrefix (s[i]::s.data.toList.drop (i+1)) (ByteArray.mk #[239,187,191]).data.toList=false:=gB _ _ (by rw [c60];decide)
      have HT2:Hid (T=(O++⟨#[38,108,116,59]⟩:ByteArray).data.toList++ba (s.data.toList.drop (i+1))):=Lib.hid (by rw [HT.out,HD.out,c60,dF 60 _ (by decide)];simp [ByteArray.data_append,dq])
      have g1:¬9223372036854775807<O.size+4:=by omega
      rw [hm] at H2
      clear hm c38 c60
      go_wp2_with (fail)
      refine H2.out.mono ?_
      rintro e w2 ⟨rfl,rfl⟩
      go_wp2
      go_roundw
      case rel=>exact ⟨i+1,_,by simp,rfl,by omega,trivial,by rw [ByteArray.size_append,show (ByteArray.mk #[38,108,116,59]).size=4 from rfl];omega,HT2⟩
      case measure=>simp [ae];omega
     by_cases c62:s[i]=62
     ·have b38:(((s[i].toNat:Nat):Int)==38)=false:=cc _ 38 c38
      have b60:(((s[i].toNat:Nat):Int)==60)=false:=cc _ 60 c60
      have b62:(((s[i].toNat:Nat):Int)==62)=true:=by rw [c62];rfl
      have hm:Lib.hasPrefix (s[i]::s.data.toList.drop (i+1)) (ByteArray.mk #[239,187,191]).data.toList=false:=gB _ _ (by rw [c62];decide)
      have HT2:Hid (T=(O++⟨#[38,103,116,59]⟩:ByteArray).data.toList++ba (s.data.toList.drop (i+1))):=Lib.hid (by rw [HT.out,HD.out,c62,dF 62 _ (by decide)];simp [ByteArray.data_append,dq])
      have g1:¬9223372036854775807<O.size+4:=by omega
      rw [hm] at H2
      clear hm c38 c60 c62
      go_wp2_with (fail)
      refine H2.out.mono ?_
      rintro e w2 ⟨rfl,rfl⟩
      go_wp2
      go_roundw
      case rel=>exact ⟨i+1,_,by simp,rfl,by omega,trivial,by rw [ByteArray.size_append,show (ByteArray.mk #[38,103,116,59]).size=4 from rfl];omega,HT2⟩
      case measure=>simp [ae];omega
     by_cases c34:s[i]=34
     ·have b38:(((s[i].toNat:Nat):Int)==38)=false:=cc _ 38 c38
      have b60:(((s[i].toNat:Nat):Int)==60)=false:=cc _ 60 c60
      have b62:(((s[i].toNat:Nat):Int)==62)=false:=cc _ 62 c62
      have b34:(((s[i].toNat:Nat):Int)==34)=true:=by rw [c34];rfl
      have hm:Lib.hasPrefix (s[i]::s.data.toList.drop (i+1)) (ByteArray.mk #[239,187,191]).data.toList=false:=gB _ _ (by rw [c34];decide)
      have HT2:Hid (T=(O++⟨#[38,113,117,111,116,59]⟩:ByteArray).data.toList++ba (s.data.toList.drop (i+1))):=Lib.hid (by rw [HT.out,HD.out,c34,dF 34 _ (by decide)];simp [ByteArray.data_append,dq])
      have g1:¬9223372036854775807<O.size+6:=by omega
      rw [hm] at H2
      clear hm c38 c60 c62 c34
      go_wp2_with (fail)
      refine H2.out.mono ?_
      rintro e w2 ⟨rfl,rfl⟩
      go_wp2
      go_roundw
      case rel=>exact ⟨i+1,_,by simp,rfl,by omega,trivial,by rw [ByteArray.size_append,show (ByteArray.mk #[38,113,117,111,116,59]).size=6 from rfl];omega,HT2⟩
      case measure=>simp [ae];omega
     by_cases c39:s[i]=39
     ·have b38:(((s[i].toNat:Nat):Int)==38)=false:=cc _ 38 c38
      have b60:(((s[i].toNat:Nat):Int)==60)=false:=cc _ 60 c60
      have b62:(((s[i].toNat:Nat):Int)==62)=false:=cc _ 62 c62
      have b34:(((s[i].toNat:Nat):Int)==34)=false:=cc _ 34 c34
      have b39:(((s[i].toNat:Nat):Int)==39)=true:=by rw [c39];rfl
      have hm:Lib.hasPrefix (s[i]::s.data.toList.drop (i+1)) (ByteArray.mk #[239,187,191]).data.toList=false:=gB _ _ (by rw [c39];decide)
      have HT2:Hid (T=(O++⟨#[38,35,51,57,59]⟩:ByteArray).data.toList++ba (s.data.toList.drop (i+1))):=Lib.hid (by rw [HT.out,HD.out,c39,dF 39 _ (by decide)];simp [ByteArray.data_append,dq])
      have g1:¬9223372036854775807<O.size+5:=by omega
      rw [hm] at H2
      clear hm c38 c60 c62 c34 c39
      go_wp2_with (fail)
      refine H2.out.mono ?_
      rintro e w2 ⟨rfl,rfl⟩
      go_wp2
      go_roundw
      case rel=>exact ⟨i+1,_,by simp,rfl,by omega,trivial,by rw [ByteArray.size_append,show (ByteArray.mk #[38,35,51,57,59]).size=5 from rfl];omega,HT2⟩
      case measure=>simp [ae];omega
     by_cases c13:s[i]=13
     ·have b38:(((s[i].toNat:Nat):Int)==38)=false:=cc _ 38 c38
      have b60:(((s[i].toNat:Nat):Int)==60)=false:=cc _ 60 c60
      have b62:(((s[i].toNat:Nat):Int)==62)=false:=cc _ 62 c62
      have b34:(((s[i].toNat:Nat):Int)==34)=false:=cc _ 34 c34
      have b39:(((s[i].toNat:Nat):Int)==39)=false:=cc _ 39 c39
      have b13:(((s[i].toNat:Nat):Int)==13)=true:=by rw [c13];rfl
      have hm:Lib.hasPrefix (s[i]::s.data.toList.drop (i+1)) (ByteArray.mk #[239,187,191]).data.toList=false:=gB _ _ (by rw [c13];decide)
      have HT2:Hid (T=(O++⟨#[38,35,49,51,59]⟩:ByteArray).data.toList++ba (s.data.toList.drop (i+1))):=Lib.hid (by rw [HT.out,HD.out,c13,dF 13 _ (by decide)];simp [ByteArray.data_append,dq])
      have g1:¬9223372036854775807<O.size+5:=by omega
      rw [hm] at H2
      clear hm c38 c60 c62 c34 c39 c13
      go_wp2_with (fail)
      refine H2.out.mono ?_
      rintro e w2 ⟨rfl,rfl⟩
      go_wp2
      go_roundw
      case rel=>exact ⟨i+1,_,by simp,rfl,by omega,trivial,by rw [ByteArray.size_append,show (ByteArray.mk #[38,35,49,51,59]).size=5 from rfl];omega,HT2⟩
      case measure=>simp [ae];omega
     by_cases c0:s[i]=0
     ·have b38:(((s[i].toNat:Nat):Int)==38)=false:=cc _ 38 c38
      have b60:(((s[i].toNat:Nat):Int)==60)=false:=cc _ 60 c60
      have b62:(((s[i].toNat:Nat):Int)==62)=false:=cc _ 62 c62
      have b34:(((s[i].toNat:Nat):Int)==34)=false:=cc _ 34 c34
      have b39:(((s[i].toNat:Nat):Int)==39)=false:=cc _ 39 c39
      have b13:(((s[i].toNat:Nat):Int)==13)=false:=cc _ 13 c13
      have b0:(((s[i].toNat:Nat):Int)==0)=true:=by rw [c0];rfl
      have hm:Lib.hasPrefix (s[i]::s.data.toList.drop (i+1)) (ByteArray.mk #[239,187,191]).data.toList=false:=gB _ _ (by rw [c0];decide)
      have HT2:Hid (T=(O++⟨#[239,191,189]⟩:ByteArray).data.toList++ba (s.data.toList.drop (i+1))):=Lib.hid (by rw [HT.out,HD.out,c0,dF 0 _ (by decide)];simp [ByteArray.data_append,dq])
      have g1:¬9223372036854775807<O.size+3:=by omega
      rw [hm] at H2
      clear hm c38 c60 c62 c34 c39 c13 c0
      go_wp2_with (fail)
      refine H2.out.mono ?_
      rintro e w2 ⟨rfl,rfl⟩
      go_wp2
      go_roundw
      case rel=>exact ⟨i+1,_,by simp,rfl,by omega,trivial,by rw [ByteArray.size_append,show (ByteArray.mk #[239,191,189]).size=3 from rfl];omega,HT2⟩
      case measure=>simp [ae];omega
     have b38:(((s[i].toNat:Nat):Int)==38)=false:=cc _ 38 c38
     have b60:(((s[i].toNat:Nat):Int)==60)=false:=cc _ 60 c60
     have b62:(((s[i].toNat:Nat):Int)==62)=false:=cc _ 62 c62
     have b34:(((s[i].toNat:Nat):Int)==34)=false:=cc _ 34 c34
     have b39:(((s[i].toNat:Nat):Int)==39)=false:=cc _ 39 c39
     have b13:(((s[i].toNat:Nat):Int)==13)=false:=cc _ 13 c13
     have b0:(((s[i].toNat:Nat):Int)==0)=false:=cc _ 0 c0
     cases hm:bw.isPrefixOf (s[i]::s.data.toList.drop (i+1))
     ·have hm2:Lib.hasPrefix (s[i]::s.data.toList.drop (i+1)) (ByteArray.mk #[239,187,191]).data.toList=false:=hm
      have HT2:Hid (T=(O++s.extract i (i+1):ByteArray).data.toList++ba (s.data.toList.drop (i+1))):=Lib.hid (by
       rw [HT.out,HD.out,mH _ _ hm,mI _ (by unfold nK;simp [c60,c62,c34,c39,c0,c13]) c38,ByteArray.data_append,Array.toList_append,cr s i hlt,List.append_assoc])
      have z1:(s.extract i (i+1)).size=1:=by rw [ByteArray.size_extract];omega
      have HZ1:=Lib.hid z1
      have g1:¬9223372036854775807<O.size+(s.extract i (i+1)).size:=by rw [z1];omega
      have i1:(i:Int)+1≤(s.size:Int):=by omega
      rw [hm2] at H2
      clear hm hm2 z1 c38 c60 c62 c34 c39 c13 c0
      go_wp2_with (fail)
      refine H2.out.mono ?_
      rintro e w2 ⟨rfl,rfl⟩
      go_wp2
      go_roundw
      case rel=>exact ⟨i+1,_,by simp,rfl,by omega,trivial,by rw [ByteArray.size_append,HZ1.out];omega,HT2⟩
      case measure=>simp [ae];omega
     ·have hm2:Lib.hasPrefix (s[i]::s.data.toList.drop (i+1)) (ByteArray.mk #[239,187,191]).data.toList=true:=hm
      obtain ⟨u,hu⟩:=List.isPrefixOf_iff_prefix.1 hm
      have hu2:s.data.toList.drop i=bw++u:=by rw [HD.out];exact hu.symm
      have hu3:s.data.toList.drop (i+3)=u:=by rw [←List.drop_drop,hu2];rfl
      have hlen:i+3≤s.size:=by
       have:=congrArg List.length hu2
       rw [List.length_drop,List.length_append,←Lib.size_eq] at this
       simp [bw] at this
       omega
      have HT2:Hid (T=(O++⟨#[38,35,54,53,50,55,57,59]⟩:ByteArray).data.toList++ba (s.data.toList.drop (i+3))):=Lib.hid (by
       rw [HT.out,hu2,iE,hu3];simp [ByteArray.data_append,qg])
      have g1:¬9223372036854775807<O.size+8:=by omega
      rw [hm2] at H2
      clear hm hm2 hu hu2 hu3 c38 c60 c62 c34 c39 c13 c0
      go_wp2_with (fail)
      refine H2.out.mono ?_
      rintro e w2 ⟨rfl,rfl⟩
      go_wp2
      go_roundw
      case rel=>exact ⟨i+3,_,by go_num,rfl,by omega,trivial,by rw [ByteArray.size_append,show (ByteArray.mk #[38,35,54,53,50,55,57,59]).size=8 from rfl];omega,HT2⟩
      case measure=>simp [ae];omega
    ·have HE:Hid (T=O.data.toList):=Lib.hid (by rw [HT.out,List.drop_eq_nil_of_le (by rw [←Lib.size_eq];omega),Ar,List.append_nil])
     go_wp2
     go_ret
     exact ⟨aO (by rw [HE.out]),Below.refl _ _⟩
end Go.Proofs.YtajpoodpbbbkfaaGreatDoor

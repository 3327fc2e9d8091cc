/-
  What the document's Extract answers.
-/
import Derived.Test.YtajpoodpbbbkfaaGreatDoorSG
import Derived.Test.YtajpoodpbbbkfaaGreatDoorUC
import Derived.Test.YtajpoodpbbbkfaaGreatDoorP4
import Derived.Test.YtajpoodpbbbkfaaGreatDoorDB
import Derived.Test.YtajpoodpbbbkfaaGreatDoorRA
set_option maxHeartbeats 2000000
set_option maxRecDepth 100000
namespace Go.Proofs.YtajpoodpbbbkfaaGreatDoor
open Go.RowKit Go.Lib
theorem Di (v:Value) (l:ab) (w:World) (h:ar w v l) (hx:nc l):Calls Tryz.prog 18 #[v] w fun e w'=>e= .returned (.string ⟨(cT l).toArray⟩)∧Below w.heap.size w w':=by
 obtain ⟨z1,z2⟩:=Aq l
 have z3:=hx.few
 have z4:=hx.text
 have hl:=hx.size
 obtain ⟨a0,len0,cap0,rfl⟩:∃a n c,v= .slice a n c:=by
  rcases h with ⟨rfl,-⟩|⟨g,c,rfl,-⟩
  ·exact ⟨_,_,_,rfl⟩
  ·exact ⟨_,_,_,rfl⟩
 have H1:=Lib.hid (Dh a0 len0 cap0 l w h (by have:=h.cap;omega))
 obtain ⟨D,hD⟩:∃D:ByteArray,(⟨(gi l).toArray⟩:ByteArray)=D:=⟨_,rfl⟩
 have dD:D.data.toList=gi l:=by rw [←hD,List.toList_toArray]
 have sD:D.size≤300000:=by rw [Lib.size_eq,dD];omega
 have H2:=fun w=>Lib.hid (yL D w (by omega))
 rw [dD] at H2
 rw [hD] at H1
 obtain ⟨S,hS⟩:∃S:ByteArray,(⟨(ay (gi l)).toArray⟩:ByteArray)=S:=⟨_,rfl⟩
 have dS:S.data.toList=ay (gi l):=by rw [←hS,List.toList_toArray]
 have sS:S.size≤300000:=by rw [Lib.size_eq,dS];omega
 rw [hS] at H2
 have H3:=fun w=>Lib.hid (tJ S w (by omega))
 rw [dS] at H3
 obtain ⟨L,hL⟩:∃L,kZ (ay (gi l))=L:=⟨_,rfl⟩
 rw [hL] at H3 z3 z4
 obtain ⟨T,hT⟩:∃T,cT l=T:=⟨_,rfl⟩
 have hT2:p7 L=T:=by rw [←hL,←hT];rfl
 rw [hT]
 have H4:=fun a cap w (h:fS w a L.length cap L)=>Lib.hid (rd a L.length cap L w h (by omega) (fun t ht=>by have:=z4 t ht;omega))
 rw [hT2] at H4
 clear hD dD sD hS dS sS hL hT hT2 z1 z2 z3 z4 h hl hx
 go_enter Tryz.func18,Tryz.ntmps18
 go_wp2_with (fail)
 refine H1.out.mono ?_
 rintro e w1 ⟨rfl,c1⟩
 have B1:=Lib.hid c1
 clear c1
 go_wp2_with (fail)
 refine (H2 _).out.mono ?_
 rintro e w2 ⟨rfl,c2⟩
 have B2:=Lib.hid (B1.out.trans (c2.mono B1.out.size))
 clear c2
 go_wp2_with (fail)
 refine (H3 _).out.mono ?_
 rintro e w3 ⟨v3,Q,rfl,ho,hq,c3⟩
 have B3:=Lib.hid (B2.out.trans (c3.mono B2.out.size))
 clear c3
 obtain ⟨a3,cap3,rfl,h3⟩:=ho.told
 have hn:Q.length=L.length:=by rw [←hq,List.length_map]
 rw [hq] at h3
 rw [hn] at h3⊢
 have HB3:=Lib.hid h3.bare
 clear ho hq hn h3
 go_wp2_with (fail)
 refine (H4 _ _ _ HB3.out).out.mono ?_
 rintro e w4 ⟨rfl,c4⟩
 go_wp2
 go_ret
 exact ⟨rfl,B3.out.trans (c4.mono B3.out.size)⟩
end Go.Proofs.YtajpoodpbbbkfaaGreatDoor

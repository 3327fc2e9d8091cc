/-
  What package sanitize's functions answer, and the document's.
-/
import Derived.Test.YtajpoodpbbbkfaaGreatDoorSanMath
import Derived.Test.YtajpoodpbbbkfaaGreatDoorXA
import Derived.Test.YtajpoodpbbbkfaaGreatDoorEscAwake
import Derived.Test.YtajpoodpbbbkfaaGreatDoorRefEsc
import Derived.Test.YtajpoodpbbbkfaaGreatDoorRefExt
import Derived.Test.YtajpoodpbbbkfaaGreatDoorUB
import Derived.KernelRfl
set_option maxHeartbeats 2000000
set_option maxRecDepth 1000000
namespace Go.Proofs.YtajpoodpbbbkfaaGreatDoor
open Go.RowKit Go.Lib
theorem PL:bB 0 [60,98,62,97,60,47,98,62,32,38,108,116,59,105,62]=[97,32,38,108,116,59,105,38,103,116,59]∧(⟨(bB 1 []).toArray⟩:ByteArray)=⟨#[]⟩:=by refine ⟨?_,?_⟩<;>kernel_rfl
theorem tZ (d:Int) (v:Value) (l:ab) (w:World) (_: -9223372036854775808≤d∧d≤9223372036854775807) (h:ar w v l) (hx:nc l) (ht:(cT l).length≤1000) (_:bn w):Calls Tryz.prog 9 #[.int .i64 d,v] w fun e w'=>e= .returned (.string ⟨(bB d l).toArray⟩)∧Below w.heap.size w w':=by
 have H1:=Lib.hid (Di v l w h hx)
 obtain ⟨X,hX,lX,sX⟩:=dP (cT l)
 have H2:=fun w=>Lib.hid (Dc d X w (by omega))
 rw [lX] at H2
 rw [hX] at H1
 clear h hx ht hX lX sX
 go_enter Tryz.func9,Tryz.ntmps9
 go_wp2_with (fail)
 refine H1.out.mono ?_
 rintro e w1 ⟨rfl,c1⟩
 have B1:=Lib.hid c1
 clear c1
 go_wp2_with (fail)
 refine (H2 _).out.mono ?_
 rintro e w2 ⟨rfl,c2⟩
 have B2:=Lib.hid (B1.out.trans (c2.mono B1.out.size))
 clear c2
 go_wp2
 go_ret
 exact ⟨rfl,B2.out⟩
theorem ar.over {w w':World} {v:Value} {l:ab} (h:ar w v l) (b:Below w.heap.size w w'):ar w' v l:=by
 obtain ⟨a0,len0,cap0,rfl⟩:∃a n c,v= .slice a n c:=by
  rcases h with ⟨rfl,-⟩|⟨g,c,rfl,-⟩
  ·exact ⟨_,_,_,rfl⟩
  ·exact ⟨_,_,_,rfl⟩
 exact h.kept b
theorem yl (d:Int) (s:ByteArray) (p:Nat) (w:World) (hd: -9223372036854775808≤d∧d≤9223372036854775807) (hs:s.size≤1048576) (hp:w.cell? ⟨p,0,none⟩=some (.int .i64 d)):Calls Tryz.prog 20 #[.string s,.pointer (some ⟨p,0,none⟩)] w fun e w'=>e= .returned (.string ⟨(fC d s.data.toList).toArray⟩)∧Below w.heap.size w w':=by
 have H:=fun w=>Lib.hid (Db d s w hd hs)
 go_enter Tryz.func20,Tryz.ntmps20
 go_wp2_with (fail)
 refine (H _).out.mono ?_
 rintro e w1 ⟨rfl,c1⟩
 go_wp2
 go_ret
 exact ⟨rfl,c1⟩
theorem Bn (d:Int) (v:Value) (l:ab) (p:Nat) (w:World) (hd: -9223372036854775808≤d∧d≤9223372036854775807) (h:ar w v l) (hx:nc l) (ht:(cT l).length≤1000) (hT:bn w) (hp:w.cell? ⟨p,0,none⟩=some (.int .i64 d)) (hlt:p<w.heap.size):Calls Tryz.prog 19 #[v,.func (.func 20) #[] #[.pointer (some ⟨p,0,none⟩)]] w fun e w'=>e= .returned (.string ⟨(bB d l).toArray⟩)∧Below w.heap.size w w':=by
 have H1:=Lib.hid (rI v l w h hx hT)
 obtain ⟨X,hX,lX,sX⟩:=dP (cT l)
 have H2:=fun u (b:Below w.heap.size w u)=>Lib.hid (yl d X p u hd (by omega) ((b.cell (p:=⟨p,0,none⟩) hlt).trans hp))
 rw [lX] at H2
 rw [hX] at H1
 clear hT h hx ht hX lX sX hp hlt
 go_enter Tryz.func19,Tryz.ntmps19
 go_wp2_with (fail)
 refine H1.out.mono ?_
 rintro e w1 ⟨rfl,c1⟩
 have B1:=Lib.hid c1
 clear c1
 go_wp2_with (fail)
 refine (H2 _ B1.out).out.mono ?_
 rintro e w2 ⟨rfl,c2⟩
 have B2:=Lib.hid (B1.out.trans (c2.mono B1.out.size))
 clear c2
 go_wp2
 go_ret
 exact ⟨rfl,B2.out⟩
theorem fX (d:Int) (v:Value) (l:ab) (w:World) (hd: -9223372036854775808≤d∧d≤9223372036854775807) (h:ar w v l) (hx:nc l) (ht:(cT l).length≤1000) (hT:bn w):Calls Tryz.prog 10 #[.int .i64 d,v] w fun e w'=>e= .returned (.string ⟨(bB d l).toArray⟩)∧Below w.heap.size w w':=by
 have hb:=(Below.refl w.heap.size w).alloc (Nat.le_refl _) (.cells #[.int .i64 d] 3)
 have HB:=Lib.hid hb
 have HL:=Lib.hid (Bn d v l w.heap.size (w.alloc (.cells #[.int .i64 d] 3)) hd (h.over hb) hx ht (hT.below hb) (by rw [Lib.cell_of_heap (heap_alloc_new w _)];rfl) (by simp))
 clear hb h hx ht hT
 go_enter Tryz.func10,Tryz.ntmps10
 go_wp2_with (fail)
 refine HL.out.mono ?_
 rintro e w1 ⟨rfl,c1⟩
 have B1:=Lib.hid (HB.out.trans (c1.mono HB.out.size))
 clear c1
 go_wp2
 go_ret
 exact ⟨rfl,B1.out⟩
theorem qU (d:Int) (v:Value) (l:ab) (p:Nat) (w:World) (hd: -9223372036854775808≤d∧d≤9223372036854775807) (h:ar w v l) (hx:nc l) (ht:(cT l).length≤1000) (hT:bn w) (hp:w.cell? ⟨p,0,none⟩=some (.int .i64 d)):Calls Tryz.prog 23 #[v,.pointer (some ⟨p,0,none⟩)] w fun e w'=>e= .returned (.string ⟨(bB d l).toArray⟩)∧Below w.heap.size w w':=by
 have H:=Lib.hid (fX d v l w hd h hx ht hT)
 clear hT h hx ht hd
 go_enter Tryz.func23,Tryz.ntmps23
 go_wp2_with (fail)
 refine H.out.mono ?_
 rintro e w1 ⟨rfl,c1⟩
 go_wp2
 go_ret
 exact ⟨rfl,c1⟩
theorem ym (d:Int) (v:Value) (l:ab) (p:Nat) (w:World) (hd: -9223372036854775808≤d∧d≤9223372036854775807) (h:ar w v l) (hx:nc l) (ht:(cT l).length≤1000) (hT:bn w) (hp:w.cell? ⟨p,0,none⟩=some (.int .i64 d)) (hlt:p<w.heap.size):Calls Tryz.prog 22 #[v,.func (.func 23) #[] #[.pointer (some ⟨p,0,none⟩)]] w fun e w'=>e= .returned (.string ⟨(bB d (bB d l)).toArray⟩)∧Below w.heap.size w w':=by
 have HT:=Lib.hid hT
 have HP:=Lib.hid (fun u (b:Below w.heap.size w u)=>(b.cell (p:=⟨p,0,none⟩) hlt).trans hp)
 have H1:=Lib.hid (qU d v l p w hd h hx ht hT hp)
 have hln:=tm d (cT l)
 have H2:=fun u v h1 h2 h3=>Lib.hid (qU d v (bB d l) p u hd h1 (CI d l ht) (Nat.le_trans (j7 d l) ht) h2 h3)
 obtain ⟨X,hX,lX,sX⟩:=dP (bB d l)
 rw [hX] at H1
 rw [←lX] at H2
 have hXs:X.size≤100000:=by rw [sX];show (fC d (cT l)).length≤_;omega
 rw [←lX]
 clear hT h hx ht hX lX sX hp hlt hln hd
 have kc:=fun (wx:World) (s:ByteArray)=>run_bytes_of_string (P:=Tryz.prog) wx 9 22 5 s Tryz.underlying9 Tryz.underlying22 Tryz.underlying5
 go_enter Tryz.func22,Tryz.ntmps22
 go_wp2_with (fail)
 refine H1.out.mono ?_
 rintro e w1 ⟨rfl,c1⟩
 have B1:=Lib.hid c1
 clear c1
 go_wp2_with (fail)
 refine (H2 _ _ (fU w1 X _ _ rfl (by unfold maxLen;omega)) (HT.out.below (dO B1.out B1.out.size _)) (HP.out _ (dO B1.out B1.out.size _))).out.mono ?_
 rintro e w2 ⟨rfl,c2⟩
 have B2:=Lib.hid (show Below w.heap.size w w2 from (dO B1.out B1.out.size _).trans (c2.mono (by have q:=B1.out.size;simp;omega)))
 clear c2
 go_wp2
 go_ret
 exact ⟨rfl,B2.out⟩
theorem pq (d:Int) (v:Value) (l:ab) (w:World) (hd: -9223372036854775808≤d∧d≤9223372036854775807) (h:ar w v l) (hx:nc l) (ht:(cT l).length≤1000) (hT:bn w):Calls Tryz.prog 11 #[.int .i64 d,v] w fun e w'=>e= .returned (.string ⟨(bB d (bB d l)).toArray⟩)∧Below w.heap.size w w':=by
 have hb:=(Below.refl w.heap.size w).alloc (Nat.le_refl _) (.cells #[.int .i64 d] 3)
 have HB:=Lib.hid hb
 have HL:=Lib.hid (ym d v l w.heap.size (w.alloc (.cells #[.int .i64 d] 3)) hd (h.over hb) hx ht (hT.below hb) (by rw [Lib.cell_of_heap (heap_alloc_new w _)];rfl) (by simp))
 clear hb h hx ht hT
 go_enter Tryz.func11,Tryz.ntmps11
 go_wp2_with (fail)
 refine HL.out.mono ?_
 rintro e w1 ⟨rfl,c1⟩
 have B1:=Lib.hid (HB.out.trans (c1.mono HB.out.size))
 clear c1
 go_wp2
 go_ret
 exact ⟨rfl,B1.out⟩
end Go.Proofs.YtajpoodpbbbkfaaGreatDoor

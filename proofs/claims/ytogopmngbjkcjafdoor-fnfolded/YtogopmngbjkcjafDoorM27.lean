/- What the specification's UpAt answers. -/
import Derived.Test.YtogopmngbjkcjafDoorM26
import Derived.Test.YtogopmngbjkcjafDoorM16
import Derived.Test.YtogopmngbjkcjafDoorM05
import Derived.Test.YtogopmngbjkcjafDoorM15
import Derived.Test.YtogopmngbjkcjafDoorM26
import Derived.Deep.CutBlock
import Derived.Lib.AppendZerosOnto
namespace Go.Proofs.YtogopmngbjkcjafDoor
open Go.RowKit
set_option linter.unusedVariables false

set_option maxRecDepth 10000 in
set_option maxHeartbeats 1600000 in
theorem specUpAt_any (a : Option Addr) (n ca : Nat) (a' : Option Addr) (n' ca' : Nat) (ep nx : Int) (ua : Option Addr) (un uc lo : Nat) (l : List UE) (id : ByteArray) (w : World) (hu : UpRow w lo (.slice ua un uc) l) (hun : un = l.length) (hul : un ≤ 1099511627776) (hz : ∀ e ∈ l, e.n ≤ 1099511627776) :
    Calls Tryd.prog 36 #[.agg #[.slice a n ca, .slice a' n' ca', .int .i64 ep, .int .i64 nx, .slice ua un uc], .string id] w fun e w' => AnsU w.heap.size (l.map UE.u) id e w' ∧ Below w.heap.size w w' := by
  obtain ⟨w0, hw0⟩ : ∃ w0, (w.alloc (.cells #[.slice a n ca, .slice a' n' ca', .int .i64 ep, .int .i64 nx, .slice ua un uc] 37)).alloc (.cells #[.string ⟨#[]⟩, .int .i64 0, .slice none 0 0, .bool false] 30) = w0 := ⟨_, rfl⟩
  have HE : Hid ((w.alloc (.cells #[.slice a n ca, .slice a' n' ca', .int .i64 ep, .int .i64 nx, .slice ua un uc] 37)).alloc (.cells #[.string ⟨#[]⟩, .int .i64 0, .slice none 0 0, .bool false] 30) = w0) := hw0
  have HB : Hid (Below w.heap.size w w0) := by show Below _ _ _; rw [← hw0]; exact ((Below.refl _ _).alloc (Nat.le_refl _) _).alloc (by simp) _
  have HQ : Hid (BoxN w0 w.heap.size 37 [.slice a n ca, .slice a' n' ca', .int .i64 ep, .int .i64 nx, .slice ua un uc]) := by show BoxN _ _ _ _; rw [← hw0]; exact (BoxN.new _ _ _).alloc _
  have HR : Hid (BoxN w0 (w.heap.size + 1) 30 [.string ⟨#[]⟩, .int .i64 0, .slice none 0 0, .bool false]) := by
    show BoxN _ _ _ _
    rw [← hw0]
    have := BoxN.new (w.alloc (.cells #[.slice a n ca, .slice a' n' ca', .int .i64 ep, .int .i64 nx, .slice ua un uc] 37)) 30 [.string ⟨#[]⟩, .int .i64 0, .slice none 0 0, .bool false]
    rw [World.size_alloc] at this
    exact this
  have HU : Hid (UpRow w0 lo (.slice ua un uc) l) := hu.stays HB.out
  have HN : Hid (un = l.length) := hun
  have HZ : Hid (∀ e ∈ l, e.n ≤ 1099511627776) := hz
  have hwl : w.heap.size + 1 < w0.heap.size := HR.out.lt
  clear hw0 hu hun hz
  have c4 := HQ.out.cell 4 rfl
  have HC : Hid (Calls Tryd.prog 30 #[.slice ua un uc, .string id] w0 fun e w' => e = .returned (.int .i64 (atI (l.map UE.u) id)) ∧ w' = w0) := specAtU_any ua un uc lo id l w0 HU.out HN.out hul
  have a0 := HR.out.cell 0 rfl
  have a1 := HR.out.cell 1 rfl
  have a2 := HR.out.cell 2 rfl
  have a3 := HR.out.cell 3 rfl
  have f0 := HR.out.frozen 0
  have f1 := HR.out.frozen 1
  have f2 := HR.out.frozen 2
  have f3 := HR.out.frozen 3
  cases hk : atU (l.map UE.u) id with
  | none =>
    have hi : atI (l.map UE.u) id = -1 := by rw [atI, hk]
    rw [hi] at HC
    have HG : Hid (gotU (l.map UE.u) id = ⟨⟨#[]⟩, 0, [], false⟩ ∧ atU (l.map UE.u) id = none) := ⟨gotU_none hk, hk⟩
    clear hi hk
    go_enter Tryd.func36, Tryd.ntmps36
    go_upto_region 1 with fail
    rw [HE.out]
    clear HE
    go_wp2_with fail
    refine HC.out.mono ?_
    rintro _ w0 ⟨rfl, rfl⟩
    go_wp2_with fail
    refine bodyPost_ret (v := .tuple #[.agg #[.string ⟨#[]⟩, .int .i64 0, .slice none 0 0, .bool false], .bool false]) (by simp [results, Tryd.f36, go_sem, a0, a1, a2, a3]) rfl ?_
    refine ⟨⟨none, 0, ?_, ?_⟩, ?_⟩
    · rw [HG.out.1, HG.out.2]; rfl
    · rw [HG.out.1]; exact owns_nil _ _
    · exact (((HB.out.setCell (by dsimp only; omega) _).setCell (by dsimp only; omega) _).setCell (by dsimp only; omega) _).setCell (by dsimp only; omega) _
  | some k =>
    have hi : atI (l.map UE.u) id = (k : Int) := by rw [atI, hk]
    have hkl : k < l.length := by simpa using (atU_is hk).1
    rw [hi] at HC
    have HG : Hid (gotU (l.map UE.u) id = (l[k]).u ∧ atU (l.map UE.u) id = some k) := ⟨gotU_some hk hkl, hk⟩
    obtain ⟨g, hg, g0, g1, g2, g3, _⟩ := HU.out.at HN.out hkl
    subst hg
    have HOx : Hid (Owns w0 lo (l[k]).a (l[k]).n (l[k]).c (l[k]).u.zs) := HU.out.2.1 _ (List.getElem_mem hkl)
    have hzk : (l[k]).n ≤ 1099511627776 := HZ.out _ (List.getElem_mem hkl)
    have hku : k < un := by have := HN.out; omega
    have hki : (k : Int) < (un : Int) := by omega
    have hk0 : (0 : Int) ≤ (k : Int) := by omega
    clear hi hk
    generalize l[k] = x at *
    go_enter Tryd.func36, Tryd.ntmps36
    go_upto_region 1 with fail
    rw [HE.out]
    clear HE
    go_wp2_with fail
    refine HC.out.mono ?_
    rintro _ w0 ⟨rfl, rfl⟩
    go_upto_region 5 with fail
    obtain ⟨w1, hw1⟩ : ∃ w1, w0.alloc (.cells #[.string x.u.id, .int .i64 x.u.want, .slice x.a x.n x.c, .bool x.u.done] 30) = w1 := ⟨_, rfl⟩
    have hb1 : Below w0.heap.size w0 w1 := by rw [← hw1]; exact (Below.refl _ _).alloc (Nat.le_refl _) _
    have hq1 : BoxN w1 w0.heap.size 30 [.string x.u.id, .int .i64 x.u.want, .slice x.a x.n x.c, .bool x.u.done] := by rw [← hw1]; exact BoxN.new _ _ _
    rw [hw1]
    clear hw1
    obtain ⟨w2, hw2⟩ : ∃ w2, w1.alloc (.cells #[] 5) = w2 := ⟨_, rfl⟩
    have HE2 : Hid (w1.alloc (.cells #[] 5) = w2) := hw2
    have hb2 : Below w1.heap.size w1 w2 := by rw [← hw2]; exact (Below.refl _ _).alloc (Nat.le_refl _) _
    have hlit : Owns w2 w1.heap.size (some ⟨w1.heap.size, 0, none⟩) 0 0 [] := by rw [← hw2]; exact ⟨World.ownsRow_lit w1 #[] 0 (Nat.le_refl _) (Nat.zero_le _) rfl, by simp⟩
    have hsg : Seg w2 x.a x.n x.u.zs := (HOx.out.seg.below hb1).below hb2
    obtain ⟨A, C, w3, hr, ho3, hg3, hw3⟩ := appB_run w2 w1.heap.size 22 (some ⟨w1.heap.size, 0, none⟩) 0 0 [] hlit (.slice x.a x.n x.c) x.n x.u.zs hsg.src hsg.2.1 (by omega) hb2.size
    have hq2 := hq1.stays hb2
    have hwq : w0.heap.size < w1.heap.size := hq1.lt
    have hq3 : BoxN w3 w0.heap.size 30 [.string x.u.id, .int .i64 x.u.want, .slice x.a x.n x.c, .bool x.u.done] := hq2.grown hg3 (fun e => by simp at e; omega)
    have hr3 : BoxN w3 (w.heap.size + 1) 30 [.string ⟨#[]⟩, .int .i64 0, .slice none 0 0, .bool false] := ((HR.out.stays hb1).stays hb2).grown hg3 (fun e => by simp at e; omega)
    rw [Nat.zero_add, List.nil_append] at ho3
    have hr0 := hr
    rw [Nat.zero_add] at hr0
    have HB3 : Hid (Below w.heap.size w w3) := ((HB.out.trans (hb1.mono HB.out.size)).trans (hb2.mono (by have := HB.out.size; have := hb1.size; omega))).grown hg3 (by have := HB.out.size; have := hb1.size; have := hb2.size; omega) (fun q e => by simp at e; omega)
    have HO3 : Hid (Owns w3 (w0.heap.size + 1) A x.n C x.u.zs) := ho3.low (by omega)
    have hLn : x.u.zs.length = x.n := hsg.1
    have u2 := hq2.cell 2 rfl
    have b0 := hq3.cell 0 rfl
    have b1 := hq3.cell 1 rfl
    have b2 := hq3.cell 2 rfl
    have b3 := hq3.cell 3 rfl
    have z2 := hq3.frozen 2
    clear a0 a1 a2 a3 f0 f1 f2 f3
    have a0 := hr3.cell 0 rfl
    have a1 := hr3.cell 1 rfl
    have a2 := hr3.cell 2 rfl
    have a3 := hr3.cell 3 rfl
    have f0 := hr3.frozen 0
    have f1 := hr3.frozen 1
    have f2 := hr3.frozen 2
    have f3 := hr3.frozen 3
    rw [← hw2] at hr0 u2
    clear hr hw2 hb2 hlit hsg hq1 hq2 hq3 hr3 ho3 hg3 hw3
    go_wp2_with (at_builtin; refine Lib.wpList_append_run _ rfl _ _ _ _ rfl _ _ rfl rfl _ _ hr0 ?_)
    have hne1 : w0.heap.size ≠ w.heap.size + 1 := by omega
    have hA1 : A.map (·.block) ≠ some w0.heap.size := fun e => by have := (HO3.out.lt _ e).1; omega
    have hA2 : A.map (·.block) ≠ some (w.heap.size + 1) := fun e => by have := (HO3.out.lt _ e).1; omega
    go_wp2_with fail
    refine bodyPost_ret (v := .tuple #[.agg #[.string x.u.id, .int .i64 x.u.want, .slice A x.n C, .bool x.u.done], .bool true]) (by simp [results, Tryd.f36, go_sem, a0, a1, a2, a3]) rfl ?_
    refine ⟨⟨A, C, ?_, ?_⟩, ?_⟩
    · rw [HG.out.1, HG.out.2, hLn]; rfl
    · rw [HG.out.1, hLn]
      exact (owns_set (owns_set (owns_set (owns_set (owns_set HO3.out hA1) hA2) hA2) hA2) hA2).low (by omega)
    · exact ((((HB3.out.setCell (by dsimp only; omega) _).setCell (by dsimp only; omega) _).setCell (by dsimp only; omega) _).setCell (by dsimp only; omega) _).setCell (by dsimp only; omega) _

end Go.Proofs.YtogopmngbjkcjafDoor

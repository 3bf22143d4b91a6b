/- What the program's copy of a disk answers. The library's Clone of bytes: the same bytes in memory of its own. What the program's copy of an upload answers. What the program's copyEach answers of uploads. A region that draws its order, whose operations each leave all that was there as it was (they read, make variables, call what makes rows of its own), and behind all of them a few that come one by one: each operation is looked at once, in whatever world it may come up. No program in it. -/
import Derived.Test.YtiigdcpjelbdjaaGreatDoorM25
import Derived.Deep.CutBlock
import Derived.Lib.SliceRun
import Derived.Test.YtiigdcpjelbdjaaGreatDoorM01
import Derived.Test.YtiigdcpjelbdjaaGreatDoorM03
import Derived.Test.YtiigdcpjelbdjaaGreatDoorM04
import Derived.OwnWalk
import Derived.StillTail
import Derived.Deep.QuietTactic
namespace Go.Proofs.YtiigdcpjelbdjaaGreatDoor
open Go.RowKit
set_option linter.unusedVariables false

theorem blkOf_sC (a : Option Addr) (n c : Nat) : blkOf (.slice a n c) = a.map (·.block) := by cases a <;> rfl

set_option maxRecDepth 10000 in
set_option maxHeartbeats 3200000 in
theorem implDcopy_any (a : Option Addr) (n ca : Nat) (xs : List ByteArray) (a' : Option Addr) (n' ca' : Nat) (ys : List ByteArray) (w : World) (h1 : Strs w a n xs) (h2 : Strs w a' n' ys) (hn : n ≤ 2097152) (hn' : n' ≤ 2097152) :
    Calls Tryz.prog 28 #[.agg #[.slice a n ca, .slice a' n' ca']] w fun e w' => (∃ v, e = .returned v ∧ AnsD w.heap.size xs ys v w') ∧ Below w.heap.size w w' := by
  have HLn : Hid (xs.length = n ∧ ys.length = n') := ⟨h1.1, h2.1⟩
  obtain ⟨W2, hW2⟩ : ∃ W2, (w.alloc (.cells #[.slice a n ca, .slice a' n' ca'] 26)).alloc (.cells #[.slice none 0 0, .slice none 0 0] 26) = W2 := ⟨_, rfl⟩
  have HE : Hid ((w.alloc (.cells #[.slice a n ca, .slice a' n' ca'] 26)).alloc (.cells #[.slice none 0 0, .slice none 0 0] 26) = W2) := hW2
  have HB2 : Hid (Below w.heap.size w W2) := by show Below _ _ _; rw [← hW2]; exact ((Below.refl _ _).alloc (Nat.le_refl _) _).alloc (by simp) _
  have HZ2 : Hid (W2.heap.size = w.heap.size + 2) := by show _ = _; rw [← hW2]; simp
  have q1 : Box2R W2 w.heap.size 26 (.slice a n ca) (.slice a' n' ca') := by rw [← hW2]; exact (Box2R.new _ _ _ _).alloc _
  have q2 : Box2R W2 (w.heap.size + 1) 26 (.slice none 0 0) (.slice none 0 0) := by
    rw [← hW2]
    have := Box2R.new (w.alloc (.cells #[.slice a n ca, .slice a' n' ca'] 26)) 26 (.slice none 0 0) (.slice none 0 0)
    rwa [World.size_alloc] at this
  have HQ : Hid (∀ W, Below W2.heap.size W2 W → Box2R W w.heap.size 26 (.slice a n ca) (.slice a' n' ca') ∧ Box2R W (w.heap.size + 1) 26 (.slice none 0 0) (.slice none 0 0)) := fun W h => ⟨q1.stays h, q2.stays h⟩
  have HX : Hid (∀ W, Below W2.heap.size W2 W → Strs W a n xs ∧ Strs W a' n' ys) := fun W h => by
    have hw := HB2.out.trans (h.mono HB2.out.size)
    exact ⟨h1.below hw, h2.below hw⟩
  have HBd : Hid (Below W2.heap.size W2 W2.drew) := (Below.refl _ _).drew
  clear hW2 q1 q2 h1 h2
  have hne : w.heap.size ≠ w.heap.size + 1 := by omega
  have hs2 : w.heap.size + 1 < W2.heap.size := by have := HZ2.out; omega
  go_enter Tryz.func28, Tryz.ntmps28
  go_upto_region 1 with fail
  rw [HE.out]
  clear HE
  obtain ⟨c0, c1⟩ := (HQ.out _ (Below.refl _ _)).1.cells
  go_region_held3 (fun W => W.cell? ⟨w.heap.size, 0, none⟩ = some (.slice a n ca) ∧ W.cell? ⟨w.heap.size, 1, none⟩ = some (.slice a' n' ca')) (first | (refine ⟨?_, ?_⟩ <;> assumption) | (refine ⟨?_, ?_⟩ <;> (exact cellD_kept hne (cellD_kept hne (by assumption)))) | go_keep) (first
    | (go_at_call 51; refine (cloneS_any a' n' ca' ys _ (HX.out _ hB1).2 hn').mono ?_; rintro e y2 ⟨⟨A2, C2, rfl, own2⟩, hb2⟩
       have hB2 : Below W2.heap.size W2 y2 := hB1.trans (hb2.mono hB1.size)
       obtain ⟨m0, m1⟩ := (HQ.out _ hB2).1.cells
       obtain ⟨r0, r1⟩ := (HQ.out _ hB2).2.cells
       have f0 := (HQ.out _ hB2).2.frozen 0
       have f1 := (HQ.out _ hB2).2.frozen 1)
    | (go_at_call 51; refine (cloneS_any a n ca xs _ (HX.out _ HBd.out).1 hn).mono ?_; rintro e y1 ⟨⟨A1, C1, rfl, own1⟩, hb1⟩
       have hB1 : Below W2.heap.size W2 y1 := HBd.out.trans (hb1.mono (Nat.le_refl _))
       obtain ⟨e0, e1⟩ := (HQ.out _ hB1).1.cells)
    | fail)
  all_goals
    have HF : Hid (AnsD w.heap.size xs ys (.agg #[.slice A1 n C1, .slice A2 n' C2]) ((y2.setCell ⟨w.heap.size + 1, 0, none⟩ (.slice A1 n C1)).setCell ⟨w.heap.size + 1, 1, none⟩ (.slice A2 n' C2)) ∧ Below w.heap.size w ((y2.setCell ⟨w.heap.size + 1, 0, none⟩ (.slice A1 n C1)).setCell ⟨w.heap.size + 1, 1, none⟩ (.slice A2 n' C2))) := by
      have hz := HZ2.out
      have o1 : OwnSt y2 W2.heap.size (.slice A1 n C1) n xs := own1.below hb2
      have o2 : OwnSt y2 W2.heap.size (.slice A2 n' C2) n' ys := own2.low (by have := hB1.size; omega)
      have n1 : blkOf (.slice A1 n C1) ≠ some (w.heap.size + 1) := fun e => by have := (o1.lt _ e).1; omega
      have n2 : blkOf (.slice A2 n' C2) ≠ some (w.heap.size + 1) := fun e => by have := (o2.lt _ e).1; omega
      have hbw := HB2.out.trans (hB2.mono HB2.out.size)
      refine ⟨AnsD.mk' HLn.out.1 HLn.out.2 (((o1.setCell n1 _).setCell n1 _).low (by omega)) (((o2.setCell n2 _).setCell n2 _).low (by omega)) ?_, (hbw.setCell (by dsimp only; omega) _).setCell (by dsimp only; omega) _⟩
      intro q e1 e2
      rw [← blkOf_sC A1 n C1] at e1
      rw [← blkOf_sC A2 n' C2] at e2
      have := (own1.lt q e1).2
      have := (own2.lt q e2).1
      omega
    clear own1 own2 hb1 hb2 hB1 hB2 e0 e1 m0 m1
    go_wp2_with fail
    refine bodyPost_ret (v := .agg #[.slice A1 n C1, .slice A2 n' C2]) (by simp [results, Tryz.f28, go_sem, r0, r1]) rfl ?_
    exact ⟨⟨_, rfl, HF.out.1⟩, HF.out.2⟩

end Go.Proofs.YtiigdcpjelbdjaaGreatDoor

namespace Go.Proofs.YtiigdcpjelbdjaaGreatDoor
open Go.RowKit
set_option linter.unusedVariables false

set_option maxRecDepth 10000 in
set_option maxHeartbeats 400000 in
theorem cloneB_any (a : Option Addr) (len cap : Nat) (zs : List Int) (w : World) (hs : Seg w a len zs) (hl : len ≤ 1099511627776) :
    Calls Tryz.prog 54 #[.slice a len cap] w fun e w' => ∃ a' cap', e = .returned (.slice a' len cap') ∧ Owns w' w.heap.size a' len cap' zs ∧ Below w.heap.size w w' := by
  obtain ⟨i0, hi, hz0, hz1, hz2⟩ := info_parts Tryz.info5
  have qT : ∀ (w : World) (a : Option Addr) (n c n' c' : Nat), (binOp .eql 22 (.slice a n c) (.slice none n' c')).run Tryz.prog w = .ok (.bool a.isNone) w := fun w a n c n' c' => Lib.run_eql_slice_nil w _ _ a n c n' c' Tryz.underlying22
  cases a with
  | none =>
    have h0 : len = 0 := by
      rcases hs.2.2 with h | ⟨b, off, h, _⟩
      · exact h
      · cases h
    subst h0
    obtain rfl : zs = [] := List.eq_nil_of_length_eq_zero hs.1
    go_enter Tryz.func54, Tryz.ntmps54
    go_wp2
    go_ret
    exact ⟨none, 0, rfl, ⟨World.ownsRow_nil _ _ _ _, by simp⟩, Below.refl _ _⟩
  | some ad =>
    have hzl : zs.length = len := hs.1
    have HC : Hid (∀ j u, (zs.map (Value.int .u8))[j]? = some u → (w.alloc (.cells #[] 5)).cell? (ad.add j) = some u) := by
      intro j u hj
      have hl2 : j < zs.length := by
        by_cases h : j < zs.length
        · exact h
        · rw [List.getElem?_eq_none (by simp; omega)] at hj; cases hj
      rcases hs.2.2 with h | ⟨b, off, h, _⟩
      · omega
      · injection h with h
        subst h
        exact cells_ints (hs.below ((Below.refl _ _).alloc (Nat.le_refl _) _)) j u hj
    have HR : Hid (∀ n ∈ zs, 0 ≤ n ∧ n ≤ 255) := hs.2.1
    have HO1 : Hid ((w.alloc (.cells #[] 5)).ownsRow w.heap.size 5 1 (.slice (some ⟨w.heap.size, 0, none⟩) 0 0) 0 []) := World.ownsRow_lit w #[] 0 (Nat.le_refl _) (Nat.zero_le _) rfl
    clear hs
    go_enter Tryz.func54, Tryz.ntmps54
    go_wp2_with (at_builtin; refine wpList_append_own _ rfl _ _ 22 rfl w.heap.size 5 i0 (.int .u8 0) 1 1 Tryz.underlying22 hi hz0 hz1 hz2 rfl (by decide) (.slice (some ⟨w.heap.size, 0, none⟩) 0 0) 0 [] rfl HO1.out ad len cap (zs.map (Value.int .u8)) rfl (by simp [hzl]) HC.out (ints_one zs) (by unfold maxLen; omega) (by omega) (by simp) ?_; intro v1 w1 hown1 hgrow1 _; refine Hid.out ?_)
    refine hidden ?_
    have HB1 : Hid (Below w.heap.size w w1) := ((Below.refl _ _).alloc (Nat.le_refl _) _).grown hgrow1 (by simp) (by simp [Value.ownBlock])
    obtain ⟨a1, c1, rfl⟩ := shape_of_owns hown1
    have HO2 : Hid (w1.ownsRow w.heap.size 5 1 (.slice a1 len c1) len (zs.map (Value.int .u8))) := by
      show World.ownsRow _ _ _ _ _ _ _
      have h := hown1
      rw [Nat.zero_add] at h
      simpa using h
    have hll : 0 + len = len := Nat.zero_add _
    rw [hll]
    clear hown1 hgrow1
    go_wp2_with fail
    go_ret
    exact ⟨_, _, rfl, ⟨HO2.out, HR.out⟩, HB1.out⟩

end Go.Proofs.YtiigdcpjelbdjaaGreatDoor

namespace Go.Proofs.YtiigdcpjelbdjaaGreatDoor
open Go.RowKit
set_option linter.unusedVariables false

set_option maxRecDepth 10000 in
set_option maxHeartbeats 800000 in
theorem implCopyUp_any (x : UE) (w : World) (hs : Seg w x.a x.n x.u.zs) (hl : x.n ≤ 1099511627776) :
    Calls Tryz.prog 33 #[.agg #[.string x.u.id, .int .i64 x.u.want, .slice x.a x.n x.c, .bool x.u.done]] w fun e w' => (∃ A C, e = .returned (.agg #[.string x.u.id, .int .i64 x.u.want, .slice A x.n C, .bool x.u.done]) ∧ Owns w' w.heap.size A x.n C x.u.zs) ∧ Below w.heap.size w w' := by
  obtain ⟨w0, hw0⟩ : ∃ w0, (w.alloc (.cells #[.string x.u.id, .int .i64 x.u.want, .slice x.a x.n x.c, .bool x.u.done] 42)).alloc (.cells #[.string ⟨#[]⟩, .int .i64 0, .slice none 0 0, .bool false] 42) = w0 := ⟨_, rfl⟩
  have HE : Hid ((w.alloc (.cells #[.string x.u.id, .int .i64 x.u.want, .slice x.a x.n x.c, .bool x.u.done] 42)).alloc (.cells #[.string ⟨#[]⟩, .int .i64 0, .slice none 0 0, .bool false] 42) = w0) := hw0
  have HB : Hid (Below w.heap.size w w0) := by show Below _ _ _; rw [← hw0]; exact ((Below.refl _ _).alloc (Nat.le_refl _) _).alloc (by simp) _
  have HQ : Hid (BoxN w0 w.heap.size 42 [.string x.u.id, .int .i64 x.u.want, .slice x.a x.n x.c, .bool x.u.done]) := by show BoxN _ _ _ _; rw [← hw0]; exact (BoxN.new _ _ _).alloc _
  have HR : Hid (BoxN w0 (w.heap.size + 1) 42 [.string ⟨#[]⟩, .int .i64 0, .slice none 0 0, .bool false]) := by
    show BoxN _ _ _ _
    rw [← hw0]
    have := BoxN.new (w.alloc (.cells #[.string x.u.id, .int .i64 x.u.want, .slice x.a x.n x.c, .bool x.u.done] 42)) 42 [.string ⟨#[]⟩, .int .i64 0, .slice none 0 0, .bool false]
    rw [World.size_alloc] at this
    exact this
  have HS : Hid (Seg w0 x.a x.n x.u.zs) := hs.below HB.out
  have hwl : w.heap.size + 1 < w0.heap.size := HR.out.lt
  clear hw0 hs
  have c2 := HQ.out.cell 2 rfl
  go_enter Tryz.func33, Tryz.ntmps33
  go_upto_region 1 with fail
  rw [HE.out]
  clear HE
  go_wp2_with fail
  refine (cloneB_any x.a x.n x.c x.u.zs w0 HS.out hl).mono ?_
  rintro _ w1 ⟨A, C, rfl, ho1, hb1⟩
  have hq := HQ.out.stays hb1
  have hr := HR.out.stays hb1
  have HB1 : Hid (Below w.heap.size w w1) := HB.out.trans (hb1.mono HB.out.size)
  have HO1 : Hid (Owns w1 w0.heap.size A x.n C x.u.zs) := ho1
  have b0 := hq.cell 0 rfl
  have b1 := hq.cell 1 rfl
  have b2 := hq.cell 2 rfl
  have b3 := hq.cell 3 rfl
  have z2 := hq.frozen 2
  have a0 := hr.cell 0 rfl
  have a1 := hr.cell 1 rfl
  have a2 := hr.cell 2 rfl
  have a3 := hr.cell 3 rfl
  have f0 := hr.frozen 0
  have f1 := hr.frozen 1
  have f2 := hr.frozen 2
  have f3 := hr.frozen 3
  have hA1 : A.map (·.block) ≠ some w.heap.size := fun e => by have := (ho1.lt _ e).1; omega
  have hA2 : A.map (·.block) ≠ some (w.heap.size + 1) := fun e => by have := (ho1.lt _ e).1; omega
  clear hq hr ho1 hb1 c2 HQ HR
  go_wp2_with fail
  refine bodyPost_ret (v := .agg #[.string x.u.id, .int .i64 x.u.want, .slice A x.n C, .bool x.u.done]) (by simp [results, Tryz.f33, go_sem, a0, a1, a2, a3]) rfl ?_
  refine ⟨⟨A, C, rfl, ?_⟩, ?_⟩
  · exact (owns_set (owns_set (owns_set (owns_set (owns_set HO1.out hA1) hA2) hA2) hA2) hA2).low (by omega)
  · exact ((((HB1.out.setCell (by dsimp only; omega) _).setCell (by dsimp only; omega) _).setCell (by dsimp only; omega) _).setCell (by dsimp only; omega) _).setCell (by dsimp only; omega) _

end Go.Proofs.YtiigdcpjelbdjaaGreatDoor

namespace Go.Proofs.YtiigdcpjelbdjaaGreatDoor
open Go.RowKit
set_option linter.unusedVariables false

theorem shape_ofE {w : World} {base n : Nat} {v : Value} {xs : List Value} (h : w.ownsRow base 42 4 v n xs) : ∃ a cap, v = .slice a n cap := by
  rcases h.2 with ⟨rfl, h0⟩ | ⟨g, cap, cur, rfl, _⟩
  · rw [h0]; exact ⟨_, _, rfl⟩
  · exact ⟨_, _, rfl⟩

set_option maxRecDepth 10000 in
set_option maxHeartbeats 3200000 in
theorem implEachUp_any (ua : Option Addr) (un uc lo : Nat) (l : List UE) (w : World) (hu : UpRow w lo (.slice ua un uc) l) (hun : un = l.length) (hul : un ≤ 1048576) (hz : ∀ e ∈ l, e.n ≤ 1099511627776) :
    Calls Tryz.prog 34 #[.slice ua un uc, .func (.func 33) #[] #[]] w fun e w' => (∃ a c l', e = .returned (.slice a un c) ∧ UpRow w' w.heap.size (.slice a un c) l' ∧ l'.map UE.u = l.map UE.u) ∧ Below w.heap.size w w' := by
  have HLn : Hid (un = l.length ∧ ∀ e ∈ l, e.n ≤ 1099511627776) := ⟨hun, hz⟩
  have HX : Hid (∀ W, Below w.heap.size w W → UpRow W lo (.slice ua un uc) l) := fun W h => hu.stays h
  obtain ⟨i0, hi, hz0, hz1, hz2⟩ := info_parts info_up
  clear hu hun hz
  go_enter Tryz.func34, Tryz.ntmps34
  go_wp2_with (first | (at_make; refine _root_.Go.wpList_make_own _ rfl _ _ 27 rfl w.heap.size 42 i0 _ 4 Tryz.underlying27 hi hz0 hz1 _ _ _ un rfl rfl (by have := HLn.out.1; omega) (by rw [hz2]; omega) (by unfold maxLen; omega) (Nat.le_refl _) ?_; intro w1 hown1 hg1) | fail)
  have HB0 : Hid (Below w.heap.size w w1) := (Below.refl _ _).grown hg1 (Nat.le_refl _) (fun q hq => by cases hq)
  have HR0 : Hid (UpRow w1 w.heap.size (.slice (some ⟨w.heap.size, 0, none⟩) 0 un) []) := ⟨hown1, by simp, List.Pairwise.nil⟩
  clear hown1 hg1
  go_loopw [5, 13] (fun o i wr => ∃ (k : Nat) (va : Option Addr) (vc : Nat) (l' : List UE), k ≤ un ∧ l'.length = k ∧ i = .int .i64 (k : Int) ∧ o = .slice va k vc ∧ Hid (UpRow wr w.heap.size (.slice va k vc) l') ∧ Hid (l'.map UE.u = (l.map UE.u).take k) ∧ Hid (Below w.heap.size w wr)) (fun _ i _ => un - (intOf i).toNat)
  case atStart => exact ⟨0, _, _, [], Nat.zero_le _, rfl, rfl, rfl, HR0, rfl, HB0⟩
  case round =>
    clear HR0 HB0
    obtain ⟨k, va, vc, l', hk, hlk, rfl, rfl, HRx, HMx, HWx⟩ := hrel
    by_cases hlt : k < un
    case neg =>
      obtain rfl : k = un := by omega
      have HF : Hid (l'.map UE.u = l.map UE.u) := by show _ = _; rw [HMx.out, List.take_of_length_le (by rw [List.length_map, ← HLn.out.1]; exact Nat.le_refl _)]
      clear HMx HX
      go_wp2_with fail
      go_ret
      exact ⟨⟨va, vc, l', rfl, HRx.out, HF.out⟩, HWx.out⟩
    have hkl : k < l.length := by rw [← HLn.out.1]; exact hlt
    have hki : (k : Int) < (un : Int) := by omega
    have hk0 : (0 : Int) ≤ (k : Int) := by omega
    obtain ⟨g, rfl, g0, g1, g2, g3, _⟩ := (HX.out _ HWx.out).at HLn.out.1 hkl
    have HSg : Hid (Seg wr (l[k]).a (l[k]).n (l[k]).u.zs) := ((HX.out _ HWx.out).2.1 (l[k]) (List.getElem_mem hkl)).seg
    have hen : (l[k]).n ≤ 1099511627776 := HLn.out.2 _ (List.getElem_mem hkl)
    have HM2 : Hid (l'.map UE.u ++ [(l[k]).u] = (l.map UE.u).take (k + 1)) := by show _ = _; rw [List.take_add_one, List.getElem?_map, List.getElem?_eq_getElem hkl, HMx.out]; rfl
    clear HMx
    generalize l[k] = e at *
    obtain ⟨x1, hx1⟩ : ∃ x1, wr.alloc (.cells #[.string e.u.id, .int .i64 e.u.want, .slice e.a e.n e.c, .bool e.u.done] 42) = x1 := ⟨_, rfl⟩
    have HE1 : Hid (wr.alloc (.cells #[.string e.u.id, .int .i64 e.u.want, .slice e.a e.n e.c, .bool e.u.done] 42) = x1) := hx1
    have hb1 : Below wr.heap.size wr x1 := by rw [← hx1]; exact (Below.refl _ _).alloc (Nat.le_refl _) _
    have hU1 : BoxN x1 wr.heap.size 42 [.string e.u.id, .int .i64 e.u.want, .slice e.a e.n e.c, .bool e.u.done] := by rw [← hx1]; exact BoxN.new _ _ _
    have HB1 : Hid (Below w.heap.size w x1) := HWx.out.trans (hb1.mono HWx.out.size)
    have HR1 : Hid (UpRow x1 w.heap.size (.slice va k vc) l') := HRx.out.stays hb1
    have HG1 : Hid (Seg x1 e.a e.n e.u.zs) := HSg.out.below hb1
    have hx1s : w.heap.size ≤ x1.heap.size := HB1.out.size
    have u0 := hU1.cell 0 rfl
    have u1 := hU1.cell 1 rfl
    have u2 := hU1.cell 2 rfl
    have u3 := hU1.cell 3 rfl
    clear hx1 hb1 hU1 HSg HWx HRx
    go_upto_region 5 with fail
    rw [HE1.out]
    clear HE1 g0 g1 g2 g3
    go_wp2_with fail
    refine (implCopyUp_any e x1 HG1.out hen).mono ?_
    rintro _ y1 ⟨⟨A, C, rfl, ho1⟩, hb1'⟩
    have hy1 : x1.heap.size ≤ y1.heap.size := hb1'.size
    have hS0 := HR1.out.stays hb1'
    have hS1 : y1.ownsRow w.heap.size 42 4 (.slice va k vc) k (ueCells l') := by have := hS0.1; rw [hlk] at this; exact this
    have HG2 : Hid (∀ (v2 : Value) (y2 : World), y2.ownsRow w.heap.size 42 4 v2 (k + 1) (ueCells l' ++ UE.cells ⟨e.u, A, e.n, C⟩) → (y1.alloc (.cells #[.string e.u.id, .int .i64 e.u.want, .slice A e.n C, .bool e.u.done] 42)).grownBy y2 (Value.slice va k vc).ownBlock → UpRow y2 w.heap.size v2 (l' ++ [⟨e.u, A, e.n, C⟩]) ∧ Below w.heap.size w y2) := (fun v2 y2 hown2 hg2 => ⟨hS0.snoc ho1 hx1s (fun x hx q hq => (HR1.out.lts.2 x hx q hq).2) (by rw [hlk]; exact hown2) hg2, ((HB1.out.trans (hb1'.mono hx1s)).alloc (by omega) _).grown hg2 (by simp; omega) (fun q hq => (hS0.lts.1 q hq).1)⟩)
    have HN1 := four_new y1 e.u A e.n C
    have HO1 : Hid ((y1.alloc (.cells #[.string e.u.id, .int .i64 e.u.want, .slice A e.n C, .bool e.u.done] 42)).ownsRow w.heap.size 42 4 (.slice va k vc) k (ueCells l')) := hS1.alloc _
    have hbw : w.heap.size ≤ (y1.alloc (.cells #[.string e.u.id, .int .i64 e.u.want, .slice A e.n C, .bool e.u.done] 42)).heap.size := by simp; omega
    clear hS0 hS1 hb1' ho1 u0 u1 u2 u3
    go_wp2_with (at_builtin; refine wpList_append_own _ rfl _ _ 27 rfl w.heap.size 42 i0 (.agg #[.string ⟨#[]⟩, .int .i64 0, .slice none 0 0, .bool false]) 4 56 Tryz.underlying27 hi hz0 hz1 hz2 rfl (by decide) (.slice va k vc) k (ueCells l') rfl HO1.out ⟨y1.heap.size, 0, none⟩ 1 1 (UE.cells ⟨e.u, A, e.n, C⟩) rfl rfl HN1 (four_one e.u A e.n C) (by unfold maxLen; omega) (by omega) hbw ?_; intro v2 y2 hown2 hg2 _; obtain ⟨v2a, v2c, hv2⟩ := shape_ofE hown2; subst hv2; have HR3 := HG2.out _ _ hown2 hg2; clear hown2 hg2)
    have HR4 : Hid (UpRow y2 w.heap.size (.slice v2a (k + 1) v2c) (l' ++ [⟨e.u, A, e.n, C⟩])) := HR3.1
    have HR5 : Hid (Below w.heap.size w y2) := HR3.2
    have HM3 : Hid ((l' ++ [(⟨e.u, A, e.n, C⟩ : UE)]).map UE.u = (l.map UE.u).take (k + 1)) := by show _ = _; rw [List.map_append]; exact HM2.out
    clear HG2 HM2 HR3 HN1 HO1
    go_roundw
    case rel => exact ⟨k + 1, v2a, v2c, l' ++ [⟨e.u, A, e.n, C⟩], by omega, by simp [hlk], by go_num, rfl, HR4, HM3, HR5⟩
    case measure => simp [intOf]; omega

end Go.Proofs.YtiigdcpjelbdjaaGreatDoor

namespace Go.Proofs.YtiigdcpjelbdjaaGreatDoor
open Go.RowKit
set_option linter.unusedVariables false

theorem put_mk (t : Array Value) (d : List Deferred) (i : Tmp) (v : Value) : Act.put ⟨t, d⟩ (some i) v = ⟨t.setIfInBounds i v, d⟩ := rfl

theorem all_zero {S : Nat → Prop} : ∀ i, i < 0 → S i := fun i h => absurd h (by omega)
theorem all_succ {S : Nat → Prop} {n : Nat} (h : ∀ i, i < n → S i) (hn : S n) : ∀ i, i < n + 1 → S i := fun i hi => by
  by_cases e : i = n
  · subst e
    exact hn
  · exact h i (by omega)

/-- What is known of a value, and stays so when what was there is as it was. -/
structure Stay where
  p : Value → World → Prop
  mono : ∀ {v w w'}, p v w → Below w.heap.size w w' → p v w'

def Stay.free : Stay := ⟨fun _ _ => True, fun _ _ => trivial⟩
def Stay.val (c : Value) : Stay := ⟨fun v _ => v = c, fun h _ => h⟩

/-- What an operation is asked that came to this. -/
def growsUpon (P : Program) (R : Value → World → Prop) (w : World) : Result Next → Prop
  | .ok (.value v) w' => Below w.heap.size w w' ∧ R v w'
  | .ok .skip w' => Below w.heap.size w w' ∧ R undef w'
  | .ok (.enter f args) w' => Calls P f args w' fun e w'' => ∃ v, e = .returned v ∧ Below w.heap.size w w'' ∧ R v w''
  | .ok (.row row args) w' => Rows P row args w' fun v w'' => Below w.heap.size w w'' ∧ R v w''
  | _ => False

section
variable {P : Program}

theorem put_get {a : Act} {d : Tmp} (hd : d < a.tmps.size) {u v : Value} (h : a.put (some d) u = a.put (some d) v) : u = v := by
  have h1 : (a.tmps.setIfInBounds d u)[d]? = (a.tmps.setIfInBounds d v)[d]? := congrArg (fun x : Act => x.tmps[d]?) h
  rw [Array.getElem?_setIfInBounds_self_of_lt hd, Array.getElem?_setIfInBounds_self_of_lt hd] at h1
  exact Option.some.inj h1

/-- An operation walked alone. -/
theorem grows_of_wp {o : Oper} {d : Tmp} {a : Act} {w : World} {R : Value → World → Prop} (hd : o.dst = some d) (hs : d < a.tmps.size) (hg : o.guard = none)
    (h : ∀ K : Act → World → Prop, (∀ v w', Below w.heap.size w w' → R v w' → K (a.put o.dst v) w') → wpList P #[o] (fun e a w => e = .normal ∧ K a w) [o] a w) :
    growsUpon P R w ((execOp a.eval o).run P w) := by
  have h1 := h (fun a' w' => ∃ v, a' = a.put o.dst v ∧ Below w.heap.size w w' ∧ R v w') (fun v w' hb hr => ⟨v, rfl, hb, hr⟩)
  unfold wpList at h1
  rw [if_pos (by simp [Region.wanted, hg])] at h1
  rcases h1 with h1 | ⟨_, x, y, h1, _⟩
  case inr => cases h1
  unfold Oper.wp at h1
  generalize (execOp a.eval o).run P w = r at *
  cases r with
  | ok n w' =>
    cases n <;> simp only [Oper.upon, wpList] at h1 <;> simp only [growsUpon]
    case value u =>
      obtain ⟨_, v, e, hb, hr⟩ := h1
      rw [hd] at e
      rw [put_get hs e]
      exact ⟨hb, hr⟩
    case skip =>
      obtain ⟨_, v, e, hb, hr⟩ := h1
      rw [hd] at e
      rw [put_get hs e]
      exact ⟨hb, hr⟩
    case enter f args =>
      refine h1.mono fun e w'' he => ?_
      cases e with
      | returned u =>
        obtain ⟨_, v, e, hb, hr⟩ := he
        rw [hd] at e
        exact ⟨v, by rw [put_get hs e], hb, hr⟩
      | panicked c => cases he.1
      | outgrown => obtain ⟨x, y, h1, _⟩ := he; cases h1
    case row row args =>
      refine h1.mono fun u w'' he => ?_
      obtain ⟨_, v, e, hb, hr⟩ := he
      rw [hd] at e
      rw [put_get hs e]
      exact ⟨hb, hr⟩
    case defer dd =>
      obtain ⟨_, v, e, hb, hr⟩ := h1
      rw [hd] at e
      have h2 : dd :: a.defers = a.defers := congrArg Act.defers e
      exact absurd (congrArg List.length h2) (by simp)
  | halt x w' =>
    cases x <;> simp only [Oper.upon] at h1 <;> first | exact h1 | cases h1.1

theorem wp_of_grows {o : Oper} {a b : Act} {w : World} {R : Value → World → Prop} {K : Act → World → Prop} {Q : Exit → Act → World → Prop} (he : execOp a.eval o = execOp b.eval o)
    (h : growsUpon P R w ((execOp b.eval o).run P w)) (hK : ∀ v w', Below w.heap.size w w' → R v w' → K (a.put o.dst v) w') : o.wp P a w K Q := by
  unfold Oper.wp
  rw [he]
  generalize (execOp b.eval o).run P w = r at *
  cases r with
  | ok n w' =>
    cases n <;> simp only [growsUpon] at h <;> simp only [Oper.upon]
    case value u => exact hK _ _ h.1 h.2
    case skip => exact hK _ _ h.1 h.2
    case enter f args =>
      refine h.mono fun e w'' he => ?_
      obtain ⟨v, rfl, hb, hr⟩ := he
      exact hK _ _ hb hr
    case row row args => exact h.mono fun u w'' he => hK _ _ he.1 he.2
  | halt x w' => simp only [growsUpon] at h

/-- The values of the listed ones laid into their slots, in the order of the text. -/
def putsL (ops : Array Oper) (L : Nat → Bool) (vs : Nat → Value) (a : Act) : Nat → Act
  | 0 => a
  | k + 1 => if L k then (putsL ops L vs a k).put ((ops[k]?).bind (·.dst)) (vs k) else putsL ops L vs a k

def dstOf (ops : Array Oper) (i : Nat) : Option Tmp := (ops[i]?).bind (·.dst)

/-- The bounds of such a region. -/
def growB (ops : Array Oper) (n size : Nat) : Bool :=
  Region.noSelect ops && decide (n < ops.size) && Region.sinkB .any ops n && Region.chainB .any ops n &&
  Region.seqB .any ops (ops.size - n) n ((List.range n).foldl (fun l i => l.setIfInBounds i true) (Array.replicate ops.size false)) &&
  ((List.range n).all fun i => match ops[i]? with
    | some o => o.guard.isNone && (match o.dst with | some d => decide (d < size) | none => false) && (o.after.all fun e => !Region.binds .any e || decide (e.on < i)) &&
      ((List.range n).all fun j => decide (i = j) || (dstOf ops i != dstOf ops j && (match dstOf ops j with | some d => !(o.looksAt ops).contains d || (decide (j < i) && Region.waitsFor .any ops i j) | none => false)))
    | none => false)

section
variable {ops : Array Oper}

theorem putsL_congr {L L' : Nat → Bool} {vs vs' : Nat → Value} {a : Act} : ∀ k, (∀ j, j < k → L j = L' j ∧ (L j = true → vs j = vs' j)) → putsL ops L vs a k = putsL ops L' vs' a k
  | 0, _ => rfl
  | k + 1, h => by
    obtain ⟨h1, h2⟩ := h k (by omega)
    have ih := putsL_congr (a := a) k (fun j hj => h j (by omega))
    unfold putsL
    rw [ih, ← h1]
    by_cases hL : L k = true
    · rw [if_pos hL, if_pos hL, h2 hL]
    · rw [if_neg hL, if_neg hL]

theorem putsL_size {L : Nat → Bool} {vs : Nat → Value} {a : Act} : ∀ k, (putsL ops L vs a k).tmps.size = a.tmps.size
  | 0 => rfl
  | k + 1 => by
    unfold putsL
    split
    · cases (ops[k]?).bind (·.dst) <;> simp [Act.put, putsL_size k]
    · exact putsL_size k

/-- One more value, put last: it might have been put in its turn. -/
theorem putsL_put {L : Nat → Bool} {vs : Nat → Value} {a : Act} {n i : Nat} {v : Value} (hL : L i = false) (hne : ∀ j, j < n → j ≠ i → ∀ d, dstOf ops j = some d → dstOf ops i ≠ some d) :
    ∀ k, k ≤ n → (i < k → (putsL ops L vs a k).put (dstOf ops i) v = putsL ops (fun j => L j || decide (j = i)) (fun j => if j = i then v else vs j) a k) ∧ (k ≤ i → putsL ops L vs a k = putsL ops (fun j => L j || decide (j = i)) (fun j => if j = i then v else vs j) a k)
  | 0, _ => ⟨fun h => by omega, fun _ => rfl⟩
  | k + 1, hkn => by
    obtain ⟨h1, h2⟩ := putsL_put (a := a) (vs := vs) (v := v) hL hne k (by omega)
    refine ⟨fun h => ?_, fun h => ?_⟩
    · by_cases hki : k = i
      · subst hki
        unfold putsL
        rw [if_neg (by rw [hL]; simp), if_pos (by simp), if_pos rfl, h2 (Nat.le_refl _)]
        rfl
      · have h3 := h1 (by omega)
        unfold putsL
        by_cases hLk : L k = true
        · rw [if_pos hLk, if_pos (by simp [hLk]), if_neg hki, ← h3]
          exact Act.put_comm _ _ _ (fun d hd => hne k (by omega) hki d hd)
        · rw [if_neg hLk, if_neg (by simp [hLk, hki])]
          exact h3
    · unfold putsL
      have hki : k ≠ i := by omega
      rw [h2 (by omega)]
      by_cases hLk : L k = true
      · rw [if_pos hLk, if_pos (by simp [hLk]), if_neg hki]
      · rw [if_neg hLk, if_neg (by simp [hLk, hki])]

theorem eval_putsL {L L' : Nat → Bool} {vs vs' : Nat → Value} {a : Act} {x : Operand} : ∀ k, (∀ j, j < k → (∀ d, dstOf ops j = some d → x ≠ .tmp d) ∨ (L j = L' j ∧ vs j = vs' j)) → (putsL ops L vs a k).eval x = (putsL ops L' vs' a k).eval x
  | 0, _ => rfl
  | k + 1, h => by
    have ih := eval_putsL (a := a) k (fun j hj => h j (by omega))
    unfold putsL
    rcases h k (by omega) with h1 | ⟨h1, h2⟩
    · have e : ∀ b v, (Act.put b ((ops[k]?).bind (·.dst)) v).eval x = b.eval x := fun b v => Act.eval_put h1
      have e1 : ∀ (c : Bool) (b : Act) (v : Value), (if c = true then Act.put b ((ops[k]?).bind (·.dst)) v else b).eval x = b.eval x := fun c b v => by
        cases c
        · rfl
        · exact e b v
      rw [e1, e1, ih]
    · rw [h1, h2]
      by_cases hL : L' k = true
      · rw [if_pos hL, if_pos hL]
        cases hd : (ops[k]?).bind (·.dst) with
        | none => exact ih
        | some d =>
          cases x with
          | tmp t =>
            by_cases ht : d = t
            · subst ht
              by_cases hlt : d < a.tmps.size
              · simp [Act.eval, Act.put, putsL_size, hlt]
              · simp [Act.eval, Act.put, putsL_size, hlt]
            · rw [Act.eval_put (fun d' hd' => by injection hd' with hd'; subst hd'; intro e; injection e with e; exact ht e.symm), Act.eval_put (fun d' hd' => by injection hd' with hd'; subst hd'; intro e; injection e with e; exact ht e.symm)]
              exact ih
          | _ => rfl
      · rw [if_neg hL, if_neg hL]
        exact ih

theorem foldl_set_get (n j : Nat) : ∀ (L : Array Bool), n ≤ L.size → ((List.range n).foldl (fun l i => l.setIfInBounds i true) L).getD j false = (decide (j < n) || L.getD j false) ∧ ((List.range n).foldl (fun l i => l.setIfInBounds i true) L).size = L.size := by
  induction n with
  | zero => intro L _; simp
  | succ n ih =>
    intro L hL
    obtain ⟨h1, h2⟩ := ih L (by omega)
    rw [List.range_succ, List.foldl_append, List.foldl_cons, List.foldl_nil]
    refine ⟨?_, by rw [Array.size_setIfInBounds, h2]⟩
    by_cases hj : n = j
    · subst hj
      have h3 : n < ((List.range n).foldl (fun l i => l.setIfInBounds i true) L).size := by rw [h2]; omega
      simp only [Array.getD_eq_getD_getElem?]
      rw [Array.getElem?_setIfInBounds_self_of_lt h3]
      simp
    · rw [getD_set_ne false hj, h1]
      congr 1
      simp only [decide_eq_decide]
      omega

/-- How many of the first n are not listed. -/
def unlisted (listed : Array Bool) (n : Nat) : Nat := ((List.range n).filter fun i => !listed.getD i false).length

theorem unlisted_set {listed : Array Bool} {n i : Nat} (hi : i < n) (hs : i < listed.size) (hl : listed.getD i false = false) : unlisted listed n = unlisted (listed.setIfInBounds i true) n + 1 := by
  induction n with
  | zero => omega
  | succ n ih =>
    unfold unlisted at *
    rw [List.range_succ, List.filter_append, List.filter_append, List.length_append, List.length_append]
    by_cases h : i = n
    · subst h
      have e : (List.range i).filter (fun j => !listed.getD j false) = (List.range i).filter (fun j => !(listed.setIfInBounds i true).getD j false) := by
        refine List.filter_congr fun j hj => ?_
        rw [getD_set_ne false (by have := List.mem_range.1 hj; omega)]
      rw [e]
      have h1 : (listed.setIfInBounds i true).getD i false = true := by
        rw [Array.getD_eq_getD_getElem?, Array.getElem?_setIfInBounds_self_of_lt hs]
        rfl
      rw [List.filter_cons, List.filter_cons, hl, h1]
      simp
    · have h2 := ih (by omega)
      rw [h2]
      simp only [List.filter_cons, List.filter_nil]
      rw [getD_set_ne false h]
      omega

theorem unlisted_zero {listed : Array Bool} {n : Nat} (h : unlisted listed n = 0) : ∀ j, j < n → listed.getD j false = true := fun j hj => by
  have h1 : (List.range n).filter (fun i => !listed.getD i false) = [] := List.length_eq_zero_iff.1 h
  have h2 := List.filter_eq_nil_iff.1 h1 j (List.mem_range.2 hj)
  simpa using h2

/-- The least of them. -/
theorem unlisted_least {listed : Array Bool} : ∀ {n : Nat}, unlisted listed n ≠ 0 → ∃ i, i < n ∧ listed.getD i false = false ∧ ∀ j, j < i → listed.getD j false = true := by
  intro n h
  have h1 : ∃ i, i < n ∧ listed.getD i false = false := by
    apply Classical.byContradiction
    intro hno
    apply h
    unfold unlisted
    rw [List.length_eq_zero_iff, List.filter_eq_nil_iff]
    intro i hi
    have := List.mem_range.1 hi
    cases hb : listed.getD i false with
    | true => simp
    | false => exact absurd ⟨i, this, hb⟩ hno
  obtain ⟨i, hi, hb⟩ := h1
  induction i using Nat.strongRecOn with
  | _ i ih =>
    by_cases hc : ∃ j, j < i ∧ listed.getD j false = false
    · obtain ⟨j, hj, hb'⟩ := hc
      exact ih j hj (by omega) hb'
    · refine ⟨i, hi, hb, fun j hj => ?_⟩
      cases hb' : listed.getD j false with
      | true => rfl
      | false => exact absurd ⟨j, hj, hb'⟩ hc

/-- What growB says of one of the first n. -/
theorem growB_at {n size i : Nat} (hB : growB ops n size = true) (hi : i < n) : ∃ o d, ops[i]? = some o ∧ o.guard = none ∧ o.dst = some d ∧ d < size ∧ (∀ e ∈ o.after, Region.binds .any e = true → e.on < i) ∧
    (∀ j, j < n → i ≠ j → dstOf ops i ≠ dstOf ops j) ∧ (∀ j, j < n → i ≠ j → ∀ d, dstOf ops j = some d → d ∈ o.looksAt ops → j < i ∧ Region.waitsFor .any ops i j = true) := by
  simp only [growB, Bool.and_eq_true] at hB
  have h := List.all_eq_true.1 hB.2 i (List.mem_range.2 hi)
  cases ho : ops[i]? with
  | none => rw [ho] at h; simp at h
  | some o =>
    rw [ho] at h
    simp only [Bool.and_eq_true] at h
    obtain ⟨⟨⟨h1, h2⟩, h3⟩, h4⟩ := h
    cases hd : o.dst with
    | none => rw [hd] at h2; simp at h2
    | some d =>
      rw [hd] at h2
      refine ⟨o, d, rfl, by simpa using h1, hd, by simpa using h2, fun e he hb => ?_, fun j hj hij => ?_, fun j hj hij d' hd' hm => ?_⟩
      · have := Array.all_eq_true'.1 h3 e he
        rw [hb] at this
        simpa using this
      · have := List.all_eq_true.1 h4 j (List.mem_range.2 hj)
        simp only [Bool.or_eq_true, decide_eq_true_eq, Bool.and_eq_true] at this
        rcases this with h5 | h5
        · exact absurd h5 hij
        · simpa using h5.1
      · have := List.all_eq_true.1 h4 j (List.mem_range.2 hj)
        simp only [Bool.or_eq_true, decide_eq_true_eq, Bool.and_eq_true] at this
        rcases this with h5 | h5
        · exact absurd h5 hij
        · have h6 := h5.2
          rw [hd'] at h6
          simp only [Bool.or_eq_true, Bool.and_eq_true, decide_eq_true_eq] at h6
          rcases h6 with h6 | h6
          · have : (Oper.looksAt ops o).contains d' = true := List.contains_iff_mem.2 hm
            rw [this] at h6
            simp at h6
          · exact h6

/-- The first n in whatever order, then those behind them. -/
theorem wpAny_grow {n : Nat} {R : Nat → Stay} {Q : Exit → Act → World → Prop} {a : Act} {w0 : World} (hB : growB ops n a.tmps.size = true)
    (hop : ∀ i, i < n → ∀ o, ops[i]? = some o → ∀ vs w, Below w0.heap.size w0 w → (∀ j, j < i → Region.waitsFor .any ops i j = true → (R j).p (vs j) w) →
      growsUpon P (R i).p w ((execOp (putsL ops (fun j => decide (j < i)) vs a n).eval o).run P w))
    (hend : ∀ vs w, Below w0.heap.size w0 w → (∀ j, j < n → (R j).p (vs j) w) → wpList P ops Q (ops.toList.drop n) (putsL ops (fun _ => true) vs a n) w) :
    ∀ (m : Nat) (listed : Array Bool) (vs : Nat → Value) (w : World), unlisted listed n = m → HeadInv .any ops n listed → Below w0.heap.size w0 w → (∀ j, j < n → listed.getD j false = true → (R j).p (vs j) w) →
      wpAny P .any ops Q (m + (ops.size - n)) listed (putsL ops (fun j => listed.getD j false) vs a n) w := by
  have hB0 := hB
  simp only [growB, Bool.and_eq_true, decide_eq_true_eq] at hB0
  obtain ⟨⟨⟨⟨⟨hsel, hn⟩, hs⟩, hc⟩, hseq⟩, -⟩ := hB0
  intro m
  induction m with
  | zero =>
    intro listed vs w hu inv hb hr
    have hall := unlisted_zero hu
    have hlen : (ops.toList.drop n).length = ops.size - n := by simp
    have hl : listed = (List.range n).foldl (fun l i => l.setIfInBounds i true) (Array.replicate ops.size false) := by
      obtain ⟨-, h2⟩ := foldl_set_get n 0 (Array.replicate ops.size false) (by simp; omega)
      apply Array.ext
      · rw [h2, inv.size]; simp
      · intro j hj hj'
        have e1 : listed.getD j false = listed[j] := by simp [hj]
        have e2 := (foldl_set_get n j (Array.replicate ops.size false) (by simp; omega)).1
        have e3 : ((List.range n).foldl (fun l i => l.setIfInBounds i true) (Array.replicate ops.size false)).getD j false = ((List.range n).foldl (fun l i => l.setIfInBounds i true) (Array.replicate ops.size false))[j] := by simp only [Array.getD_eq_getD_getElem?, Array.getElem?_eq_getElem hj', Option.getD_some]
        rw [← e1, ← e3, e2, getD_replicate_false, Bool.or_false]
        by_cases hjn : j < n
        · rw [hall j hjn, decide_eq_true hjn]
        · rw [decide_eq_false hjn]
          exact getD_both (inv.tail j (by omega) (by rw [inv.size] at hj; exact hj))
    rw [Nat.zero_add, ← hlen]
    refine wpAny_of_seq (ops.toList.drop n) n listed _ w (fun j => by rw [List.getElem?_drop]; simp) (by rw [hlen, hl]; exact hseq) ?_
    rw [putsL_congr (L' := fun _ => true) (vs' := vs) n (fun j hj => ⟨hall j hj, fun _ => rfl⟩)]
    exact hend vs w hb (fun j hj => hr j hj (hall j hj))
  | succ m ih =>
    intro listed vs w hu inv hb hr
    rw [show m + 1 + (ops.size - n) = (m + (ops.size - n)) + 1 by omega]
    obtain ⟨k, hk, hkl, hkb⟩ := unlisted_least (listed := listed) (n := n) (by omega)
    have hks : k < listed.size := by rw [inv.size]; omega
    refine ⟨fun h0 => ?_, fun i hi => ?_⟩
    · obtain ⟨o, d, ho, _, _, _, haf, _, _⟩ := growB_at hB hk
      have : k ∈ Region.ready .any ops listed := mem_ready.2 ⟨getD_in hks hkl, o, ho, fun e he hbd => hkb _ (haf e he hbd)⟩
      rw [h0] at this
      cases this
    · obtain ⟨hiun, oi, hoi, hall⟩ := mem_ready.1 hi
      have hin : i < n := by
        rcases Nat.lt_or_ge i n with h | h
        · exact h
        · exact absurd hi (tail_waits hs hc hn inv _ k rfl hk (getD_in hks hkl) i h)
      obtain ⟨o, d, ho, hg, hd, hds, haf, hdn, hlk⟩ := growB_at hB hin
      obtain rfl : oi = o := Option.some.inj (hoi.symm.trans ho)
      have hilf : listed.getD i false = false := getD_both hiun
      have his : i < listed.size := by rw [inv.size]; omega
      unfold wpOp
      simp only [hoi]
      rw [if_pos (by simp [Region.wanted, hg])]
      refine .inl (wp_of_grows (b := putsL ops (fun j => decide (j < i)) vs a n) (R := (R i).p) ?_ (hop i hin oi hoi vs w hb fun j hj hw => ?_) ?_)
      · refine execOp_congr oi (fun cs b => Region.noSelect_spec hsel i oi cs b hoi) fun x hx => eval_putsL n fun j hj => ?_
        by_cases hd' : ∀ d, dstOf ops j = some d → x ≠ .tmp d
        · exact .inl hd'
        · refine .inr ⟨?_, rfl⟩
          have hd2 : ∃ d, dstOf ops j = some d ∧ x = .tmp d := by
            apply Classical.byContradiction
            intro hno
            exact hd' fun d hd hx => hno ⟨d, hd, hx⟩
          obtain ⟨d', hj', rfl⟩ := hd2
          by_cases hij : i = j
          · subst hij
            rw [hilf, decide_eq_false (by omega)]
          · obtain ⟨hji, hw⟩ := hlk j hj hij d' hj' (List.mem_append_left _ (List.mem_filterMap.2 ⟨.tmp d', by simpa using hx, rfl⟩))
            obtain ⟨o', ho', e, he, hbd, hon⟩ := Region.waitsFor_spec hw
            obtain rfl : oi = o' := Option.some.inj (hoi.symm.trans ho')
            have := hall e he hbd
            rw [hon] at this
            rw [this, decide_eq_true hji]
      · obtain ⟨o', ho', e, he, hbd, hon⟩ := Region.waitsFor_spec hw
        obtain rfl : oi = o' := Option.some.inj (hoi.symm.trans ho')
        have := hall e he hbd
        rw [hon] at this
        exact hr j (by omega) this
      · intro v w' hbw hrv
        have hdo : dstOf ops i = oi.dst := by simp [dstOf, hoi]
        have hb' : Below w0.heap.size w0 w' := hb.trans (hbw.mono hb.size)
        have hput := (putsL_put (ops := ops) (L := fun j => listed.getD j false) (vs := vs) (a := a) (i := i) (v := v) (n := n) hilf (fun j hjn hj d' hd' => fun h => hdn j hjn (Ne.symm hj) (by rw [hd', h])) n (Nat.le_refl _)).1 hin
        rw [← hdo, hput]
        have e := putsL_congr (ops := ops) (L := fun j => listed.getD j false || decide (j = i)) (L' := fun j => (listed.setIfInBounds i true).getD j false) (vs := fun j => if j = i then v else vs j) (vs' := fun j => if j = i then v else vs j) (a := a) n (fun j hj => ⟨by
          by_cases hji : j = i
          · subst hji
            rw [Array.getD_eq_getD_getElem? (xs := listed.setIfInBounds j true), Array.getElem?_setIfInBounds_self_of_lt his]
            simp
          · rw [getD_set_ne false (Ne.symm hji)]
            simp [hji], fun _ => rfl⟩)
        rw [e]
        refine ih _ _ w' (by have := unlisted_set hin his hilf; omega) (inv.set hi hin) hb' fun j hj hl => ?_
        by_cases hji : j = i
        · subst hji
          rw [if_pos rfl]
          exact hrv
        · rw [if_neg hji]
          rw [getD_set_ne false (Ne.symm hji)] at hl
          exact (R j).mono (hr j hj hl) hbw
end

/-- The first i put in the order of the text. -/
def putsT : List Oper → (Nat → Value) → Act → Nat → Act
  | [], _, a, _ => a
  | o :: l, vs, a, k => putsT l vs (a.put o.dst (vs k)) (k + 1)

theorem putsT_snoc : ∀ (l : List Oper) (o : Oper) (vs : Nat → Value) (a : Act) (k : Nat), putsT (l ++ [o]) vs a k = (putsT l vs a k).put o.dst (vs (k + l.length))
  | [], _, _, _, _ => rfl
  | p :: l, o, vs, a, k => by
    rw [List.cons_append, putsT, putsT, putsT_snoc l o vs _ (k + 1), List.length_cons, show k + 1 + l.length = k + (l.length + 1) by omega]

theorem putsL_text {l : List Oper} {vs : Nat → Value} {a : Act} {i : Nat} : ∀ n, i ≤ n → n ≤ l.length → putsL l.toArray (fun j => decide (j < i)) vs a n = putsT (l.take i) vs a 0
  | 0, hi, _ => by
    obtain rfl : i = 0 := by omega
    rfl
  | n + 1, hi, hl => by
    by_cases h : i = n + 1
    · subst h
      unfold putsL
      rw [if_pos (by simp), putsL_congr (L' := fun j => decide (j < n)) (vs' := vs) n (fun j hj => ⟨by simp [hj]; omega, fun _ => rfl⟩), putsL_text n (Nat.le_refl _) (by omega)]
      have hn : n < l.length := by omega
      rw [List.take_succ_eq_append_getElem hn, putsT_snoc, Nat.zero_add, List.length_take, Nat.min_eq_left (by omega)]
      simp [hn]
    · unfold putsL
      rw [if_neg (by simp; omega)]
      exact putsL_text n (by omega) (by omega)

/-- A region that draws: what each of the first n is asked, in whatever world it may come up; what is behind them. -/
theorem wp_region_grow {id : Nat} {Q : Exit → Act → World → Prop} {a : Act} {w : World} {l : List Oper} (n : Nat) (R : List Stay) (hm : P.follows .mixedOrders = true) (hB : growB l.toArray n a.tmps.size = true)
    (hop : ∀ i, i < n → ∀ o, l[i]? = some o → ∀ (vs : Nat → Value) (w' : World), Below w.heap.size w w' → (∀ j, j < i → Region.waitsFor .any l.toArray i j = true → (R.getD j Stay.free).p (vs j) w') →
      ∀ K : Act → World → Prop, (∀ v w'', Below w'.heap.size w' w'' → (R.getD i Stay.free).p v w'' → K ((putsT (l.take i) vs a 0).put o.dst v) w'') → wpList P #[o] (fun e a w => e = .normal ∧ K a w) [o] (putsT (l.take i) vs a 0) w')
    (hend : ∀ (vs : Nat → Value) (w' : World), Below w.heap.size w w' → (∀ j, j < n → (R.getD j Stay.free).p (vs j) w') → wpList P l.toArray Q (l.drop n) (putsT (l.take n) vs a 0) w') :
    (Code.region id l.toArray true).wp P Q a w := by
  have hn : n < l.length := by
    have h := hB
    simp only [growB, Bool.and_eq_true, decide_eq_true_eq] at h
    simpa using h.1.1.1.1.2
  have hd : Below w.heap.size w w.drew := (Below.refl _ _).drew
  refine wp_region_any hm ?_
  have inv0 : HeadInv .any l.toArray n (Array.replicate l.toArray.size false) :=
    ⟨by simp, fun j oj _ hl => (by rw [getD_replicate_false] at hl; cases hl), fun t _ ht => getD_in (by simpa using ht) (getD_replicate_false _ _)⟩
  have hu : unlisted (Array.replicate l.toArray.size false) n = n := by
    unfold unlisted
    rw [List.filter_eq_self.2 (fun j _ => by rw [getD_replicate_false]; rfl), List.length_range]
  have H := wpAny_grow (P := P) (ops := l.toArray) (n := n) (R := fun j => R.getD j Stay.free) (Q := Q) (a := a) (w0 := w.drew) hB (fun i hi o ho vs w' hb hr => by
      rw [putsL_text n (by omega) (by omega)]
      obtain ⟨o', d, ho', hg, hdo, hds, -⟩ := growB_at hB hi
      obtain rfl : o = o' := Option.some.inj (ho.symm.trans ho')
      have hsz : (putsT (l.take i) vs a 0).tmps.size = a.tmps.size := by rw [← putsL_text n (by omega) (by omega), putsL_size]
      exact grows_of_wp hdo (by rw [hsz]; exact hds) hg (hop i hi o (by simpa using ho) vs w' (hd.trans hb) hr))
    (fun vs w' hb hr => by
      rw [putsL_congr (L' := fun j => decide (j < n)) (vs' := vs) n (fun j hj => ⟨by simp [hj], fun _ => rfl⟩), putsL_text n (Nat.le_refl _) (by omega)]
      exact hend vs w' (hd.trans hb) hr)
    n (Array.replicate l.toArray.size false) (fun _ => undef) w.drew hu inv0 (Below.refl _ _) (fun j hj h => by rw [getD_replicate_false] at h; cases h)
  rw [show n + (l.toArray.size - n) = l.toArray.size by simp; omega] at H
  rw [putsL_congr (L' := fun j => decide (j < 0)) (vs' := fun _ => undef) n (fun j hj => ⟨by rw [getD_replicate_false]; simp, fun _ => rfl⟩), putsL_text n (Nat.zero_le _) (by omega)] at H
  exact H
end

end Go.Proofs.YtiigdcpjelbdjaaGreatDoor

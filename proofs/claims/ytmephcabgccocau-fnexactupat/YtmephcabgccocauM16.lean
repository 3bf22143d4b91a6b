/- The library's Clone of bytes: the same bytes in memory of its own. What the program's UpAt answers. A disk that comes in: its two rows of texts. A store that comes in: its disk's two rows of texts, its numbers, its uploads. -/
import Derived.Lib.SliceRun
import Derived.Test.YtmephcabgccocauM01
import Derived.Test.YtmephcabgccocauM12
import Derived.Test.YtmephcabgccocauM15
import Derived.Test.YtmephcabgccocauM04
import Derived.Deep.CutBlock
import Derived.Test.YtmephcabgccocauM05
import Derived.Lib.SmallJoins
import Derived.OpenShut
import Derived.ChangeOld
import Derived.WalkKit
import Derived.ProofKit
import Derived.Deep.Slices
import Derived.Test.YtmephcabgccocauM09
namespace Go.Proofs.Ytmephcabgccocau
open Go.RowKit
set_option linter.unusedVariables false

set_option maxRecDepth 10000 in
set_option maxHeartbeats 400000 in
theorem cloneB_any (a : Option Addr) (len cap : Nat) (zs : List Int) (w : World) (hs : Seg w a len zs) (hl : len ≤ 1099511627776) :
    Calls Try.prog 32 #[.slice a len cap] w fun e w' => ∃ a' cap', e = .returned (.slice a' len cap') ∧ Owns w' w.heap.size a' len cap' zs ∧ Below w.heap.size w w' := by
  obtain ⟨i0, hi, hz0, hz1, hz2⟩ := info_parts Try.info5
  have qT : ∀ (w : World) (a : Option Addr) (n c n' c' : Nat), (binOp .eql 29 (.slice a n c) (.slice none n' c')).run Try.prog w = .ok (.bool a.isNone) w := fun w a n c n' c' => Lib.run_eql_slice_nil w _ _ a n c n' c' Try.underlying29
  cases a with
  | none =>
    have h0 : len = 0 := by
      rcases hs.2.2 with h | ⟨b, off, h, _⟩
      · exact h
      · cases h
    subst h0
    obtain rfl : zs = [] := List.eq_nil_of_length_eq_zero hs.1
    go_enter Try.func32, Try.ntmps32
    go_wp2
    go_ret
    exact ⟨none, 0, rfl, ⟨World.ownsRow_nil _ _ _ _, by simp⟩, Below.refl _ _⟩
  | some ad =>
    have hzl : zs.length = len := hs.1
    have HC : Hid (∀ j u, (zs.map (Value.int .u8))[j]? = some u → (w.alloc (.cells #[] 5)).cell? (ad.add j) = some u) := by
      intro j u hj
      have hl2 : j < zs.length := by
        by_cases h : j < zs.length
        · exact h
        · rw [List.getElem?_eq_none (by simp; omega)] at hj; cases hj
      rcases hs.2.2 with h | ⟨b, off, h, _⟩
      · omega
      · injection h with h
        subst h
        exact cells_ints (hs.below ((Below.refl _ _).alloc (Nat.le_refl _) _)) j u hj
    have HR : Hid (∀ n ∈ zs, 0 ≤ n ∧ n ≤ 255) := hs.2.1
    have HO1 : Hid ((w.alloc (.cells #[] 5)).ownsRow w.heap.size 5 1 (.slice (some ⟨w.heap.size, 0, none⟩) 0 0) 0 []) := World.ownsRow_lit w #[] 0 (Nat.le_refl _) (Nat.zero_le _) rfl
    clear hs
    go_enter Try.func32, Try.ntmps32
    go_wp2_with (at_builtin; refine wpList_append_own _ rfl _ _ 29 rfl w.heap.size 5 i0 (.int .u8 0) 1 1 Try.underlying29 hi hz0 hz1 hz2 rfl (by decide) (.slice (some ⟨w.heap.size, 0, none⟩) 0 0) 0 [] rfl HO1.out ad len cap (zs.map (Value.int .u8)) rfl (by simp [hzl]) HC.out (ints_one zs) (by unfold maxLen; omega) (by omega) (by simp) ?_; intro v1 w1 hown1 hgrow1 _; refine Hid.out ?_)
    refine hidden ?_
    have HB1 : Hid (Below w.heap.size w w1) := ((Below.refl _ _).alloc (Nat.le_refl _) _).grown hgrow1 (by simp) (by simp [Value.ownBlock])
    obtain ⟨a1, c1, rfl⟩ := shape_of_owns hown1
    have HO2 : Hid (w1.ownsRow w.heap.size 5 1 (.slice a1 len c1) len (zs.map (Value.int .u8))) := by
      show World.ownsRow _ _ _ _ _ _ _
      have h := hown1
      rw [Nat.zero_add] at h
      simpa using h
    have hll : 0 + len = len := Nat.zero_add _
    rw [hll]
    clear hown1 hgrow1
    go_wp2_with fail
    go_ret
    exact ⟨_, _, rfl, ⟨HO2.out, HR.out⟩, HB1.out⟩

end Go.Proofs.Ytmephcabgccocau

namespace Go.Proofs.Ytmephcabgccocau
open Go.RowKit
set_option linter.unusedVariables false

set_option maxRecDepth 10000 in
set_option maxHeartbeats 800000 in
theorem implUpIn_any (a : Option Addr) (n ca : Nat) (a' : Option Addr) (n' ca' : Nat) (ep nx : Int) (ua : Option Addr) (un uc lo : Nat) (l : List UE) (id : ByteArray) (w : World) (hu : UpRow w lo (.slice ua un uc) l) (hun : un = l.length) (hul : un ≤ 1099511627776) :
    Calls Try.prog 18 #[.agg #[.slice a n ca, .slice a' n' ca', .int .i64 ep, .int .i64 nx, .slice ua un uc], .string id] w fun e w' => e = .returned (.pointer (reachUO ua (atU (l.map UE.u) id))) ∧ Below w.heap.size w w' := by
  have HB : Hid (Below w.heap.size w (w.alloc (.cells #[.slice a n ca, .slice a' n' ca', .int .i64 ep, .int .i64 nx, .slice ua un uc] 37))) := (Below.refl _ _).alloc (Nat.le_refl _) _
  have HC : Hid (Calls Try.prog 31 #[.slice ua un uc, .string id] (w.alloc (.cells #[.slice a n ca, .slice a' n' ca', .int .i64 ep, .int .i64 nx, .slice ua un uc] 37)) fun e w' => e = .returned (.pointer (reachUO ua (atU (l.map UE.u) id))) ∧ Below (w.alloc (.cells #[.slice a n ca, .slice a' n' ca', .int .i64 ep, .int .i64 nx, .slice ua un uc] 37)).heap.size (w.alloc (.cells #[.slice a n ca, .slice a' n' ca', .int .i64 ep, .int .i64 nx, .slice ua un uc] 37)) w') := implReachU_any ua un uc lo id l _ (hu.stays HB.out) hun hul
  clear hu hun
  generalize reachUO ua (atU (l.map UE.u) id) = p at *
  go_enter Try.func18, Try.ntmps18
  go_wp2_with fail
  refine HC.out.mono ?_
  rintro _ w1 ⟨rfl, hb1⟩
  have HB1 : Hid (Below w.heap.size w w1) := HB.out.trans (hb1.mono HB.out.size)
  clear hb1
  go_wp2_with fail
  go_ret
  exact ⟨rfl, HB1.out⟩

set_option maxRecDepth 10000 in
set_option maxHeartbeats 800000 in
theorem implCopyUp_any (x : UE) (w : World) (hs : Seg w x.a x.n x.u.zs) (hl : x.n ≤ 1099511627776) :
    Calls Try.prog 19 #[.agg #[.string x.u.id, .int .i64 x.u.want, .slice x.a x.n x.c, .bool x.u.done]] w fun e w' => (∃ A C, e = .returned (.agg #[.string x.u.id, .int .i64 x.u.want, .slice A x.n C, .bool x.u.done]) ∧ Owns w' w.heap.size A x.n C x.u.zs) ∧ Below w.heap.size w w' := by
  obtain ⟨w0, hw0⟩ : ∃ w0, (w.alloc (.cells #[.string x.u.id, .int .i64 x.u.want, .slice x.a x.n x.c, .bool x.u.done] 31)).alloc (.cells #[.string ⟨#[]⟩, .int .i64 0, .slice none 0 0, .bool false] 31) = w0 := ⟨_, rfl⟩
  have HE : Hid ((w.alloc (.cells #[.string x.u.id, .int .i64 x.u.want, .slice x.a x.n x.c, .bool x.u.done] 31)).alloc (.cells #[.string ⟨#[]⟩, .int .i64 0, .slice none 0 0, .bool false] 31) = w0) := hw0
  have HB : Hid (Below w.heap.size w w0) := by show Below _ _ _; rw [← hw0]; exact ((Below.refl _ _).alloc (Nat.le_refl _) _).alloc (by simp) _
  have HQ : Hid (BoxN w0 w.heap.size 31 [.string x.u.id, .int .i64 x.u.want, .slice x.a x.n x.c, .bool x.u.done]) := by show BoxN _ _ _ _; rw [← hw0]; exact (BoxN.new _ _ _).alloc _
  have HR : Hid (BoxN w0 (w.heap.size + 1) 31 [.string ⟨#[]⟩, .int .i64 0, .slice none 0 0, .bool false]) := by
    show BoxN _ _ _ _
    rw [← hw0]
    have := BoxN.new (w.alloc (.cells #[.string x.u.id, .int .i64 x.u.want, .slice x.a x.n x.c, .bool x.u.done] 31)) 31 [.string ⟨#[]⟩, .int .i64 0, .slice none 0 0, .bool false]
    rw [World.size_alloc] at this
    exact this
  have HS : Hid (Seg w0 x.a x.n x.u.zs) := hs.below HB.out
  have hwl : w.heap.size + 1 < w0.heap.size := HR.out.lt
  clear hw0 hs
  have c2 := HQ.out.cell 2 rfl
  go_enter Try.func19, Try.ntmps19
  go_upto_region 1 with fail
  rw [HE.out]
  clear HE
  go_wp2_with fail
  refine (cloneB_any x.a x.n x.c x.u.zs w0 HS.out hl).mono ?_
  rintro _ w1 ⟨A, C, rfl, ho1, hb1⟩
  have hq := HQ.out.stays hb1
  have hr := HR.out.stays hb1
  have HB1 : Hid (Below w.heap.size w w1) := HB.out.trans (hb1.mono HB.out.size)
  have HO1 : Hid (Owns w1 w0.heap.size A x.n C x.u.zs) := ho1
  have b0 := hq.cell 0 rfl
  have b1 := hq.cell 1 rfl
  have b2 := hq.cell 2 rfl
  have b3 := hq.cell 3 rfl
  have z2 := hq.frozen 2
  have a0 := hr.cell 0 rfl
  have a1 := hr.cell 1 rfl
  have a2 := hr.cell 2 rfl
  have a3 := hr.cell 3 rfl
  have f0 := hr.frozen 0
  have f1 := hr.frozen 1
  have f2 := hr.frozen 2
  have f3 := hr.frozen 3
  have hA1 : A.map (·.block) ≠ some w.heap.size := fun e => by have := (ho1.lt _ e).1; omega
  have hA2 : A.map (·.block) ≠ some (w.heap.size + 1) := fun e => by have := (ho1.lt _ e).1; omega
  clear hq hr ho1 hb1 c2 HQ HR
  go_wp2_with fail
  refine bodyPost_ret (v := .agg #[.string x.u.id, .int .i64 x.u.want, .slice A x.n C, .bool x.u.done]) (by simp [results, Try.f19, go_sem, a0, a1, a2, a3]) rfl ?_
  refine ⟨⟨A, C, rfl, ?_⟩, ?_⟩
  · exact (owns_set (owns_set (owns_set (owns_set (owns_set HO1.out hA1) hA2) hA2) hA2) hA2).low (by omega)
  · exact ((((HB1.out.setCell (by dsimp only; omega) _).setCell (by dsimp only; omega) _).setCell (by dsimp only; omega) _).setCell (by dsimp only; omega) _).setCell (by dsimp only; omega) _

set_option maxRecDepth 10000 in
set_option maxHeartbeats 1600000 in
theorem implUpAt_any (a : Option Addr) (n ca : Nat) (a' : Option Addr) (n' ca' : Nat) (ep nx : Int) (ua : Option Addr) (un uc lo : Nat) (l : List UE) (id : ByteArray) (w : World) (hu : UpRow w lo (.slice ua un uc) l) (hun : un = l.length) (hul : un ≤ 1099511627776) (hz : ∀ e ∈ l, e.n ≤ 1099511627776) :
    Calls Try.prog 7 #[.agg #[.slice a n ca, .slice a' n' ca', .int .i64 ep, .int .i64 nx, .slice ua un uc], .string id] w fun e w' => AnsU w.heap.size (l.map UE.u) id e w' ∧ Below w.heap.size w w' := by
  obtain ⟨w0, hw0⟩ : ∃ w0, (w.alloc (.cells #[.slice a n ca, .slice a' n' ca', .int .i64 ep, .int .i64 nx, .slice ua un uc] 37)).alloc (.cells #[.string ⟨#[]⟩, .int .i64 0, .slice none 0 0, .bool false] 31) = w0 := ⟨_, rfl⟩
  have HE : Hid ((w.alloc (.cells #[.slice a n ca, .slice a' n' ca', .int .i64 ep, .int .i64 nx, .slice ua un uc] 37)).alloc (.cells #[.string ⟨#[]⟩, .int .i64 0, .slice none 0 0, .bool false] 31) = w0) := hw0
  have HB : Hid (Below w.heap.size w w0) := by show Below _ _ _; rw [← hw0]; exact ((Below.refl _ _).alloc (Nat.le_refl _) _).alloc (by simp) _
  have HQ : Hid (BoxN w0 w.heap.size 37 [.slice a n ca, .slice a' n' ca', .int .i64 ep, .int .i64 nx, .slice ua un uc]) := by show BoxN _ _ _ _; rw [← hw0]; exact (BoxN.new _ _ _).alloc _
  have HR : Hid (BoxN w0 (w.heap.size + 1) 31 [.string ⟨#[]⟩, .int .i64 0, .slice none 0 0, .bool false]) := by
    show BoxN _ _ _ _
    rw [← hw0]
    have := BoxN.new (w.alloc (.cells #[.slice a n ca, .slice a' n' ca', .int .i64 ep, .int .i64 nx, .slice ua un uc] 37)) 31 [.string ⟨#[]⟩, .int .i64 0, .slice none 0 0, .bool false]
    rw [World.size_alloc] at this
    exact this
  have HU : Hid (∀ W, Below w0.heap.size w0 W → UpRow W lo (.slice ua un uc) l) := fun W hb => (hu.stays HB.out).stays hb
  have HN : Hid (un = l.length) := hun
  have HZ : Hid (∀ e ∈ l, e.n ≤ 1099511627776) := hz
  have hwl : w.heap.size + 1 < w0.heap.size := HR.out.lt
  clear hw0 hu hun hz
  obtain ⟨c0, c1, c2, c3, c4⟩ := (show _ ∧ _ ∧ _ ∧ _ ∧ _ from ⟨HQ.out.cell 0 rfl, HQ.out.cell 1 rfl, HQ.out.cell 2 rfl, HQ.out.cell 3 rfl, HQ.out.cell 4 rfl⟩)
  have HC : Hid (Calls Try.prog 18 #[.agg #[.slice a n ca, .slice a' n' ca', .int .i64 ep, .int .i64 nx, .slice ua un uc], .string id] w0 fun e w' => e = .returned (.pointer (reachUO ua (atU (l.map UE.u) id))) ∧ Below w0.heap.size w0 w') := implUpIn_any a n ca a' n' ca' ep nx ua un uc lo l id w0 (HU.out _ (Below.refl _ _)) HN.out hul
  cases hk : atU (l.map UE.u) id with
  | none =>
    rw [hk, reachUO_none] at HC
    have HG : Hid (gotU (l.map UE.u) id = ⟨⟨#[]⟩, 0, [], false⟩ ∧ atU (l.map UE.u) id = none) := ⟨gotU_none hk, hk⟩
    clear hk
    go_enter Try.func7, Try.ntmps7
    go_upto_region 1 with fail
    rw [HE.out]
    clear HE
    go_wp2_with fail
    refine HC.out.mono ?_
    rintro _ w1 ⟨rfl, hb1⟩
    have hr := HR.out.stays hb1
    have HB1 : Hid (Below w.heap.size w w1) := HB.out.trans (hb1.mono HB.out.size)
    have a0 := hr.cell 0 rfl
    have a1 := hr.cell 1 rfl
    have a2 := hr.cell 2 rfl
    have a3 := hr.cell 3 rfl
    have f0 := hr.frozen 0
    have f1 := hr.frozen 1
    have f2 := hr.frozen 2
    have f3 := hr.frozen 3
    clear hr hb1
    go_wp2_with fail
    refine bodyPost_ret (v := .tuple #[.agg #[.string ⟨#[]⟩, .int .i64 0, .slice none 0 0, .bool false], .bool false]) (by simp [results, Try.f7, go_sem, a0, a1, a2, a3]) rfl ?_
    refine ⟨⟨none, 0, ?_, ?_⟩, ?_⟩
    · rw [HG.out.1, HG.out.2]; rfl
    · rw [HG.out.1]; exact owns_nil _ _
    · exact (((HB1.out.setCell (by dsimp only; omega) _).setCell (by dsimp only; omega) _).setCell (by dsimp only; omega) _).setCell (by dsimp only; omega) _
  | some k =>
    have hkl : k < l.length := by simpa using (atU_is hk).1
    have HG : Hid (gotU (l.map UE.u) id = (l[k]).u ∧ atU (l.map UE.u) id = some k) := ⟨gotU_some hk hkl, hk⟩
    obtain ⟨g, hg, _⟩ := (HU.out _ (Below.refl _ _)).at HN.out hkl
    subst hg
    rw [hk] at HC
    have HC2 : Hid (Calls Try.prog 18 #[.agg #[.slice a n ca, .slice a' n' ca', .int .i64 ep, .int .i64 nx, .slice (some ⟨g, 0, none⟩) un uc], .string id] w0 fun e w' => e = .returned (.pointer (some ⟨g, k * 4, none⟩)) ∧ Below w0.heap.size w0 w') := HC.out
    clear hk HC
    go_enter Try.func7, Try.ntmps7
    go_upto_region 1 with fail
    rw [HE.out]
    clear HE
    go_wp2_with fail
    refine HC2.out.mono ?_
    rintro _ w1 ⟨rfl, hb1⟩
    have HB1 : Hid (Below w.heap.size w w1) := HB.out.trans (hb1.mono HB.out.size)
    have HR1 : Hid (BoxN w1 (w.heap.size + 1) 31 [.string ⟨#[]⟩, .int .i64 0, .slice none 0 0, .bool false]) := HR.out.stays hb1
    obtain ⟨g', hg, g0, g1, g2, g3, _⟩ := (HU.out _ hb1).at HN.out hkl
    injection hg with hg
    injection hg with hg
    subst hg
    have HOx : Hid (Seg w1 (l[k]).a (l[k]).n (l[k]).u.zs) := ((HU.out _ hb1).2.1 _ (List.getElem_mem hkl)).seg
    have hzk : (l[k]).n ≤ 1099511627776 := HZ.out _ (List.getElem_mem hkl)
    have hw1 : w.heap.size + 1 < w1.heap.size := HR1.out.lt
    clear hb1 c0 c1 c2 c3 c4 HC2
    generalize l[k] = x at *
    go_wp2_with fail
    refine (implCopyUp_any x w1 HOx.out hzk).mono ?_
    rintro _ w2 ⟨⟨A, C, rfl, ho2⟩, hb2⟩
    have hr := HR1.out.stays hb2
    have HB2 : Hid (Below w.heap.size w w2) := HB1.out.trans (hb2.mono HB1.out.size)
    have HO2 : Hid (Owns w2 w1.heap.size A x.n C x.u.zs) := ho2
    have hLn : x.u.zs.length = x.n := HOx.out.1
    have a0 := hr.cell 0 rfl
    have a1 := hr.cell 1 rfl
    have a2 := hr.cell 2 rfl
    have a3 := hr.cell 3 rfl
    have f0 := hr.frozen 0
    have f1 := hr.frozen 1
    have f2 := hr.frozen 2
    have f3 := hr.frozen 3
    have hA2 : A.map (·.block) ≠ some (w.heap.size + 1) := fun e => by have := (ho2.lt _ e).1; omega
    clear hr ho2 hb2 g0 g1 g2 g3
    go_wp2_with fail
    refine bodyPost_ret (v := .tuple #[.agg #[.string x.u.id, .int .i64 x.u.want, .slice A x.n C, .bool x.u.done], .bool true]) (by simp [results, Try.f7, go_sem, a0, a1, a2, a3]) rfl ?_
    refine ⟨⟨A, C, ?_, ?_⟩, ?_⟩
    · rw [HG.out.1, HG.out.2, hLn]; rfl
    · rw [HG.out.1, hLn]
      exact (owns_set (owns_set (owns_set (owns_set HO2.out hA2) hA2) hA2) hA2).low (by omega)
    · exact (((HB2.out.setCell (by dsimp only; omega) _).setCell (by dsimp only; omega) _).setCell (by dsimp only; omega) _).setCell (by dsimp only; omega) _

end Go.Proofs.Ytmephcabgccocau

namespace Go.Proofs.Ytmephcabgccocau
open Go.RowKit Go.ChangeShapes Go.WideShapes
set_option linter.unusedVariables false

theorem Strs.opened {H : Type} {enc : TypeId × Value → H} {w : World} {fuel : Nat} {v : Value} {x : DataW H × List MemPlace} (h : DataW.trod enc Try.prog w 0 (fun _ => true) true fuel 22 [v] = some x) :
    ∃ a len cap xs, v = .slice a len cap ∧ len ≤ maxLen ∧ Strs w a len xs := by
  rcases Go.Deep.open_slice1 Try.underlying22 (by kernel_rfl) h with ⟨hcs, _⟩ | ⟨a, len, cap, m, n, V, D, Pl, hcs, _, hl, hm, hmm, _, hc⟩
  · simp at hcs
    exact ⟨none, 0, 0, [], hcs, Nat.zero_le _, rfl, by simp, .inl rfl⟩
  · simp at hcs hmm
    subst hmm
    have hs : ∀ i, i < m → ∃ f : ByteArray, V i = .string f ∧ f.size ≤ maxLen := by
      intro i hi
      obtain ⟨_, h0⟩ := hc i hi
      obtain ⟨s, e0, _, z0⟩ := DataW.trod_string Try.underlying9 h0
      exact ⟨s, by simpa using e0, z0⟩
    refine ⟨some a, len, m, (List.range len).map fun i => if hi : i < m then Classical.choose (hs i hi) else ⟨#[]⟩, hcs, by omega, by simp, ?_, ?_⟩
    · intro f hf
      obtain ⟨i, hi, rfl⟩ := List.mem_map.1 hf
      have him : i < m := by have := List.mem_range.1 hi; omega
      rw [dif_pos him]
      exact (Classical.choose_spec (hs i him)).2
    · by_cases h0 : len = 0
      · exact .inl h0
      · right
        obtain ⟨b, off, spot⟩ := a
        have hspot : spot = none := by simpa [Addr.add] using World.cell?_spot (hc 0 (by omega)).1
        subst hspot
        have key : ∀ i (hi : i < m), w.cell? ⟨b, off + i, none⟩ = some (.string (Classical.choose (hs i hi))) := by
          intro i hi
          have hq := Classical.choose_spec (hs i hi)
          have hcc := (hc i hi).1
          rw [← hq.1]
          by_cases hi0 : i = 0
          · subst hi0
            simpa [Addr.add] using hcc
          · simpa [Addr.add, hi0] using hcc
        refine ⟨b, off, rfl, lt_of_cell (key 0 (by omega)), fun i hi => ?_⟩
        have hil : i < len := by simpa using hi
        have := key i (by omega)
        simpa [show i < m by omega] using this

set_option maxRecDepth 100000 in
theorem disk_opened {H : Type} {enc : TypeId × Value → H} {w : World} {r : Reach} {b0 : Nat} {v : Value} {d : DataW H} {p : List MemPlace} (hv : Value.okWide Try.prog w r b0 24 v) (h : DataW.Trod enc Try.prog w 0 (fun _ => true) true 24 v d p) :
    ∃ (a : Option Addr) (n ca : Nat) (xs : List ByteArray) (a' : Option Addr) (n' ca' : Nat) (ys : List ByteArray), v = .agg #[.slice a n ca, .slice a' n' ca'] ∧ n ≤ maxLen ∧ n' ≤ maxLen ∧ Strs w a n xs ∧ Strs w a' n' ys := by
  obtain ⟨v0, v1, y0, y1, m, rfl, _, _, h0, h1⟩ := Go.Joins.open_agg2 Try.underlying24 (by kernel_rfl) (by kernel_rfl) hv h
  obtain ⟨a, n, ca, xs, rfl, hl, hx⟩ := Strs.opened h0
  obtain ⟨a', n', ca', ys, rfl, hl', hy⟩ := Strs.opened h1
  exact ⟨a, n, ca, xs, a', n', ca', ys, rfl, hl, hl', hx, hy⟩

end Go.Proofs.Ytmephcabgccocau

namespace Go.Proofs.Ytmephcabgccocau
open Go.RowKit Go.ChangeShapes Go.WideShapes Go.Joins Go.Deep
set_option linter.unusedVariables false

theorem array5 {α : Type} {a : Array α} (h : a.size = 5) : ∃ x0 x1 x2 x3 x4, a = #[x0, x1, x2, x3, x4] := by
  obtain ⟨l⟩ := a
  match l, h with
  | [x0, x1, x2, x3, x4], _ => exact ⟨x0, x1, x2, x3, x4, rfl⟩

set_option maxRecDepth 100000 in
theorem disk_cells {H : Type} {enc : TypeId × Value → H} {w : World} {n : Nat} {v0 v1 : Value} {x : DataW H × List MemPlace} (h : DataW.trod enc Try.prog w 0 (fun _ => true) true n 24 [v0, v1] = some x) :
    ∃ (a : Option Addr) (n ca : Nat) (xs : List ByteArray) (a' : Option Addr) (n' ca' : Nat) (ys : List ByteArray), v0 = .slice a n ca ∧ v1 = .slice a' n' ca' ∧ n ≤ maxLen ∧ n' ≤ maxLen ∧ Strs w a n xs ∧ Strs w a' n' ys := by
  obtain ⟨xs, m, _, _, hl, hlen, hg⟩ := DataW.trod_struct Try.underlying24 h
  have ks : Try.prog.cellsOf 22 = 1 := by kernel_rfl
  match xs, hlen with
  | [y0, y1], _ =>
    have g0 := hg 0 _ rfl
    have g1 := hg 1 _ rfl
    simp [ks] at g0 g1
    obtain ⟨a, n, ca, xs, rfl, hla, hx⟩ := Strs.opened g0
    obtain ⟨a', n', ca', ys, rfl, hl', hy⟩ := Strs.opened g1
    exact ⟨a, n, ca, xs, a', n', ca', ys, rfl, rfl, hla, hl', hx, hy⟩

set_option maxRecDepth 100000 in
theorem store_opened {H : Type} {enc : TypeId × Value → H} {w : World} {r : Reach} {b0 : Nat} {v : Value} {d : DataW H} {p : List MemPlace} (hv : Value.okWide Try.prog w r b0 27 v) (h : DataW.Trod enc Try.prog w 0 (fun _ => true) true 27 v d p) :
    ∃ (a : Option Addr) (n ca : Nat) (xs : List ByteArray) (a' : Option Addr) (n' ca' : Nat) (ys : List ByteArray) (ep nx : Int) (ua : Option Addr) (un uc : Nat) (l : List UE), v = .agg #[.slice a n ca, .slice a' n' ca', .int .i64 ep, .int .i64 nx, .slice ua un uc] ∧ n ≤ maxLen ∧ n' ≤ maxLen ∧ un ≤ maxLen ∧ Strs w a n xs ∧ Strs w a' n' ys ∧ UpsI w ua un l ∧ (Lit.int .i64 ep).wf = true ∧ (Lit.int .i64 nx).wf = true := by
  have hC : Try.prog.cellsOf 27 = 5 := by kernel_rfl
  have kd : Try.prog.cellsOf 24 = 2 := by kernel_rfl
  have k3 : Try.prog.cellsOf 3 = 1 := by kernel_rfl
  have ku : Try.prog.cellsOf 25 = 1 := by kernel_rfl
  obtain ⟨cs, rfl, hsz⟩ := okWide_struct Try.underlying27 hv
  obtain ⟨c0, c1, c2, c3, c4, rfl⟩ := array5 (hsz.trans hC)
  obtain ⟨fuel, hf⟩ := h
  obtain ⟨xs, m, _, _, hl, hlen, hg⟩ := DataW.trod_struct Try.underlying27 hf
  match xs, hlen with
  | [y0, y1, y2, y3], _ =>
    have g0 := hg 0 _ rfl
    have g1 := hg 1 _ rfl
    have g2 := hg 2 _ rfl
    have g3 := hg 3 _ rfl
    simp [Value.cells, kd, k3, ku] at g0 g1 g2 g3
    obtain ⟨a, n, ca, xs, a', n', ca', ys, rfl, rfl, hla, hl', hx, hy⟩ := disk_cells g0
    obtain ⟨ep, e1, _, w1⟩ := DataW.trod_int Try.underlying3 g1
    obtain ⟨nx, e2, _, w2⟩ := DataW.trod_int Try.underlying3 g2
    obtain ⟨ua, un, uc, l, e3, hlu, hu⟩ := UpsI.opened g3
    simp only [List.cons.injEq, and_true] at e1 e2
    subst e1 e2 e3
    exact ⟨a, n, ca, xs, a', n', ca', ys, ep, nx, ua, un, uc, l, rfl, hla, hl', hlu, hx, hy, hu, w1, w2⟩

end Go.Proofs.Ytmephcabgccocau

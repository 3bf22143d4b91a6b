/- What the specification answers to who asks, and of what a store refused: an answer that is right. An answer that is a disk: its rows lie in memory from base on, and apart. No program in it. An append onto an empty literal, of whatever may be appended: nothing of what was there changes, and where the row lies behind it. No program in it. -/
import Derived.Test.YtlkgopoicpnacaaGreatDoorM17
import Derived.Test.YtlkgopoicpnacaaGreatDoorM19
import Derived.Test.YtlkgopoicpnacaaGreatDoorM17
import Derived.Deep.CutBlock
import Derived.Test.YtlkgopoicpnacaaGreatDoorM05
import Derived.Deep.AppendSrc
import Derived.Test.YtlkgopoicpnacaaGreatDoorM04
import Derived.Test.YtlkgopoicpnacaaGreatDoorM01
import Derived.Deep.RegionLaw
namespace Go.Proofs.YtlkgopoicpnacaaGreatDoor
open Go.RowKit
set_option linter.unusedVariables false

set_option maxRecDepth 10000 in
set_option maxHeartbeats 1600000 in
theorem specLooks_ok (a : Option Addr) (n ca : Nat) (a' : Option Addr) (n' ca' : Nat) (ep nx : Int) (ua : Option Addr) (un uc lo : Nat) (l : List UE) (op : Int) (id : ByteArray) (rn : Int) (w : World) (hu : UpRow w lo (.slice ua un uc) l) (hun : un = l.length) (hul : un ≤ 1099511627776) (hz : ∀ e ∈ l, e.n ≤ 1099511627776) (hg : ((gotU (l.map UE.u) id).zs.length : Int) ≤ 1000000000) :
    Calls Tryz.prog 87 #[.agg #[.slice a n ca, .slice a' n' ca', .int .i64 ep, .int .i64 nx, .slice ua un uc], .agg #[.int .i64 op, .string id, .int .i64 rn]] w fun e w' => (∃ st off, e = .returned (.agg #[.int .i64 st, .int .i64 off]) ∧ respB st off = true) ∧ Below w.heap.size w w' := by
  obtain ⟨w0, hw0⟩ : ∃ w0, ((w.alloc (.cells #[.slice a n ca, .slice a' n' ca', .int .i64 ep, .int .i64 nx, .slice ua un uc] 29)).alloc (.cells #[.int .i64 op, .string id, .int .i64 rn] 74)).alloc (.cells #[.int .i64 0, .int .i64 0] 52) = w0 := ⟨_, rfl⟩
  have HE : Hid (((w.alloc (.cells #[.slice a n ca, .slice a' n' ca', .int .i64 ep, .int .i64 nx, .slice ua un uc] 29)).alloc (.cells #[.int .i64 op, .string id, .int .i64 rn] 74)).alloc (.cells #[.int .i64 0, .int .i64 0] 52) = w0) := hw0
  have HB : Hid (Below w.heap.size w w0) := by show Below _ _ _; rw [← hw0]; exact ((((Below.refl _ _).alloc (by exact Nat.le_refl _) _).alloc (by simp only [World.size_alloc]; omega) _).alloc (by simp only [World.size_alloc]; omega) _)
  have HQ0 : Hid (BoxN w0 (w.heap.size) 29 [.slice a n ca, .slice a' n' ca', .int .i64 ep, .int .i64 nx, .slice ua un uc]) := by
    show BoxN _ _ _ _
    rw [← hw0]
    have := BoxN.new (w) 29 [.slice a n ca, .slice a' n' ca', .int .i64 ep, .int .i64 nx, .slice ua un uc]
    exact ((this.alloc _).alloc _)
  have HQ1 : Hid (BoxN w0 (w.heap.size + 1) 74 [.int .i64 op, .string id, .int .i64 rn]) := by
    show BoxN _ _ _ _
    rw [← hw0]
    have := BoxN.new (w.alloc (.cells #[.slice a n ca, .slice a' n' ca', .int .i64 ep, .int .i64 nx, .slice ua un uc] 29)) 74 [.int .i64 op, .string id, .int .i64 rn]
    simp only [World.size_alloc] at this
    exact (this.alloc _)
  have HQ2 : Hid (BoxN w0 (w.heap.size + 2) 52 [.int .i64 0, .int .i64 0]) := by
    show BoxN _ _ _ _
    rw [← hw0]
    have := BoxN.new ((w.alloc (.cells #[.slice a n ca, .slice a' n' ca', .int .i64 ep, .int .i64 nx, .slice ua un uc] 29)).alloc (.cells #[.int .i64 op, .string id, .int .i64 rn] 74)) 52 [.int .i64 0, .int .i64 0]
    simp only [World.size_alloc] at this
    exact this
  have HC : Hid (Calls Tryz.prog 55 #[.agg #[.slice a n ca, .slice a' n' ca', .int .i64 ep, .int .i64 nx, .slice ua un uc], .string id] w0 fun e w' => AnsU w0.heap.size (l.map UE.u) id e w' ∧ Below w0.heap.size w0 w') := specUpAt_any a n ca a' n' ca' ep nx ua un uc lo l id w0 (hu.stays HB.out) hun hul hz
  have hsz : w.heap.size + 2 < w0.heap.size := HQ2.out.lt
  have HG : Hid (((gotU (l.map UE.u) id).zs.length : Int) ≤ 1000000000) := hg
  clear hw0 hu hun hz hg
  have q0_0 := HQ0.out.cell 0 rfl
  have q0_1 := HQ0.out.cell 1 rfl
  have q0_2 := HQ0.out.cell 2 rfl
  have q0_3 := HQ0.out.cell 3 rfl
  have q0_4 := HQ0.out.cell 4 rfl
  have q1_0 := HQ1.out.cell 0 rfl
  have q1_1 := HQ1.out.cell 1 rfl
  have q1_2 := HQ1.out.cell 2 rfl
  go_enter Tryz.func87, Tryz.ntmps87
  go_upto_region 1 with fail
  rw [HE.out]
  clear HE
  go_wp2_with fail
  refine HC.out.mono ?_
  rintro e w1 ⟨⟨UA, UC, rfl, hown⟩, hb1⟩
  clear HC hown
  clear q0_0
  clear q0_1
  clear q0_2
  clear q0_3
  clear q0_4
  clear q1_0
  clear q1_1
  clear q1_2
  generalize gotU (l.map UE.u) id = G at *
  generalize (atU (l.map UE.u) id).isSome = OKB at *
  obtain ⟨gid, gw, gz, gd⟩ := G
  dsimp only at *
  have HG2 : Hid ((gz.length : Int) ≤ 1000000000) := HG.out
  clear HG
  generalize gz.length = Z at *
  obtain ⟨w2, hw2⟩ : ∃ w2, w1.alloc (.cells #[.string gid, .int .i64 gw, .slice UA Z UC, .bool gd] 64) = w2 := ⟨_, rfl⟩
  have HE2 : Hid (w1.alloc (.cells #[.string gid, .int .i64 gw, .slice UA Z UC, .bool gd] 64) = w2) := hw2
  have hb2 : Below w0.heap.size w0 w2 := by rw [← hw2]; exact hb1.alloc hb1.size _
  have HB2 : Hid (Below w.heap.size w w2) := HB.out.trans (hb2.mono (by omega))
  have HU : Hid (BoxN w2 w1.heap.size 64 [.string gid, .int .i64 gw, .slice UA Z UC, .bool gd]) := by show BoxN _ _ _ _; rw [← hw2]; exact BoxN.new _ _ _
  have HR0 : Hid (BoxN w2 (w.heap.size) 29 [.slice a n ca, .slice a' n' ca', .int .i64 ep, .int .i64 nx, .slice ua un uc]) := HQ0.out.stays hb2
  have HR1 : Hid (BoxN w2 (w.heap.size + 1) 74 [.int .i64 op, .string id, .int .i64 rn]) := HQ1.out.stays hb2
  have HR2 : Hid (BoxN w2 (w.heap.size + 2) 52 [.int .i64 0, .int .i64 0]) := HQ2.out.stays hb2
  have q1_0 := HR1.out.cell 0 rfl
  have q1_1 := HR1.out.cell 1 rfl
  have q1_2 := HR1.out.cell 2 rfl
  have q2_0 := HR2.out.cell 0 rfl
  have q2_1 := HR2.out.cell 1 rfl
  have f2_0 := HR2.out.frozen 0
  have f2_1 := HR2.out.frozen 1
  have u2 := HU.out.cell 2 rfl
  have u3 := HU.out.cell 3 rfl
  have hbs : w0.heap.size ≤ w1.heap.size := hb1.size
  clear hw2 hb1 hb2 HB HU HQ0 HQ1 HQ2
  go_upto_block 0 with fail
  rw [HE2.out]
  clear HE2
  generalize w1.heap.size = ub at *
  cases OKB with
  | false =>
    go_wp2_with fail
    refine bodyPost_ret (v := .agg #[.int .i64 404, .int .i64 (-1)]) (by simp [results, Tryz.f87, go_sem, q2_0, q2_1]) rfl ?_
    exact ⟨⟨_, _, rfl, respB_of (by omega) (by have := HG2.out; omega)⟩, ((HB2.out.setCell (by dsimp only; omega) _).setCell (by dsimp only; omega) _)⟩
  | true =>
    by_cases hop : op = 5
    · cases gd with
      | false =>
        subst hop
        go_wp2_with fail
        refine bodyPost_ret (v := .agg #[.int .i64 409, .int .i64 (Z : Int)]) (by simp [results, Tryz.f87, go_sem, q2_0, q2_1]) rfl ?_
        exact ⟨⟨_, _, rfl, respB_of (by omega) (by have := HG2.out; omega)⟩, ((HB2.out.setCell (by dsimp only; omega) _).setCell (by dsimp only; omega) _)⟩
      | true =>
        subst hop
        go_wp2_with fail
        refine bodyPost_ret (v := .agg #[.int .i64 200, .int .i64 (Z : Int)]) (by simp [results, Tryz.f87, go_sem, q2_0, q2_1]) rfl ?_
        exact ⟨⟨_, _, rfl, respB_of (by omega) (by have := HG2.out; omega)⟩, ((HB2.out.setCell (by dsimp only; omega) _).setCell (by dsimp only; omega) _)⟩
    · have hopb : (op == 5) = false := by simpa using hop
      go_wp2_with fail
      refine bodyPost_ret (v := .agg #[.int .i64 200, .int .i64 (Z : Int)]) (by simp [results, Tryz.f87, go_sem, q2_0, q2_1]) rfl ?_
      exact ⟨⟨_, _, rfl, respB_of (by omega) (by have := HG2.out; omega)⟩, ((HB2.out.setCell (by dsimp only; omega) _).setCell (by dsimp only; omega) _)⟩

set_option maxRecDepth 10000 in
set_option maxHeartbeats 1600000 in
theorem specBad_ok (a : Option Addr) (n ca : Nat) (a' : Option Addr) (n' ca' : Nat) (ep nx : Int) (ua : Option Addr) (un uc lo : Nat) (l : List UE) (id : ByteArray) (code : Int) (w : World) (hu : UpRow w lo (.slice ua un uc) l) (hun : un = l.length) (hul : un ≤ 1099511627776) (hz : ∀ e ∈ l, e.n ≤ 1099511627776) (hg : ((gotU (l.map UE.u) id).zs.length : Int) ≤ 1000000000) :
    Calls Tryz.prog 88 #[.agg #[.slice a n ca, .slice a' n' ca', .int .i64 ep, .int .i64 nx, .slice ua un uc], .string id, .int .i64 code] w fun e w' => (∃ st off, e = .returned (.agg #[.int .i64 st, .int .i64 off]) ∧ respB st off = true) ∧ Below w.heap.size w w' := by
  obtain ⟨w0, hw0⟩ : ∃ w0, (w.alloc (.cells #[.slice a n ca, .slice a' n' ca', .int .i64 ep, .int .i64 nx, .slice ua un uc] 29)).alloc (.cells #[.int .i64 0, .int .i64 0] 52) = w0 := ⟨_, rfl⟩
  have HE : Hid ((w.alloc (.cells #[.slice a n ca, .slice a' n' ca', .int .i64 ep, .int .i64 nx, .slice ua un uc] 29)).alloc (.cells #[.int .i64 0, .int .i64 0] 52) = w0) := hw0
  have HB : Hid (Below w.heap.size w w0) := by show Below _ _ _; rw [← hw0]; exact (((Below.refl _ _).alloc (by exact Nat.le_refl _) _).alloc (by simp only [World.size_alloc]; omega) _)
  have HQ0 : Hid (BoxN w0 (w.heap.size) 29 [.slice a n ca, .slice a' n' ca', .int .i64 ep, .int .i64 nx, .slice ua un uc]) := by
    show BoxN _ _ _ _
    rw [← hw0]
    have := BoxN.new (w) 29 [.slice a n ca, .slice a' n' ca', .int .i64 ep, .int .i64 nx, .slice ua un uc]
    exact (this.alloc _)
  have HQ1 : Hid (BoxN w0 (w.heap.size + 1) 52 [.int .i64 0, .int .i64 0]) := by
    show BoxN _ _ _ _
    rw [← hw0]
    have := BoxN.new (w.alloc (.cells #[.slice a n ca, .slice a' n' ca', .int .i64 ep, .int .i64 nx, .slice ua un uc] 29)) 52 [.int .i64 0, .int .i64 0]
    simp only [World.size_alloc] at this
    exact this
  have HC : Hid (Calls Tryz.prog 55 #[.agg #[.slice a n ca, .slice a' n' ca', .int .i64 ep, .int .i64 nx, .slice ua un uc], .string id] w0 fun e w' => AnsU w0.heap.size (l.map UE.u) id e w' ∧ Below w0.heap.size w0 w') := specUpAt_any a n ca a' n' ca' ep nx ua un uc lo l id w0 (hu.stays HB.out) hun hul hz
  have hsz : w.heap.size + 1 < w0.heap.size := HQ1.out.lt
  have HG : Hid (((gotU (l.map UE.u) id).zs.length : Int) ≤ 1000000000) := hg
  clear hw0 hu hun hz hg
  have q0_0 := HQ0.out.cell 0 rfl
  have q0_1 := HQ0.out.cell 1 rfl
  have q0_2 := HQ0.out.cell 2 rfl
  have q0_3 := HQ0.out.cell 3 rfl
  have q0_4 := HQ0.out.cell 4 rfl
  go_enter Tryz.func88, Tryz.ntmps88
  go_upto_region 1 with fail
  rw [HE.out]
  clear HE
  go_wp2_with fail
  refine HC.out.mono ?_
  rintro e w1 ⟨⟨UA, UC, rfl, hown⟩, hb1⟩
  clear HC hown
  clear q0_0
  clear q0_1
  clear q0_2
  clear q0_3
  clear q0_4
  generalize gotU (l.map UE.u) id = G at *
  generalize (atU (l.map UE.u) id).isSome = OKB at *
  obtain ⟨gid, gw, gz, gd⟩ := G
  dsimp only at *
  have HG2 : Hid ((gz.length : Int) ≤ 1000000000) := HG.out
  clear HG
  generalize gz.length = Z at *
  obtain ⟨w2, hw2⟩ : ∃ w2, w1.alloc (.cells #[.string gid, .int .i64 gw, .slice UA Z UC, .bool gd] 64) = w2 := ⟨_, rfl⟩
  have HE2 : Hid (w1.alloc (.cells #[.string gid, .int .i64 gw, .slice UA Z UC, .bool gd] 64) = w2) := hw2
  have hb2 : Below w0.heap.size w0 w2 := by rw [← hw2]; exact hb1.alloc hb1.size _
  have HB2 : Hid (Below w.heap.size w w2) := HB.out.trans (hb2.mono (by omega))
  have HU : Hid (BoxN w2 w1.heap.size 64 [.string gid, .int .i64 gw, .slice UA Z UC, .bool gd]) := by show BoxN _ _ _ _; rw [← hw2]; exact BoxN.new _ _ _
  have HR0 : Hid (BoxN w2 (w.heap.size) 29 [.slice a n ca, .slice a' n' ca', .int .i64 ep, .int .i64 nx, .slice ua un uc]) := HQ0.out.stays hb2
  have HR1 : Hid (BoxN w2 (w.heap.size + 1) 52 [.int .i64 0, .int .i64 0]) := HQ1.out.stays hb2
  have q1_0 := HR1.out.cell 0 rfl
  have q1_1 := HR1.out.cell 1 rfl
  have f1_0 := HR1.out.frozen 0
  have f1_1 := HR1.out.frozen 1
  have u2 := HU.out.cell 2 rfl
  have u3 := HU.out.cell 3 rfl
  have hbs : w0.heap.size ≤ w1.heap.size := hb1.size
  clear hw2 hb1 hb2 HB HU HQ0 HQ1
  go_upto_block 0 with fail
  rw [HE2.out]
  clear HE2
  generalize w1.heap.size = ub at *
  by_cases h2 : code = 2
  · subst h2
    go_wp2_with fail
    refine bodyPost_ret (v := .agg #[.int .i64 404, .int .i64 (-1)]) (by simp [results, Tryz.f88, go_sem, q1_0, q1_1]) rfl ?_
    exact ⟨⟨_, _, rfl, respB_of (by omega) (by have := HG2.out; omega)⟩, ((HB2.out.setCell (by dsimp only; omega) _).setCell (by dsimp only; omega) _)⟩
  have hb2 : (code == 2) = false := by simpa using h2
  by_cases h3 : code = 3
  · subst h3
    go_wp2_with fail
    refine bodyPost_ret (v := .agg #[.int .i64 409, .int .i64 (Z : Int)]) (by simp [results, Tryz.f88, go_sem, q1_0, q1_1]) rfl ?_
    exact ⟨⟨_, _, rfl, respB_of (by omega) (by have := HG2.out; omega)⟩, ((HB2.out.setCell (by dsimp only; omega) _).setCell (by dsimp only; omega) _)⟩
  have hb3 : (code == 3) = false := by simpa using h3
  by_cases h4 : code = 4
  · subst h4
    go_wp2_with fail
    refine bodyPost_ret (v := .agg #[.int .i64 409, .int .i64 (Z : Int)]) (by simp [results, Tryz.f88, go_sem, q1_0, q1_1]) rfl ?_
    exact ⟨⟨_, _, rfl, respB_of (by omega) (by have := HG2.out; omega)⟩, ((HB2.out.setCell (by dsimp only; omega) _).setCell (by dsimp only; omega) _)⟩
  have hb4 : (code == 4) = false := by simpa using h4
  by_cases h5 : code = 5
  · subst h5
    go_wp2_with fail
    refine bodyPost_ret (v := .agg #[.int .i64 507, .int .i64 (-1)]) (by simp [results, Tryz.f88, go_sem, q1_0, q1_1]) rfl ?_
    exact ⟨⟨_, _, rfl, respB_of (by omega) (by have := HG2.out; omega)⟩, ((HB2.out.setCell (by dsimp only; omega) _).setCell (by dsimp only; omega) _)⟩
  have hb5 : (code == 5) = false := by simpa using h5
  by_cases h6 : code = 6
  · subst h6
    go_wp2_with fail
    refine bodyPost_ret (v := .agg #[.int .i64 422, .int .i64 (-1)]) (by simp [results, Tryz.f88, go_sem, q1_0, q1_1]) rfl ?_
    exact ⟨⟨_, _, rfl, respB_of (by omega) (by have := HG2.out; omega)⟩, ((HB2.out.setCell (by dsimp only; omega) _).setCell (by dsimp only; omega) _)⟩
  have hb6 : (code == 6) = false := by simpa using h6
  go_wp2_with fail
  refine bodyPost_ret (v := .agg #[.int .i64 400, .int .i64 (-1)]) (by simp [results, Tryz.f88, go_sem, q1_0, q1_1]) rfl ?_
  exact ⟨⟨_, _, rfl, respB_of (by omega) (by have := HG2.out; omega)⟩, ((HB2.out.setCell (by dsimp only; omega) _).setCell (by dsimp only; omega) _)⟩

end Go.Proofs.YtlkgopoicpnacaaGreatDoor

namespace Go.Proofs.YtlkgopoicpnacaaGreatDoor
open Go.RowKit
set_option linter.unusedVariables false

def AnsD (base : Nat) (X Y : List ByteArray) (v : Value) (w' : World) : Prop :=
  ∃ A C A' C', v = .agg #[.slice A X.length C, .slice A' Y.length C'] ∧ OwnSt w' base (.slice A X.length C) X.length X ∧ OwnSt w' base (.slice A' Y.length C') Y.length Y ∧ ∀ q, A.map (·.block) = some q → A'.map (·.block) ≠ some q

theorem AnsD.mk' {base : Nat} {X Y : List ByteArray} {w' : World} {A A' : Option Addr} {n C n' C' : Nat} (hn : X.length = n) (hn' : Y.length = n') (h1 : OwnSt w' base (.slice A n C) n X) (h2 : OwnSt w' base (.slice A' n' C') n' Y) (hne : ∀ q, A.map (·.block) = some q → A'.map (·.block) ≠ some q) : AnsD base X Y (.agg #[.slice A n C, .slice A' n' C']) w' := by
  subst hn hn'
  exact ⟨A, C, A', C', rfl, h1, h2, hne⟩

/-- Texts as what is appended. -/
theorem Strs.src {w : World} {a : Option Addr} {n c : Nat} {l : List ByteArray} (h : Strs w a n l) : Src Tryz.prog 1 24 (.slice a n c) n (scells l) w := by
  cases a with
  | none =>
    have h0 := h.none_nil rfl
    subst h0
    have : l = [] := List.eq_nil_of_length_eq_zero h.1
    subst this
    exact Src.ofNil _ Tryz.underlying24 c
  | some ad => exact Src.ofSlice _ Tryz.underlying24 ad n c _ (by rw [scells_len, h.1, Nat.mul_one]) (h.cells ad rfl) (scells_one l)

theorem cellD_kept {Y : World} {b b' i k : Nat} {v u : Value} (hne : b ≠ b') (h : Y.cell? ⟨b, i, none⟩ = some v) : (Y.setCell ⟨b', k, none⟩ u).cell? ⟨b, i, none⟩ = some v := by
  have e := set_block_ne Y b b' k u hne
  simp only [World.cell?] at h ⊢
  rw [e]
  exact h

end Go.Proofs.YtlkgopoicpnacaaGreatDoor

namespace Go.Proofs.YtlkgopoicpnacaaGreatDoor
open Go.RowKit
set_option linter.unusedVariables false

theorem run_append_lit {P : Program} (w : World) (base : Nat) (t tx ty e : TypeId) (i : TypeInfo) (z : Value) (size bytes : Nat) (ht : P.underlying t = some (.slice e)) (hi : P.info? e = some i) (hz : i.zero = some z)
    (hsize : i.size = size) (hby : i.bytes = bytes) (hzs : z.cells.size = size) (hsz : 0 < size)
    (g : Nat) (hg : w.heap[g]? = some (.cells #[] e (0, 0))) (hbg : base ≤ g)
    (x : Value) (m : Nat) (news : List Value) (hs : Src P size tx x m news w)
    (h63 : m ≤ maxLen) (hbytes : m * bytes ≤ 140737488355328) (hbase : base ≤ w.heap.size) :
    ∃ g' c' w', (Builtin.append_ #[t, tx] ty #[.slice (some ⟨g, 0, none⟩) 0 0, x]).run P w = .ok (.slice (some ⟨g', 0, none⟩) m c') w' ∧ w'.ownsRow base e size (.slice (some ⟨g', 0, none⟩) m c') m news ∧ Below w.heap.size w w' ∧ (g' = g ∨ w.heap.size ≤ g') := by
  subst hsize
  subst hby
  have hsmall : m ≤ 9223372036854775807 := by simp only [maxLen] at h63; omega
  have hl := hs.newsLen
  by_cases hm : m = 0
  · subst hm
    obtain rfl : news = [] := List.eq_nil_of_length_eq_zero (by simpa using hl)
    have hr := run_room_any w t tx ty e i ht hi g 0 0 #[] hg x 0 [] hs (by omega) (by simp)
    have hh := setRow_heap w g #[] #[] e (0, 0) hg
    refine ⟨g, 0, w.setRow g #[], by simpa using hr, ⟨by simp, .inr ⟨g, 0, #[], rfl, hbg, hh, Nat.le_refl _, Nat.zero_le _, by simp, by simp⟩⟩, ⟨rfl, rfl, rfl, by simp, fun k hk => ?_⟩, .inl rfl⟩
    by_cases hkg : k = g
    · subst hkg
      rw [hh, hg]
    · exact setRow_other w g k _ hkg
  · have hold := run_firstCells_some (P := P) w.drew i.size 0 ⟨g, 0, none⟩ 0 0 [] (by simp) (by simp)
    have hr := run_append_grow_src (P := P) w t tx ty e i z ht hi hz (some ⟨g, 0, none⟩) 0 0 [] hold x m news hs (by omega) (by omega) (growslice_fits (by omega) (by simpa using hbytes))
    have hge := grownCap_ge w (0 + m) 0 e
    have hcm' : grownCap w (0 + m) 0 e ≤ maxLen := grownCap_le_maxLen w (0 + m) 0 e (by omega)
    rw [Nat.zero_add] at hr hge hcm'
    refine ⟨_, _, _, hr, ⟨hl, .inr ⟨w.heap.size, _, _, rfl, hbase, heap_alloc_new w.drew _, hge, hcm', ?_, ?_⟩⟩, ⟨rfl, rfl, rfl, by simp, fun k hk => heap_alloc_old w.drew _ hk⟩, .inr (Nat.le_refl _)⟩
    · simp only [Array.size_append, List.size_toArray, size_zeroCells, hzs, List.nil_append, hl, ← Nat.add_mul]
      congr 1
      omega
    · simp only [Array.toList_append, List.nil_append]
      rw [← hl]
      exact List.take_left

theorem step_append_lit {P : Program} {ops : Array Oper} {o : Oper} {a : Act} {w : World} {K : Act → World → Prop} {Q : Exit → Act → World → Prop} {E : Prop} (hgd : o.guard = none) (s x : Operand) (t tx : TypeId)
    (ho : o.op = .call { callee := .builtin .append, args := #[s, x], argTypes := #[t, tx] })
    (base : Nat) (e : TypeId) (i : TypeInfo) (z : Value) (size bytes : Nat) (ht : P.underlying t = some (.slice e)) (hi : P.info? e = some i) (hz : i.zero = some z)
    (hsize : i.size = size) (hby : i.bytes = bytes) (hzs : z.cells.size = size) (hsz : 0 < size)
    (g : Nat) (hs : a.eval s = .slice (some ⟨g, 0, none⟩) 0 0) (hg : w.heap[g]? = some (.cells #[] e (0, 0))) (hbg : base ≤ g)
    (u : Value) (m : Nat) (news : List Value) (hx : a.eval x = u) (hsrc : Src P size tx u m news w)
    (h63 : m ≤ maxLen) (hbytes : m * bytes ≤ 140737488355328) (hbase : base ≤ w.heap.size)
    (h : ∀ g' c' w', w'.ownsRow base e size (.slice (some ⟨g', 0, none⟩) m c') m news → Below w.heap.size w w' → (g' = g ∨ w.heap.size ≤ g') → K (a.put o.dst (.slice (some ⟨g', 0, none⟩) m c')) w') :
    if Region.wanted o (yielded ops a.tmps) = true then Oper.wp P o a w K Q else E := by
  have hw : Region.wanted o (yielded ops a.tmps) = true := by simp [Region.wanted, hgd]
  rw [if_pos hw]
  obtain ⟨g', c', w', hr, h2, h3, h4⟩ := run_append_lit (P := P) w base t tx o.type e i z size bytes ht hi hz hsize hby hzs hsz g hg hbg u m news hsrc h63 hbytes hbase
  unfold Oper.wp execOp
  simp only [ho, resolve, invoke, builtin, Sem.run_bind, Sem.run_pure, Result.andThen_ok, List.map_toArray, List.map_cons, List.map_nil, hs, hx, hr]
  exact h g' c' w' h2 h3 h4

end Go.Proofs.YtlkgopoicpnacaaGreatDoor

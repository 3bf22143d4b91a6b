/- Uploads held against themselves. Stores held against themselves. How great the uploads of a store that was handed in are. Answers that wait: three numbers each; rows of them in memory, rows that a call has made. No statement of the program but its table of types. An answer held against itself. -/
import Derived.Test.YtogopmngbjkcjavGreatDoorM08
import Derived.Test.YtogopmngbjkcjavGreatDoorM27
import Derived.Test.YtogopmngbjkcjavGreatDoorM07
import Derived.Test.YtogopmngbjkcjavGreatDoorM29
import Derived.Deep.CutBlock
import Derived.Test.YtogopmngbjkcjavGreatDoorM01
import Derived.Test.YtogopmngbjkcjavGreatDoorM12
import Derived.WalkKit
namespace Go.Proofs.YtogopmngbjkcjavGreatDoor
open Go.RowKit
set_option linter.unusedVariables false

set_option maxRecDepth 10000 in
set_option maxHeartbeats 1600000 in
theorem eqUp_same (x y : UE) (w : World) (hx : Seg w x.a x.n x.u.zs) (hy : Seg w y.a y.n y.u.zs) (hu : x.u = y.u) (hl : x.n ≤ 1099511627776) :
    Calls Tryz.prog 126 #[.agg #[.string x.u.id, .int .i64 x.u.want, .slice x.a x.n x.c, .bool x.u.done], .agg #[.string y.u.id, .int .i64 y.u.want, .slice y.a y.n y.c, .bool y.u.done]] w fun r w' => r = .returned (.bool true) ∧ Below w.heap.size w w' := by
  obtain ⟨u, a, n, c⟩ := x
  obtain ⟨u', b, m, d⟩ := y
  dsimp only at *
  subst hu
  obtain rfl : n = m := by rw [← hx.1, ← hy.1]
  have HX : Hid (Seg w a n u.zs) := hx
  have HY : Hid (Seg w b n u.zs) := hy
  clear hx hy
  have n1 : (u.want != u.want) = false := by simp
  have n2 : (u.id.toList != u.id.toList) = false := by simp
  have n3 : (u.done != u.done) = false := by simp
  go_enter Tryz.func126, Tryz.ntmps126
  go_wp2_with fail
  have hba : Below w.heap.size w ((w.alloc (.cells #[.string u.id, .int .i64 u.want, .slice a n c, .bool u.done] 118)).alloc (.cells #[.string u.id, .int .i64 u.want, .slice b n d, .bool u.done] 118)) := ((Below.refl _ _).alloc (Nat.le_refl _) _).alloc (by simp) _
  refine (eqByteS_same a b n c d u.zs _ (HX.out.below hba) (HY.out.below hba) hl).mono ?_
  rintro r x3 ⟨rfl, st3⟩
  have HB3 : Hid (Below w.heap.size w x3) := Still.below st3 hba
  clear hba
  obtain ⟨k, hk⟩ := st3
  subst hk
  go_wp2
  go_ret
  exact ⟨rfl, HB3.out⟩

set_option maxRecDepth 10000 in
set_option maxHeartbeats 1600000 in
theorem eqUpS_same (a : Option Addr) (n c lo : Nat) (l : List UE) (b : Option Addr) (m d lo' : Nat) (l' : List UE) (w : World) (h : UpRow w lo (.slice a n c) l) (h' : UpRow w lo' (.slice b m d) l') (hn : n = l.length) (hm : m = l'.length) (he : l.map UE.u = l'.map UE.u) (hl : n ≤ 1099511627776) (hz : ∀ e ∈ l, e.n ≤ 1099511627776) :
    Calls Tryz.prog 80 #[.slice a n c, .slice b m d] w fun e w' => e = .returned (.bool true) ∧ Below w.heap.size w w' := by
  obtain rfl : n = m := by
    have := congrArg List.length he
    rw [List.length_map, List.length_map] at this
    omega
  have HX : Hid (∀ W, Below w.heap.size w W → UpRow W lo (.slice a n c) l ∧ UpRow W lo' (.slice b n d) l') := fun W hb => ⟨h.stays hb, h'.stays hb⟩
  have HN : Hid (n = l.length) := hn
  have HM : Hid (n = l'.length) := hm
  have HE : Hid (l.map UE.u = l'.map UE.u) := he
  have HZ : Hid (∀ e ∈ l, e.n ≤ 1099511627776) := hz
  clear h h' hn hm he hz
  have hne : ((n : Int) != (n : Int)) = false := by simp
  go_enter Tryz.func80, Tryz.ntmps80
  go_wp2
  go_loopw [5] (fun i wr => ∃ k : Nat, k ≤ n ∧ i = .int .i64 k ∧ Hid (Below w.heap.size w wr)) (fun i _ => n - (intOf i).toNat)
  case atStart => exact ⟨0, Nat.zero_le _, rfl, Below.refl _ _⟩
  case round =>
    obtain ⟨k, hk, rfl, HW⟩ := hrel
    by_cases hlt : k < n
    · have hkl : k < l.length := by rw [← HN.out]; exact hlt
      have hkm : k < l'.length := by rw [← HM.out]; exact hlt
      obtain ⟨g, rfl, g0, g1, g2, g3, _⟩ := (HX.out _ HW.out).1.at HN.out hkl
      obtain ⟨q, rfl, q0, q1, q2, q3, _⟩ := (HX.out _ HW.out).2.at HM.out hkm
      have HU : Hid ((l[k]).u = (l'[k]).u) := by
        show _ = _
        have h1 := congrArg (fun z => z[k]?) HE.out
        simpa only [List.getElem?_map, List.getElem?_eq_getElem hkl, List.getElem?_eq_getElem hkm, Option.map_some, Option.some.injEq] using h1
      have HC : Hid (∀ P : Past wr, Calls Tryz.prog 126 #[.agg #[.string (l[k]).u.id, .int .i64 (l[k]).u.want, .slice (l[k]).a (l[k]).n (l[k]).c, .bool (l[k]).u.done], .agg #[.string (l'[k]).u.id, .int .i64 (l'[k]).u.want, .slice (l'[k]).a (l'[k]).n (l'[k]).c, .bool (l'[k]).u.done]] P.world fun r w' => r = .returned (.bool true) ∧ Below P.world.heap.size P.world w') := fun P => by
        have hb := HW.out.trans (P.below.mono HW.out.size)
        exact eqUp_same (l[k]) (l'[k]) P.world ((HX.out _ hb).1.2.1 _ (List.getElem_mem hkl)).seg ((HX.out _ hb).2.2.1 _ (List.getElem_mem hkm)).seg HU.out (HZ.out _ (List.getElem_mem hkl))
      have hki : (k : Int) < (n : Int) := by omega
      have hk0 : (0 : Int) ≤ (k : Int) := by omega
      have hgl := lt_of_cell g0
      have hql := lt_of_cell q0
      have x0 : ∀ P : Past wr, P.world.cell? ⟨g, k * 4, none⟩ = some (.string (l[k]).u.id) := fun P => P.cell hgl g0
      have x1 : ∀ P : Past wr, P.world.cell? ⟨g, k * 4 + 1, none⟩ = some (.int .i64 (l[k]).u.want) := fun P => P.cell hgl g1
      have x2 : ∀ P : Past wr, P.world.cell? ⟨g, k * 4 + 2, none⟩ = some (.slice (l[k]).a (l[k]).n (l[k]).c) := fun P => P.cell hgl g2
      have x3 : ∀ P : Past wr, P.world.cell? ⟨g, k * 4 + 3, none⟩ = some (.bool (l[k]).u.done) := fun P => P.cell hgl g3
      have y0 : ∀ P : Past wr, P.world.cell? ⟨q, k * 4, none⟩ = some (.string (l'[k]).u.id) := fun P => P.cell hql q0
      have y1 : ∀ P : Past wr, P.world.cell? ⟨q, k * 4 + 1, none⟩ = some (.int .i64 (l'[k]).u.want) := fun P => P.cell hql q1
      have y2 : ∀ P : Past wr, P.world.cell? ⟨q, k * 4 + 2, none⟩ = some (.slice (l'[k]).a (l'[k]).n (l'[k]).c) := fun P => P.cell hql q2
      have y3 : ∀ P : Past wr, P.world.cell? ⟨q, k * 4 + 3, none⟩ = some (.bool (l'[k]).u.done) := fun P => P.cell hql q3
      have hnp := past_some wr
      clear g0 g1 g2 g3 q0 q1 q2 q3 HU
      generalize l[k] = x at *
      generalize l'[k] = y at *
      go_wp2_with fail
      refine wp_region_past (by kernel_rfl) (by kernel_rfl) ?_
      repeat (quiet_step ((first | (go_at_call 126; with_reducible exact calls_past (HC.out _)) | fail)))
      refine wpQuiet_nil ?_
      rintro _ ⟨z, rfl⟩
      have HB3 : Hid (Below w.heap.size w z.world) := HW.out.trans (z.below.mono HW.out.size)
      go_wp2
      go_roundw
      case rel => exact ⟨k + 1, by omega, by go_num, HB3⟩
      case measure => simp [intOf]; omega
    · go_wp2
      go_ret
      exact ⟨rfl, HW.out⟩

end Go.Proofs.YtogopmngbjkcjavGreatDoor

namespace Go.Proofs.YtogopmngbjkcjavGreatDoor
open Go.RowKit
set_option linter.unusedVariables false

set_option maxRecDepth 10000 in
set_option maxHeartbeats 1600000 in
theorem eqStore_same (a b : Option Addr) (n ca cb : Nat) (X : List ByteArray) (a' b' : Option Addr) (n' ca' cb' : Nat) (Y : List ByteArray) (ep nx : Int) (ua : Option Addr) (un uc lo : Nat) (l : List UE) (va : Option Addr) (vn vc lo' : Nat) (l' : List UE) (w : World) (h1 : Strs w a n X) (h2 : Strs w b n X) (h3 : Strs w a' n' Y) (h4 : Strs w b' n' Y) (hu : UpRow w lo (.slice ua un uc) l) (hv : UpRow w lo' (.slice va vn vc) l') (hun : un = l.length) (hvn : vn = l'.length) (he : l.map UE.u = l'.map UE.u) (hn : n ≤ 1099511627776) (hn' : n' ≤ 1099511627776) (hul : un ≤ 1099511627776) (hz : ∀ e ∈ l, e.n ≤ 1099511627776) :
    Calls Tryz.prog 40 #[.agg #[.slice a n ca, .slice a' n' ca', .int .i64 ep, .int .i64 nx, .slice ua un uc], .agg #[.slice b n cb, .slice b' n' cb', .int .i64 ep, .int .i64 nx, .slice va vn vc]] w fun r w' => r = .returned (.bool true) ∧ Below w.heap.size w w' := by
  obtain ⟨w0, hw0⟩ : ∃ w0, (w.alloc (.cells #[.slice a n ca, .slice a' n' ca', .int .i64 ep, .int .i64 nx, .slice ua un uc] 36)).alloc (.cells #[.slice b n cb, .slice b' n' cb', .int .i64 ep, .int .i64 nx, .slice va vn vc] 36) = w0 := ⟨_, rfl⟩
  have HE : Hid ((w.alloc (.cells #[.slice a n ca, .slice a' n' ca', .int .i64 ep, .int .i64 nx, .slice ua un uc] 36)).alloc (.cells #[.slice b n cb, .slice b' n' cb', .int .i64 ep, .int .i64 nx, .slice va vn vc] 36) = w0) := hw0
  have HB : Hid (Below w.heap.size w w0) := by show Below _ _ _; rw [← hw0]; exact ((Below.refl _ _).alloc (Nat.le_refl _) _).alloc (by simp) _
  have HP : Hid (BoxN w0 w.heap.size 36 [.slice a n ca, .slice a' n' ca', .int .i64 ep, .int .i64 nx, .slice ua un uc]) := by show BoxN _ _ _ _; rw [← hw0]; exact (BoxN.new _ _ _).alloc _
  have HQ : Hid (BoxN w0 (w.heap.size + 1) 36 [.slice b n cb, .slice b' n' cb', .int .i64 ep, .int .i64 nx, .slice va vn vc]) := by
    show BoxN _ _ _ _
    rw [← hw0]
    have := BoxN.new (w.alloc (.cells #[.slice a n ca, .slice a' n' ca', .int .i64 ep, .int .i64 nx, .slice ua un uc] 36)) 36 [.slice b n cb, .slice b' n' cb', .int .i64 ep, .int .i64 nx, .slice va vn vc]
    rw [World.size_alloc] at this
    exact this
  have HX : Hid (∀ W, Below w0.heap.size w0 W → BoxN W w.heap.size 36 [.slice a n ca, .slice a' n' ca', .int .i64 ep, .int .i64 nx, .slice ua un uc] ∧ BoxN W (w.heap.size + 1) 36 [.slice b n cb, .slice b' n' cb', .int .i64 ep, .int .i64 nx, .slice va vn vc] ∧ Strs W a n X ∧ Strs W b n X ∧ Strs W a' n' Y ∧ Strs W b' n' Y ∧ UpRow W lo (.slice ua un uc) l ∧ UpRow W lo' (.slice va vn vc) l' ∧ Below w.heap.size w W) := fun W hb => ⟨HP.out.stays hb, HQ.out.stays hb, (h1.below HB.out).below hb, (h2.below HB.out).below hb, (h3.below HB.out).below hb, (h4.below HB.out).below hb, (hu.stays HB.out).stays hb, (hv.stays HB.out).stays hb, HB.out.trans (hb.mono HB.out.size)⟩
  have HU : Hid (un = l.length ∧ vn = l'.length ∧ l.map UE.u = l'.map UE.u ∧ ∀ e ∈ l, e.n ≤ 1099511627776) := ⟨hun, hvn, he, hz⟩
  clear hw0 HB HP HQ h1 h2 h3 h4 hu hv hun hvn he hz
  have HA0 : Hid (Below w0.heap.size w0 w0) := Below.refl _ _
  have x0 := (HX.out _ HA0.out).1.cell 0 rfl
  have x1 := (HX.out _ HA0.out).1.cell 1 rfl
  have y0 := (HX.out _ HA0.out).2.1.cell 0 rfl
  have y1 := (HX.out _ HA0.out).2.1.cell 1 rfl
  have ne1 : (ep != ep) = false := by simp
  have ne2 : (nx != nx) = false := by simp
  go_enter Tryz.func40, Tryz.ntmps40
  go_upto_region 1 with fail
  rw [HE.out]
  clear HE
  go_wp2_with fail
  refine (eqDisk_same a b n ca cb X a' b' n' ca' cb' Y w0 (HX.out _ HA0.out).2.2.1 (HX.out _ HA0.out).2.2.2.1 (HX.out _ HA0.out).2.2.2.2.1 (HX.out _ HA0.out).2.2.2.2.2.1 hn hn').mono ?_
  rintro _ W1 ⟨rfl, hb1⟩
  have HB1 : Hid (Below w0.heap.size w0 W1) := hb1
  clear hb1 x0 x1 y0 y1
  have c2 := (HX.out _ HB1.out).1.cell 2 rfl
  have c3 := (HX.out _ HB1.out).1.cell 3 rfl
  have c4 := (HX.out _ HB1.out).1.cell 4 rfl
  have d2 := (HX.out _ HB1.out).2.1.cell 2 rfl
  have d3 := (HX.out _ HB1.out).2.1.cell 3 rfl
  have d4 := (HX.out _ HB1.out).2.1.cell 4 rfl
  go_wp2_with fail
  refine (eqUpS_same ua un uc lo l va vn vc lo' l' W1 (HX.out _ HB1.out).2.2.2.2.2.2.1 (HX.out _ HB1.out).2.2.2.2.2.2.2.1 HU.out.1 HU.out.2.1 HU.out.2.2.1 hul HU.out.2.2.2).mono ?_
  rintro _ W2 ⟨rfl, hb2⟩
  have HB2 : Hid (Below w.heap.size w W2) := (HX.out _ (HB1.out.trans (hb2.mono HB1.out.size))).2.2.2.2.2.2.2.2
  clear hb2
  go_wp2_with fail
  go_ret
  exact ⟨rfl, HB2.out⟩

end Go.Proofs.YtogopmngbjkcjavGreatDoor

namespace Go.Proofs.YtogopmngbjkcjavGreatDoor
open Go.RowKit

theorem sz_us {n n' un : Nat} {X Y : List ByteArray} {l : List UE} {w : World} {ua : Option Addr} (h : SzS n X n' Y un l) (hu : UpsI w ua un l) : ∀ u ∈ l.map UE.u, u.zs.length ≤ 1048576 := by
  intro u hm
  obtain ⟨e, he, rfl⟩ := List.mem_map.1 hm
  have h1 := (h.2.2.2.2.2 e he).2
  have h2 := (hu.2.1 e he).2.2.1
  omega

end Go.Proofs.YtogopmngbjkcjavGreatDoor

namespace Go.Proofs.YtogopmngbjkcjavGreatDoor
open Go.RowKit
set_option linter.unusedVariables false

/-- To whom, the status, how much there is. -/
abbrev Hd := Int × Int × Int

/-- The cells of a row. -/
def heCells (l : List Hd) : List Value := l.flatMap fun s => [.int .i64 s.1, .int .i64 s.2.1, .int .i64 s.2.2]

theorem heCells_cons (s : Hd) (l : List Hd) : heCells (s :: l) = .int .i64 s.1 :: .int .i64 s.2.1 :: .int .i64 s.2.2 :: heCells l := rfl

theorem heCells_append (l m : List Hd) : heCells (l ++ m) = heCells l ++ heCells m := by simp [heCells]

theorem heCells_len (l : List Hd) : (heCells l).length = l.length * 3 := by
  induction l with
  | nil => rfl
  | cons f fs ih => rw [heCells_cons]; simp only [List.length_cons, ih]; omega

theorem heCells_at (l : List Hd) : ∀ i (hi : i < l.length), (heCells l)[i * 3]? = some (.int .i64 (l[i]).1) ∧ (heCells l)[i * 3 + 1]? = some (.int .i64 (l[i]).2.1) ∧ (heCells l)[i * 3 + 2]? = some (.int .i64 (l[i]).2.2) := by
  induction l with
  | nil => intro i hi; simp at hi
  | cons f fs ih =>
    intro i hi
    rw [heCells_cons]
    cases i with
    | zero => simp
    | succ i =>
      have := ih i (by simpa using hi)
      rw [show (i + 1) * 3 = i * 3 + 1 + 1 + 1 by omega]
      simpa using this

theorem heCells_one (l : List Hd) : ∀ u ∈ heCells l, u.oneCell' = true := by
  intro u hu
  simp only [heCells, List.mem_flatMap] at hu
  obtain ⟨f, _, hf⟩ := hu
  simp at hf
  rcases hf with rfl | rfl | rfl <;> rfl

theorem heCells_set (l : List Hd) (x y z : Int) : ∀ k, k < l.length → (((heCells l).set (k * 3) (.int .i64 x)).set (k * 3 + 1) (.int .i64 y)).set (k * 3 + 2) (.int .i64 z) = heCells (l.set k (x, y, z)) := by
  induction l with
  | nil => intro k hk; simp at hk
  | cons f fs ih =>
    intro k hk
    rw [heCells_cons]
    cases k with
    | zero => rfl
    | succ k =>
      rw [show (k + 1) * 3 = k * 3 + 1 + 1 + 1 by omega]
      have := ih k (by simpa using hk)
      simp only [List.set_cons_succ]
      rw [this]
      rfl

/-- A number of 64 bits. -/
def i64h (x : Int) : Prop := -9223372036854775808 ≤ x ∧ x ≤ 9223372036854775807

def hd64 (s : Hd) : Prop := i64h s.1 ∧ i64h s.2.1 ∧ i64h s.2.2

/-- The slice (a, n) holds these answers in the world w. -/
def Helds (w : World) (a : Option Addr) (n : Nat) (l : List Hd) : Prop :=
  l.length = n ∧ (∀ s ∈ l, hd64 s) ∧
  (n = 0 ∨ ∃ b off, a = some ⟨b, off, none⟩ ∧ b < w.heap.size ∧ ∀ i (hi : i < l.length), w.cell? ⟨b, off + i * 3, none⟩ = some (.int .i64 (l[i]).1) ∧ w.cell? ⟨b, off + i * 3 + 1, none⟩ = some (.int .i64 (l[i]).2.1) ∧ w.cell? ⟨b, off + i * 3 + 2, none⟩ = some (.int .i64 (l[i]).2.2))

theorem Helds.below {w w' : World} {a : Option Addr} {n : Nat} {l : List Hd} (h : Helds w a n l) (hb : Below w.heap.size w w') : Helds w' a n l := by
  obtain ⟨h1, h2, h3⟩ := h
  refine ⟨h1, h2, ?_⟩
  rcases h3 with h0 | ⟨b, off, ha, hlt, hc⟩
  · exact .inl h0
  · refine .inr ⟨b, off, ha, Nat.lt_of_lt_of_le hlt hb.size, fun i hi => ?_⟩
    have key : ∀ j v, w.cell? ⟨b, j, none⟩ = some v → w'.cell? ⟨b, j, none⟩ = some v := fun j v hv => (hb.cell (p := ⟨b, j, none⟩) hlt).trans hv
    exact ⟨key _ _ (hc i hi).1, key _ _ (hc i hi).2.1, key _ _ (hc i hi).2.2⟩

/-- The cells at one index. -/
theorem Helds.at {w : World} {a : Option Addr} {n : Nat} {l : List Hd} (h : Helds w a n l) {k : Nat} (hk : k < n) : ∃ b off x y z, a = some ⟨b, off, none⟩ ∧ b < w.heap.size ∧ l[k]? = some (x, y, z) ∧ w.cell? ⟨b, off + k * 3, none⟩ = some (.int .i64 x) ∧ w.cell? ⟨b, off + k * 3 + 1, none⟩ = some (.int .i64 y) ∧ w.cell? ⟨b, off + k * 3 + 2, none⟩ = some (.int .i64 z) ∧ hd64 (x, y, z) := by
  obtain ⟨h1, h2, h3⟩ := h
  rcases h3 with h0 | ⟨b, off, ha, hlt, hc⟩
  · omega
  · have hk' : k < l.length := by omega
    have hm := h2 (l[k]) (List.getElem_mem hk')
    exact ⟨b, off, (l[k]).1, (l[k]).2.1, (l[k]).2.2, ha, hlt, List.getElem?_eq_getElem hk', (hc k hk').1, (hc k hk').2.1, (hc k hk').2.2, hm⟩

/-- A slice value that owns these answers, in a block from base on. -/
def OwnH (w : World) (base : Nat) (a : Option Addr) (n cap : Nat) (l : List Hd) : Prop := w.ownsRow base 72 3 (.slice a n cap) n (heCells l) ∧ ∀ s ∈ l, hd64 s

theorem OwnH.len {w : World} {base n cap : Nat} {a : Option Addr} {l : List Hd} (h : OwnH w base a n cap l) : l.length = n := by
  have := h.1.1
  rw [heCells_len] at this
  omega

theorem OwnH.below {w w' : World} {base n cap : Nat} {a : Option Addr} {l : List Hd} (h : OwnH w base a n cap l) (hb : Below w.heap.size w w') : OwnH w' base a n cap l := ⟨own_below h.1 hb, h.2⟩

theorem OwnH.helds {w : World} {base n cap : Nat} {a : Option Addr} {l : List Hd} (h : OwnH w base a n cap l) : Helds w a n l := by
  have hl := h.len
  refine ⟨hl, h.2, ?_⟩
  rcases h.1.2 with ⟨_, hn⟩ | ⟨g, cap', cur, he, hb, hg, hn, hm, hc, ht⟩
  · exact .inl hn
  · injection he with e1 e2 e3
    subst e1
    refine .inr ⟨g, 0, rfl, (Array.getElem?_eq_some_iff.1 hg).1, fun i hi => ?_⟩
    have hi' : i < n := by omega
    have hget : ∀ j, j < n * 3 → w.cell? ⟨g, j, none⟩ = (heCells l)[j]? := by
      intro j hj
      rw [cell_of_row w g j cur _ (0, 0) hg, ← ht, List.getElem?_take, if_pos hj, Array.getElem?_toList]
    have := heCells_at l i hi
    rw [Nat.zero_add, hget (i * 3) (by omega), hget (i * 3 + 1) (by omega), hget (i * 3 + 2) (by omega)]
    exact this

theorem OwnH.lt {w : World} {base n cap : Nat} {a : Option Addr} {l : List Hd} (h : OwnH w base a n cap l) : ∀ k, a.map (·.block) = some k → base ≤ k ∧ k < w.heap.size := by
  intro k hk
  cases a with
  | none => simp at hk
  | some p => exact h.1.lt k (by simpa [Value.ownBlock] using hk)

theorem OwnH.kept {w w' : World} {base n cap : Nat} {a : Option Addr} {l : List Hd} {r : Option Nat} (h : OwnH w base a n cap l) (hg : w.grownBy w' r) (hr : ∀ k, r = some k → a.map (·.block) ≠ some k) : OwnH w' base a n cap l := by
  refine ⟨h.1.kept hg ?_, h.2⟩
  cases a with
  | none => exact .inl rfl
  | some p =>
    refine .inr ?_
    cases r with
    | none => simp [Value.ownBlock]
    | some k => have := hr k rfl; simpa [Value.ownBlock] using this

theorem OwnH.low {w : World} {base b n cap : Nat} {a : Option Addr} {l : List Hd} (h : OwnH w base a n cap l) (hb : b ≤ base) : OwnH w b a n cap l := by
  refine ⟨⟨h.1.1, ?_⟩, h.2⟩
  rcases h.1.2 with h0 | ⟨g, cap', cur, he, hg, r⟩
  · exact .inl h0
  · exact .inr ⟨g, cap', cur, he, Nat.le_trans hb hg, r⟩

theorem made_threeH (v : Value) (n : Nat) : (madeCells #[v, v, v] n).toList = List.replicate n v := by
  apply List.ext_getElem?
  intro j
  by_cases hj : j < n
  · have : j % 3 = 0 ∨ j % 3 = 1 ∨ j % 3 = 2 := by omega
    rcases this with h | h | h <;> simp [madeCells, hj, h]
  · simp [madeCells, hj]

theorem heCells_nil (n : Nat) : heCells (List.replicate n (0, 0, 0)) = List.replicate (n * 3) (.int .i64 0) := by
  induction n with
  | zero => rfl
  | succ n ih =>
    rw [show (n + 1) * 3 = n * 3 + 1 + 1 + 1 by omega, List.replicate_succ, List.replicate_succ, List.replicate_succ, List.replicate_succ, ← ih]
    rfl

/-- A row that is copied up to k. -/
def heTo (l : List Hd) (len k : Nat) : List Hd := l.take k ++ List.replicate (len - k) (0, 0, 0)

theorem heTo_step (l : List Hd) (len k : Nat) (s : Hd) (h : l[k]? = some s) (hk : k < len) : (heTo l len k).set k s = heTo l len (k + 1) := by
  have hl : k < l.length := (List.getElem?_eq_some_iff.1 h).1
  have ht : (l.take k).length = k := by simp; omega
  rw [heTo, heTo, List.set_append_right k _ (by omega), ht, Nat.sub_self, List.take_add_one, h, show len - k = (len - (k + 1)) + 1 by omega, List.replicate_succ]
  simp

theorem heTo_len (l : List Hd) (len k : Nat) (h : l.length = len) (hk : k ≤ len) : (heTo l len k).length = len := by
  simp [heTo]; omega

theorem info_held : (Tryz.prog.info? 72).map (fun i => (i.zero, i.size, i.bytes)) = some (some (.agg #[.int .i64 0, .int .i64 0, .int .i64 0]), 3, 24) := by kernel_rfl

end Go.Proofs.YtogopmngbjkcjavGreatDoor

namespace Go.Proofs.YtogopmngbjkcjavGreatDoor
open Go.RowKit
set_option linter.unusedVariables false

set_option maxRecDepth 10000 in
theorem eqResp_same (st off : Int) (w : World) :
    Calls Tryz.prog 106 #[.agg #[.int .i64 st, .int .i64 off], .agg #[.int .i64 st, .int .i64 off]] w fun e w' => e = .returned (.bool true) ∧ Below w.heap.size w w' := by
  have h1 : (st != st) = false := by simp
  have h3 : (off != off) = false := by simp
  go_enter Tryz.func106, Tryz.ntmps106
  go_wp2
  go_ret
  exact ⟨rfl, ((Below.refl _ _).alloc (Nat.le_refl _) _).alloc (by simp) _⟩

end Go.Proofs.YtogopmngbjkcjavGreatDoor

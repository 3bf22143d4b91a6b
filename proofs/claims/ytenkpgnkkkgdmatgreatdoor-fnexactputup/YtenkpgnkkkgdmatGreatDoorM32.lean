/- What a function of the store answers, in memory. No program in it but its table of types. What the program's MakeUp answers. An append onto an empty literal, of whatever may be appended: nothing of what was there changes, and where the row lies behind it. No program in it. -/
import Derived.Test.YtenkpgnkkkgdmatGreatDoorM04
import Derived.Test.YtenkpgnkkkgdmatGreatDoorM28
import Derived.Test.YtenkpgnkkkgdmatGreatDoorM31
import Derived.Test.YtenkpgnkkkgdmatGreatDoorM03
import Derived.Test.YtenkpgnkkkgdmatGreatDoorM01
import Derived.Deep.RegionLaw
namespace Go.Proofs.YtenkpgnkkkgdmatGreatDoor
open Go.RowKit
set_option linter.unusedVariables false

/-- A store and a code are answered. -/
def WAns (base : Nat) (Y : List ByteArray) (ep : Int) (a : WA) (e : Ending) (w' : World) : Prop := ∃ v, e = .returned (.tuple #[v, .int .i64 a.c]) ∧ AnsS base a.X Y ep a.nx a.us v w'

/-- Uploads that say the same have as many bytes. -/
theorem sizes_same {W W' : World} {b b' B : Nat} {v v' : Value} {l l' : List UE} (hm : l'.map UE.u = l.map UE.u) (h' : UpRow W' b' v' l') (h : UpRow W b v l) (hz : ∀ e ∈ l, e.n ≤ B) : ∀ e ∈ l', e.n ≤ B := by
  intro e he
  have h1 : e.u ∈ l.map UE.u := by rw [← hm]; exact List.mem_map_of_mem he
  obtain ⟨x, hx, hxe⟩ := List.mem_map.1 h1
  have h2 := (h'.2.1 e he).seg.1
  have h3 := (h.2.1 x hx).seg.1
  have h4 := hz x hx
  rw [hxe] at h3
  omega

end Go.Proofs.YtenkpgnkkkgdmatGreatDoor

namespace Go.Proofs.YtenkpgnkkkgdmatGreatDoor
open Go.RowKit
set_option linter.unusedVariables false

set_option maxRecDepth 10000 in
set_option maxHeartbeats 3200000 in
theorem implMake_any (a : Option Addr) (n ca : Nat) (X : List ByteArray) (a' : Option Addr) (n' ca' : Nat) (Y : List ByteArray) (ep nx : Int) (ua : Option Addr) (un uc lo : Nat) (l : List UE) (id : ByteArray) (want : Int) (w : World) (h1 : Strs w a n X) (h2 : Strs w a' n' Y) (hn : n ≤ 1048576) (hn' : n' ≤ 1048576) (hzx : ∀ x ∈ X, x.size ≤ 1048576) (hu : UpRow w lo (.slice ua un uc) l) (hun : un = l.length) (hul : un ≤ 1048576) (hz : ∀ e ∈ l, e.n ≤ 1099511627776) (hid : id.size ≤ maxLen) (hsl : SlOk a n ca) (ht : RecT w) (he : ErrN w) :
    Calls Tryz.prog 8 #[.agg #[.slice a n ca, .slice a' n' ca', .int .i64 ep, .int .i64 nx, .slice ua un uc], .string id, .int .i64 want] w fun e w' => WAns w.heap.size Y ep (makeA X Y ep nx (l.map UE.u) id want) e w' ∧ Below w.heap.size w w' := by
  have hmm : maxLen < 9223372036854775808 := by decide
  obtain ⟨W2, hW2⟩ : ∃ W2, (w.alloc (.cells #[.slice a n ca, .slice a' n' ca', .int .i64 ep, .int .i64 nx, .slice ua un uc] 32)).alloc (.cells #[.slice none 0 0, .slice none 0 0, .int .i64 0, .int .i64 0, .slice none 0 0] 32) = W2 := ⟨_, rfl⟩
  have HE : Hid ((w.alloc (.cells #[.slice a n ca, .slice a' n' ca', .int .i64 ep, .int .i64 nx, .slice ua un uc] 32)).alloc (.cells #[.slice none 0 0, .slice none 0 0, .int .i64 0, .int .i64 0, .slice none 0 0] 32) = W2) := hW2
  have HB2 : Hid (Below w.heap.size w W2) := by show Below _ _ _; rw [← hW2]; exact ((Below.refl _ _).alloc (Nat.le_refl _) _).alloc (by simp) _
  have q1 : BoxN W2 w.heap.size 32 [.slice a n ca, .slice a' n' ca', .int .i64 ep, .int .i64 nx, .slice ua un uc] := by rw [← hW2]; exact (BoxN.new _ _ _).alloc _
  have q2 : BoxN W2 (w.heap.size + 1) 32 [.slice none 0 0, .slice none 0 0, .int .i64 0, .int .i64 0, .slice none 0 0] := by
    rw [← hW2]
    have := BoxN.new (w.alloc (.cells #[.slice a n ca, .slice a' n' ca', .int .i64 ep, .int .i64 nx, .slice ua un uc] 32)) 32 [.slice none 0 0, .slice none 0 0, .int .i64 0, .int .i64 0, .slice none 0 0]
    rwa [World.size_alloc] at this
  have HQ : Hid (∀ W, Below W2.heap.size W2 W → BoxN W w.heap.size 32 [.slice a n ca, .slice a' n' ca', .int .i64 ep, .int .i64 nx, .slice ua un uc] ∧ BoxN W (w.heap.size + 1) 32 [.slice none 0 0, .slice none 0 0, .int .i64 0, .int .i64 0, .slice none 0 0]) := fun W h => ⟨q1.stays h, q2.stays h⟩
  have HX : Hid (∀ W, Below W2.heap.size W2 W → Strs W a n X ∧ Strs W a' n' Y ∧ UpRow W lo (.slice ua un uc) l ∧ RecT W ∧ ErrN W) := fun W h => by
    have hw := HB2.out.trans (h.mono HB2.out.size)
    exact ⟨h1.below hw, h2.below hw, hu.stays hw, ht.below hw, he.below hw⟩
  have HL : Hid (un = l.length ∧ (∀ e ∈ l, e.n ≤ 1099511627776) ∧ (∀ x ∈ X, x.size ≤ 1048576) ∧ X.length = n) := ⟨hun, hz, hzx, h1.1⟩
  have hs2 : w.heap.size + 1 < W2.heap.size := q2.lt
  clear hW2 q1 q2 h1 h2 hu hun hz hzx ht he
  have HA0 : Hid (Below W2.heap.size W2 W2) := Below.refl _ _
  obtain ⟨c0, c1, c2, c3, c4⟩ := (show _ ∧ _ ∧ _ ∧ _ ∧ _ from ⟨(HQ.out _ HA0.out).1.cell 0 rfl, (HQ.out _ HA0.out).1.cell 1 rfl, (HQ.out _ HA0.out).1.cell 2 rfl, (HQ.out _ HA0.out).1.cell 3 rfl, (HQ.out _ HA0.out).1.cell 4 rfl⟩)
  go_enter Tryz.func8, Tryz.ntmps8
  go_upto_region 1 with fail
  rw [HE.out]
  clear HE
  go_wp2_with fail
  refine (implMakeC_any a n ca X a' n' ca' Y ep nx ua un uc lo l id want W2 (HX.out _ HA0.out).1 (HX.out _ HA0.out).2.1 hn hn' HL.out.2.2.1 (HX.out _ HA0.out).2.2.1 HL.out.1 hul hid hsl (HX.out _ HA0.out).2.2.2.1 (HX.out _ HA0.out).2.2.2.2).mono ?_
  rintro _ y1 ⟨rfl, hb1⟩
  have HC1 : Hid (Below W2.heap.size W2 y1) := hb1
  clear hb1 c0 c1 c2 c3 c4
  obtain ⟨cc, hcc⟩ : ∃ cc, (makeA X Y ep nx (l.map UE.u) id want).c = cc := ⟨_, rfl⟩
  rw [hcc]
  obtain ⟨c0, c1, c2, c3, c4⟩ := (show _ ∧ _ ∧ _ ∧ _ ∧ _ from ⟨(HQ.out _ HC1.out).1.cell 0 rfl, (HQ.out _ HC1.out).1.cell 1 rfl, (HQ.out _ HC1.out).1.cell 2 rfl, (HQ.out _ HC1.out).1.cell 3 rfl, (HQ.out _ HC1.out).1.cell 4 rfl⟩)
  by_cases h0 : cc = 0
  case neg =>
    have HRs : Hid (makeA X Y ep nx (l.map UE.u) id want = ⟨X, nx, l.map UE.u, cc⟩) := by
      show _ = _
      have h9 : (makeA X Y ep nx (l.map UE.u) id want).c ≠ 0 := by rw [hcc]; exact h0
      rw [← hcc]
      exact makeA_no h9
    have hd0 : (cc != 0) = true := by simpa using h0
    clear hcc h0
    go_wp2_with fail
    refine (implScopy_any a n ca X a' n' ca' Y ep nx ua un uc lo l y1 (HX.out _ HC1.out).1 (HX.out _ HC1.out).2.1 hn hn' (HX.out _ HC1.out).2.2.1 HL.out.1 hul HL.out.2.1).mono ?_
    rintro _ y2 ⟨⟨v, rfl, hv⟩, hb2⟩
    obtain ⟨b, cb, b', cb', va, vc, l', rfl, hs2', hm2⟩ := hv.get
    have HC2 : Hid (Below W2.heap.size W2 y2) := HC1.out.trans (hb2.mono HC1.out.size)
    have HSt : Hid (StoAt y2 W2.heap.size b X.length cb X b' Y.length cb' Y va (l.map UE.u).length vc l' ∧ l'.map UE.u = l.map UE.u) := ⟨hs2'.low HC1.out.size, hm2⟩
    have HBw : Hid (Below w.heap.size w y2) := HB2.out.trans (HC2.out.mono HB2.out.size)
    obtain ⟨K, hK⟩ : ∃ K, (l.map UE.u).length = K := ⟨_, rfl⟩
    rw [hK] at HSt ⊢
    obtain ⟨r0, r1, r2, r3, r4⟩ := (show _ ∧ _ ∧ _ ∧ _ ∧ _ from ⟨(HQ.out _ HC2.out).2.cell 0 rfl, (HQ.out _ HC2.out).2.cell 1 rfl, (HQ.out _ HC2.out).2.cell 2 rfl, (HQ.out _ HC2.out).2.cell 3 rfl, (HQ.out _ HC2.out).2.cell 4 rfl⟩)
    obtain ⟨f0, f1, f2, f3, f4⟩ := (show _ ∧ _ ∧ _ ∧ _ ∧ _ from ⟨(HQ.out _ HC2.out).2.frozen 0, (HQ.out _ HC2.out).2.frozen 1, (HQ.out _ HC2.out).2.frozen 2, (HQ.out _ HC2.out).2.frozen 3, (HQ.out _ HC2.out).2.frozen 4⟩)
    clear hv hs2' hm2 hb2 HQ HX HC1 HC2 hK c0 c1 c2 c3 c4
    go_wp2_with fail
    refine bodyPost_ret (v := .tuple #[.agg #[.slice b X.length cb, .slice b' Y.length cb', .int .i64 ep, .int .i64 nx, .slice va K vc], .int .i64 cc]) (by simp [results, Tryz.f8, go_sem, r0, r1, r2, r3, r4]) rfl ?_
    refine ⟨?_, ?_⟩
    · rw [WAns, HRs.out]
      exact ⟨_, rfl, b, X.length, cb, b', Y.length, cb', va, K, vc, l', rfl, (((((HSt.out.1.setLow (by omega) _).setLow (by omega) _).setLow (by omega) _).setLow (by omega) _).setLow (by omega) _).low (by omega), HSt.out.2⟩
    · exact ((((HBw.out.setCell (by dsimp only; omega) _).setCell (by dsimp only; omega) _).setCell (by dsimp only; omega) _).setCell (by dsimp only; omega) _).setCell (by dsimp only; omega) _
  subst h0
  obtain ⟨hso, hkk, hroom, us', hfo, hmod⟩ := makeA_yes hcc
  have HRs : Hid (makeA X Y ep nx (l.map UE.u) id want = ⟨wroteX X ep nx.toNat [makeR id want], nx + 1, us', 0⟩) := hmod
  have HSo : Hid (SOk X Y ep nx (l.map UE.u)) := hso
  have HKk : Hid (idB id.data.toList = true ∧ kindB 1 want 0 = true ∧ [makeR id want].foldlM oneU (l.map UE.u) = some us' ∧ nx + 1 ≤ (X.length : Int)) := ⟨hkk.1, hkk.2, hfo, hroom⟩
  clear hcc hso hkk hroom hfo hmod
  obtain ⟨y2, hy2⟩ : ∃ y2, y1.alloc (.cells #[.int .i64 0, .int .i64 0, .int .i64 1, .string id, .int .i64 want, .slice none 0 0] 56) = y2 := ⟨_, rfl⟩
  have HE2 : Hid (y1.alloc (.cells #[.int .i64 0, .int .i64 0, .int .i64 1, .string id, .int .i64 want, .slice none 0 0] 56) = y2) := hy2
  have hb2 : Below y1.heap.size y1 y2 := by rw [← hy2]; exact (Below.refl _ _).alloc (Nat.le_refl _) _
  have hbx : BoxN y2 y1.heap.size 56 [.int .i64 0, .int .i64 0, .int .i64 1, .string id, .int .i64 want, .slice none 0 0] := by rw [← hy2]; exact BoxN.new _ _ _
  have HC2 : Hid (Below W2.heap.size W2 y2) := HC1.out.trans (hb2.mono HC1.out.size)
  have HRow : Hid (RcsI y2 (some ⟨y1.heap.size, 0, none⟩) 1 [⟨makeR id want, none, 0, 0⟩]) := by
    refine ⟨rfl, fun e he => ?_, .inr ⟨y1.heap.size, 0, rfl, hbx.lt, fun i hi => ?_⟩⟩
    · obtain rfl : e = ⟨makeR id want, none, 0, 0⟩ := by simpa using he
      exact ⟨rfl, by simp [makeR], .inl rfl⟩
    · obtain rfl : i = 0 := by simpa using hi
      exact ⟨hbx.cell 0 rfl, hbx.cell 1 rfl, hbx.cell 2 rfl, hbx.cell 3 rfl, hbx.cell 4 rfl, hbx.cell 5 rfl⟩
  have HKs : Hid (∀ r ∈ ([⟨makeR id want, none, 0, 0⟩] : List RE).map RE.r, idB r.id.data.toList = true ∧ kindB r.k r.n r.zs.length = true ∧ ∀ x ∈ r.zs, 0 ≤ x ∧ x ≤ 255) := fun r hr => by
    obtain rfl : r = makeR id want := by simpa using hr
    exact ⟨HKk.out.1, HKk.out.2.1, by simp [makeR]⟩
  have HWr : Hid (Calls Tryz.prog 30 #[.agg #[.slice a n ca, .slice a' n' ca', .int .i64 ep, .int .i64 nx, .slice ua un uc], .slice (some ⟨y1.heap.size, 0, none⟩) 1 1] y2 fun e w' => (∃ v, e = .returned v ∧ AnsS y2.heap.size (wroteX X ep nx.toNat [makeR id want]) Y ep (nx + 1) us' v w') ∧ Below y2.heap.size y2 w') :=
    implWritten_any a n ca X a' n' ca' Y ep nx ua un uc lo l (some ⟨y1.heap.size, 0, none⟩) 1 1 [⟨makeR id want, none, 0, 0⟩] us' y2 (HX.out _ HC2.out).1 (HX.out _ HC2.out).2.1 hn hn' HL.out.2.2.1 (HX.out _ HC2.out).2.2.1 HL.out.1 hul HL.out.2.1 (HX.out _ HC2.out).2.2.2.1 (HX.out _ HC2.out).2.2.2.2 HRow.out HSo.out HKs.out HKk.out.2.2.2 HKk.out.2.2.1
  clear hy2 hb2 hbx
  go_wp2_with fail
  rw [HE2.out]
  refine HWr.out.mono ?_
  rintro _ y3 ⟨⟨v, rfl, hv⟩, hb3⟩
  obtain ⟨b, cb, b', cb', va, vc, l', rfl, hs3, hm3⟩ := hv.get
  have HC3 : Hid (Below W2.heap.size W2 y3) := HC2.out.trans (hb3.mono HC2.out.size)
  obtain ⟨NN, hNN⟩ : ∃ NN, (wroteX X ep nx.toNat [makeR id want]).length = NN := ⟨_, rfl⟩
  obtain ⟨K, hK⟩ : ∃ K, us'.length = K := ⟨_, rfl⟩
  rw [hNN, hK] at hs3
  rw [hNN, hK]
  have HSt : Hid (StoAt y3 W2.heap.size b NN cb (wroteX X ep nx.toNat [makeR id want]) b' Y.length cb' Y va K vc l' ∧ l'.map UE.u = us') := ⟨hs3.low HC2.out.size, hm3⟩
  have HBw : Hid (Below w.heap.size w y3) := HB2.out.trans (HC3.out.mono HB2.out.size)
  obtain ⟨r0, r1, r2, r3, r4⟩ := (show _ ∧ _ ∧ _ ∧ _ ∧ _ from ⟨(HQ.out _ HC3.out).2.cell 0 rfl, (HQ.out _ HC3.out).2.cell 1 rfl, (HQ.out _ HC3.out).2.cell 2 rfl, (HQ.out _ HC3.out).2.cell 3 rfl, (HQ.out _ HC3.out).2.cell 4 rfl⟩)
  obtain ⟨f0, f1, f2, f3, f4⟩ := (show _ ∧ _ ∧ _ ∧ _ ∧ _ from ⟨(HQ.out _ HC3.out).2.frozen 0, (HQ.out _ HC3.out).2.frozen 1, (HQ.out _ HC3.out).2.frozen 2, (HQ.out _ HC3.out).2.frozen 3, (HQ.out _ HC3.out).2.frozen 4⟩)
  clear hv hs3 hm3 hb3 HQ HX HC1 HC2 HC3 hK hNN HWr HRow HE2 c0 c1 c2 c3 c4
  go_wp2_with fail
  refine bodyPost_ret (v := .tuple #[.agg #[.slice b NN cb, .slice b' Y.length cb', .int .i64 ep, .int .i64 (nx + 1), .slice va K vc], .int .i64 0]) (by simp [results, Tryz.f8, go_sem, r0, r1, r2, r3, r4]) rfl ?_
  refine ⟨?_, ?_⟩
  · rw [WAns, HRs.out]
    exact ⟨_, rfl, b, NN, cb, b', Y.length, cb', va, K, vc, l', rfl, (((((HSt.out.1.setLow (by omega) _).setLow (by omega) _).setLow (by omega) _).setLow (by omega) _).setLow (by omega) _).low (by omega), HSt.out.2⟩
  · exact ((((HBw.out.setCell (by dsimp only; omega) _).setCell (by dsimp only; omega) _).setCell (by dsimp only; omega) _).setCell (by dsimp only; omega) _).setCell (by dsimp only; omega) _

end Go.Proofs.YtenkpgnkkkgdmatGreatDoor

namespace Go.Proofs.YtenkpgnkkkgdmatGreatDoor
open Go.RowKit
set_option linter.unusedVariables false

theorem run_append_lit {P : Program} (w : World) (base : Nat) (t tx ty e : TypeId) (i : TypeInfo) (z : Value) (size bytes : Nat) (ht : P.underlying t = some (.slice e)) (hi : P.info? e = some i) (hz : i.zero = some z)
    (hsize : i.size = size) (hby : i.bytes = bytes) (hzs : z.cells.size = size) (hsz : 0 < size)
    (g : Nat) (hg : w.heap[g]? = some (.cells #[] e (0, 0))) (hbg : base ≤ g)
    (x : Value) (m : Nat) (news : List Value) (hs : Src P size tx x m news w)
    (h63 : m ≤ maxLen) (hbytes : m * bytes ≤ 140737488355328) (hbase : base ≤ w.heap.size) :
    ∃ g' c' w', (Builtin.append_ #[t, tx] ty #[.slice (some ⟨g, 0, none⟩) 0 0, x]).run P w = .ok (.slice (some ⟨g', 0, none⟩) m c') w' ∧ w'.ownsRow base e size (.slice (some ⟨g', 0, none⟩) m c') m news ∧ Below w.heap.size w w' ∧ (g' = g ∨ w.heap.size ≤ g') := by
  subst hsize
  subst hby
  have hsmall : m ≤ 9223372036854775807 := by simp only [maxLen] at h63; omega
  have hl := hs.newsLen
  by_cases hm : m = 0
  · subst hm
    obtain rfl : news = [] := List.eq_nil_of_length_eq_zero (by simpa using hl)
    have hr := run_room_any w t tx ty e i ht hi g 0 0 #[] hg x 0 [] hs (by omega) (by simp)
    have hh := setRow_heap w g #[] #[] e (0, 0) hg
    refine ⟨g, 0, w.setRow g #[], by simpa using hr, ⟨by simp, .inr ⟨g, 0, #[], rfl, hbg, hh, Nat.le_refl _, Nat.zero_le _, by simp, by simp⟩⟩, ⟨rfl, rfl, rfl, by simp, fun k hk => ?_⟩, .inl rfl⟩
    by_cases hkg : k = g
    · subst hkg
      rw [hh, hg]
    · exact setRow_other w g k _ hkg
  · have hold := run_firstCells_some (P := P) w.drew i.size 0 ⟨g, 0, none⟩ 0 0 [] (by simp) (by simp)
    have hr := run_append_grow_src (P := P) w t tx ty e i z ht hi hz (some ⟨g, 0, none⟩) 0 0 [] hold x m news hs (by omega) (by omega) (growslice_fits (by omega) (by simpa using hbytes))
    have hge := grownCap_ge w (0 + m) 0 e
    have hcm' : grownCap w (0 + m) 0 e ≤ maxLen := grownCap_le_maxLen w (0 + m) 0 e (by omega)
    rw [Nat.zero_add] at hr hge hcm'
    refine ⟨_, _, _, hr, ⟨hl, .inr ⟨w.heap.size, _, _, rfl, hbase, heap_alloc_new w.drew _, hge, hcm', ?_, ?_⟩⟩, ⟨rfl, rfl, rfl, by simp, fun k hk => heap_alloc_old w.drew _ hk⟩, .inr (Nat.le_refl _)⟩
    · simp only [Array.size_append, List.size_toArray, size_zeroCells, hzs, List.nil_append, hl, ← Nat.add_mul]
      congr 1
      omega
    · simp only [Array.toList_append, List.nil_append]
      rw [← hl]
      exact List.take_left

theorem step_append_lit {P : Program} {ops : Array Oper} {o : Oper} {a : Act} {w : World} {K : Act → World → Prop} {Q : Exit → Act → World → Prop} {E : Prop} (hgd : o.guard = none) (s x : Operand) (t tx : TypeId)
    (ho : o.op = .call { callee := .builtin .append, args := #[s, x], argTypes := #[t, tx] })
    (base : Nat) (e : TypeId) (i : TypeInfo) (z : Value) (size bytes : Nat) (ht : P.underlying t = some (.slice e)) (hi : P.info? e = some i) (hz : i.zero = some z)
    (hsize : i.size = size) (hby : i.bytes = bytes) (hzs : z.cells.size = size) (hsz : 0 < size)
    (g : Nat) (hs : a.eval s = .slice (some ⟨g, 0, none⟩) 0 0) (hg : w.heap[g]? = some (.cells #[] e (0, 0))) (hbg : base ≤ g)
    (u : Value) (m : Nat) (news : List Value) (hx : a.eval x = u) (hsrc : Src P size tx u m news w)
    (h63 : m ≤ maxLen) (hbytes : m * bytes ≤ 140737488355328) (hbase : base ≤ w.heap.size)
    (h : ∀ g' c' w', w'.ownsRow base e size (.slice (some ⟨g', 0, none⟩) m c') m news → Below w.heap.size w w' → (g' = g ∨ w.heap.size ≤ g') → K (a.put o.dst (.slice (some ⟨g', 0, none⟩) m c')) w') :
    if Region.wanted o (yielded ops a.tmps) = true then Oper.wp P o a w K Q else E := by
  have hw : Region.wanted o (yielded ops a.tmps) = true := by simp [Region.wanted, hgd]
  rw [if_pos hw]
  obtain ⟨g', c', w', hr, h2, h3, h4⟩ := run_append_lit (P := P) w base t tx o.type e i z size bytes ht hi hz hsize hby hzs hsz g hg hbg u m news hsrc h63 hbytes hbase
  unfold Oper.wp execOp
  simp only [ho, resolve, invoke, builtin, Sem.run_bind, Sem.run_pure, Result.andThen_ok, List.map_toArray, List.map_cons, List.map_nil, hs, hx, hr]
  exact h g' c' w' h2 h3 h4

end Go.Proofs.YtenkpgnkkkgdmatGreatDoor

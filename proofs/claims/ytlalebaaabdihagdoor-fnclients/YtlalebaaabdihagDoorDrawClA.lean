/- The draw of a client on its way. For codes of at most 2^40 bytes. -/
import Derived.Test.YtlalebaaabdihagDoorDrawStrC
import Derived.Test.YtlalebaaabdihagDoorDrawBig
import Derived.Test.YtlalebaaabdihagDoorBox4
import Derived.Test.YtlalebaaabdihagDoorClNewS
import Derived.Test.YtlalebaaabdihagDoorHearS
import Derived.Test.YtlalebaaabdihagDoorGrows
import Derived.Deep.CutBlock
namespace Go.Proofs.YtlalebaaabdihagDoor
open Go.RowKit
set_option linter.unusedVariables false

/-- How a world may go on while things are drawn: the cursor is moved, all else that was there stays. -/
def DrE (B c : Nat) (a : Option Addr) (len cap : Nat) (zs : List Int) (w w' : World) : Prop := w.grownBy w' (some c) ∧ (Cur w B c a len cap zs → Cur w' B c a len cap zs)

section
variable {B c : Nat} {a : Option Addr} {len cap : Nat} {zs : List Int} {w w' w2 : World}
theorem DrE.refl : DrE B c a len cap zs w w := ⟨⟨rfl, rfl, rfl, Nat.le_refl _, fun _ _ _ => rfl⟩, id⟩
theorem DrE.trans (h : DrE B c a len cap zs w w') (k : DrE B c a len cap zs w' w2) : DrE B c a len cap zs w w2 := ⟨gtrans h.1 k.1, fun x => k.2 (h.2 x)⟩
theorem DrE.below (h : Below w.heap.size w w') : DrE B c a len cap zs w w' := ⟨gbelow h _, fun x => x.kept (gbelow h none) (by simp)⟩
theorem DrE.drew : DrE B c a len cap zs w w.drew := .below (Below.refl _ _).drew
theorem DrE.cur (h : w.grownBy w' (some c)) (k : Cur w' B c a len cap zs) : DrE B c a len cap zs w w' := ⟨h, fun _ => k⟩
theorem DrE.box {b : Nat} {t : TypeId} {vs : List Value} (h : BoxN w b t vs) (hne : b ≠ c) (k : DrE B c a len cap zs w w') : BoxN w' b t vs := h.grown k.1 (by simpa using Ne.symm hne)
theorem DrE.own {lo n cp : Nat} {x : Option Addr} {ys : List Int} (h : Owns w lo x n cp ys) (hne : ∀ q, x.map (·.block) = some q → q ≠ c) (k : DrE B c a len cap zs w w') : Owns w' lo x n cp ys := by
  refine ⟨h.1.kept k.1 ?_, h.2⟩
  cases x with
  | none => exact .inl rfl
  | some p => exact .inr fun e => hne p.block rfl (by injection e with e)
end

/-- A client that is drawn: its file in a row of the draw's own. -/
def DrC (base : Nat) (e : Ending) (W : World) : Prop := ∃ (id : ByteArray) (xa : Option Addr) (n xc : Nat) (ys : List Int) (st off : Int), e = .returned (.agg #[.string id, .slice xa n xc, .int .i64 st, .int .i64 off]) ∧ Owns W base xa n xc ys ∧ id.size ≤ 3 ∧ n ≤ 60

def ids3 : List ByteArray := [⟨#[97]⟩, ⟨#[98]⟩, ⟨#[117, 112, 49]⟩]
theorem ids3_short : ∀ s ∈ ids3, s.size ≤ 3 := by decide

set_option maxRecDepth 10000 in
set_option maxHeartbeats 6400000 in
theorem l17Draw_any (B c : Nat) (a : Option Addr) (len cap : Nat) (zs : List Int) (w : World) (hcur : Cur w B c a len cap zs) (hl : len ≤ 1099511627776) :
    Calls Tryd.prog 31 #[.pointer (some ⟨c, 0, none⟩)] w fun e w' => DrC w.heap.size e w' ∧ Cur w' B c a len cap zs ∧ w.grownBy w' (some c) := by
  have hmm : 1099511627776 ≤ maxLen := by decide
  have HC : Hid (Cur w B c a len cap zs) := hcur
  have hcw : c < w.heap.size := hcur.lt
  clear hcur
  have HEr : Hid (∀ x : World, DrE B c a len cap zs x x) := fun x => DrE.refl
  have HEd : Hid (∀ x : World, DrE B c a len cap zs x x.drew) := fun x => DrE.drew
  have HEt : Hid (∀ x y z : World, DrE B c a len cap zs x y → DrE B c a len cap zs y z → DrE B c a len cap zs x z) := fun x y z h k => h.trans k
  go_enter Tryd.func31, Tryd.ntmps31
  go_upto_region 1 with fail
  obtain ⟨w1, hw1⟩ : ∃ w1, w.alloc (.cells #[.string ⟨#[]⟩, .slice none 0 0, .int .i64 0, .int .i64 0] 25) = w1 := ⟨_, rfl⟩
  have HQ1 : Hid (BoxN w1 w.heap.size 25 [.string ⟨#[]⟩, .slice none 0 0, .int .i64 0, .int .i64 0]) := by show BoxN _ _ _ _; rw [← hw1]; exact BoxN.new _ _ _
  have HE1 : Hid (DrE B c a len cap zs w w1) := by show DrE _ _ _ _ _ _ _ _; rw [← hw1]; exact .below ((Below.refl _ _).alloc (Nat.le_refl _) _)
  have hz1 : w1.heap.size = w.heap.size + 1 := by rw [← hw1]; simp
  have HW1 : Hid (_ = w1) := hw1
  have HZ1 : Hid (w1.heap.size = w.heap.size + 1) := hz1
  clear hw1 hz1
  rw [HW1.out]
  clear HW1
  have HC1 : Hid (Cur w1 B c a len cap zs) := HE1.out.2 HC.out
  have hcw1 : c < w1.heap.size := HC1.out.lt
  go_wp2_with fail
  refine (l1Str_any B c a len cap zs w1.heap.size 3 3 ids3 _ (HC1.out.new _) hl (heap_alloc_new w1 _) (by omega) rfl (by omega) (by omega)).mono ?_
  rintro e w2 ⟨id, rfl, hid, hc2, hg2⟩
  have HId : Hid (id.size ≤ 3) := ids3_short id hid
  have HC2 : Hid (Cur w2 B c a len cap zs) := hc2
  have HE2 : Hid (DrE B c a len cap zs w1 w2) := .cur (gtrans (World.grownBy_alloc w1 _ _) hg2) hc2
  have hcw2 : c < w2.heap.size := hc2.lt
  clear hid hc2 hg2 HC1
  go_wp2_with fail
  refine (l1Int_any B c a len cap zs w2.heap.size 4 4 [0, 5, 24, 60] _ (HC2.out.new _) hl (heap_alloc_new w2 _) (by omega) rfl (by omega) (by omega)).mono ?_
  rintro e w3 ⟨m, rfl, hm, hc3, hg3⟩
  obtain ⟨k0, rfl⟩ : ∃ n : Nat, m = (n : Int) := ⟨m.toNat, by simp only [List.mem_cons, List.not_mem_nil, or_false] at hm; omega⟩
  have hk0 : k0 ≤ 60 := by simp only [List.mem_cons, List.not_mem_nil, or_false] at hm; omega
  have HC3 : Hid (Cur w3 B c a len cap zs) := hc3
  have HE3 : Hid (DrE B c a len cap zs w1 w3) := HE2.out.trans (.cur (gtrans (World.grownBy_alloc w2 _ _) hg3) hc3)
  clear hm hc3 hg3 HC2 HE2 hcw2
  go_wp2_with fail
  refine (l1Bytes_big B c a len cap zs k0 w3 HC3.out hl (by omega)).mono ?_
  rintro e w4 ⟨g, cp, ys0, rfl, hg0, hog, hc4, hg4⟩
  have HO4 : Hid (Seg w4 (some ⟨g, 0, none⟩) k0 ys0) := Owns.seg hog
  have HE4 : Hid (DrE B c a len cap zs w1 w4) := HE3.out.trans (.cur hg4 hc4)
  clear hg0 hog hc4 hg4 HC3 HE3
  go_wp2_with fail
  refine (specClNew_any id (some ⟨g, 0, none⟩) k0 cp ys0 w4 HO4.out (by have := HId.out; omega) (by omega)).mono ?_
  rintro e w5 ⟨⟨xa, xc, rfl, ho5⟩, hb5⟩
  have hn0 : newL id k0 ≤ 60 := Nat.le_trans (newL_le id k0) hk0
  have HI0 : Hid ((newI id k0).size ≤ 3) := by
    show _ ≤ _
    unfold newI
    split
    · exact HId.out
    · exact Nat.zero_le _
  obtain ⟨n, hn⟩ : ∃ x, newL id k0 = x := ⟨_, rfl⟩
  obtain ⟨ys, hys⟩ : ∃ x, newZ id k0 ys0 = x := ⟨_, rfl⟩
  obtain ⟨st, hst⟩ : ∃ x, newS id k0 = x := ⟨_, rfl⟩
  obtain ⟨id, hid⟩ : ∃ x, newI id k0 = x := ⟨_, rfl⟩
  rw [hn, hys] at ho5
  rw [hn] at hn0 ⊢
  rw [hid] at HI0 ⊢
  rw [hst]
  clear hid hn hys hst
  obtain ⟨off, hoff⟩ : ∃ off : Int, (0 : Int) = off := ⟨_, rfl⟩
  obtain ⟨w6, hw6⟩ : ∃ w6, w5.alloc (.cells #[.string id, .slice xa n xc, .int .i64 st, .int .i64 0] 25) = w6 := ⟨_, rfl⟩
  obtain ⟨bx, hbx⟩ : ∃ bx, w5.heap.size = bx := ⟨_, rfl⟩
  have h56 : Below w5.heap.size w5 w6 := by rw [← hw6]; exact (Below.refl _ _).alloc (Nat.le_refl _) _
  have hq6 : BoxN w6 bx 25 [.string id, .slice xa n xc, .int .i64 st, .int .i64 0] := by rw [← hw6, ← hbx]; exact BoxN.new _ _ _
  have HE6 : Hid (DrE B c a len cap zs w1 w6) := HE4.out.trans ((DrE.below hb5).trans (.below h56))
  have h14 : w1.heap.size ≤ w4.heap.size := HE4.out.1.size
  have hbl : w1.heap.size ≤ bx := by have := hb5.size; omega
  have HI6 : Hid ((BoxN w6 bx 25 [.string id, .slice xa n xc, .int .i64 st, .int .i64 0] ∧ Owns w6 w1.heap.size xa n xc ys ∧ (∀ q, xa.map (·.block) = some q → q ≠ bx)) ∧ id.size ≤ 3 ∧ DrE B c a len cap zs w1 w6) := ⟨⟨hq6, (ho5.below h56).low h14, fun q hq => by have := (ho5.lt q hq).2; omega⟩, HI0.out, HE6.out⟩
  have HW6 : Hid (_ = w6) := hw6
  have HBX : Hid (_ = bx) := hbx
  clear hw6 hbx h56 hq6 ho5 hb5 hoff HE6 HE4 HO4 HI0 HId h14
  go_upto_region 2 with fail
  rw [HW6.out, HBX.out]
  clear HW6 HBX
  have HC6 : Hid (Cur w6 B c a len cap zs) := HI6.out.2.2.2 (HE1.out.2 HC.out)
  go_wp2_with fail
  refine (l1Below_any B c a len cap zs 6 w6 HC6.out hl (by omega) (by omega)).mono ?_
  rintro e w7 ⟨m, rfl, hm0, hm1, hc7, hg7⟩
  have hbc : bx ≠ c := by omega
  have hE7 : DrE B c a len cap zs w6 w7 := .cur hg7 hc7
  have HI7 : Hid (∃ xa xc st off, BoxN w7 bx 25 [.string id, .slice xa n xc, .int .i64 st, .int .i64 off] ∧ Owns w7 w1.heap.size xa n xc ys ∧ (∀ q, xa.map (·.block) = some q → q ≠ bx) ∧ DrE B c a len cap zs w1 w7) := ⟨xa, xc, st, 0, hE7.box HI6.out.1.1 hbc, hE7.own HI6.out.1.2.1 (fun q hq => by have := (HI6.out.1.2.1.lt q hq).1; omega), HI6.out.1.2.2, HI6.out.2.2.trans hE7⟩
  have HId : Hid (id.size ≤ 3) := HI6.out.2.1
  clear hE7 hc7 hg7 HI6 HC6
  obtain ⟨k, rfl⟩ : ∃ k : Nat, m = (k : Int) := ⟨m.toNat, by omega⟩
  have hk5 : k ≤ 5 := by omega
  clear hm0 hm1
  go_wp2_with fail
  go_loopw [4] (fun i wr => ∃ k : Nat, k ≤ 5 ∧ i = .int .i64 k ∧ Hid (∃ xa xc st off, BoxN wr bx 25 [.string id, .slice xa n xc, .int .i64 st, .int .i64 off] ∧ Owns wr w1.heap.size xa n xc ys ∧ (∀ q, xa.map (·.block) = some q → q ≠ bx) ∧ DrE B c a len cap zs w1 wr)) (fun i _ => (intOf i).toNat)
  case atStart => exact ⟨k, hk5, rfl, HI7⟩
  case round =>
    clear HI7 hk5
    obtain ⟨k, hk, rfl, HI⟩ := hrel
    obtain ⟨xa, xc, st, off, hx⟩ := HI.out
    have HX : Hid (BoxN wr bx 25 [.string id, .slice xa n xc, .int .i64 st, .int .i64 off] ∧ Owns wr w1.heap.size xa n xc ys ∧ (∀ q, xa.map (·.block) = some q → q ≠ bx) ∧ DrE B c a len cap zs w1 wr) := hx
    clear hx HI
    have hcwr : c < wr.heap.size := (HX.out.2.2.2.2 (HE1.out.2 HC.out)).lt
    by_cases hpos : 0 < k
    · have hkp : (0 : Int) < (k : Int) := by omega
      go_upto_region 5 with fail
      refine wp_region_growE (DrE B c a len cap zs) HEr.out HEd.out (fun h1 h2 => HEt.out _ _ _ h1 h2) 12 [StayE.val _ (.agg #[.string id, .slice xa n xc, .int .i64 st, .int .i64 off]), StayE.val _ (.pointer (some ⟨c, 0, none⟩)), ⟨fun v W => ∃ g, v = .slice (some ⟨g, 0, none⟩) 5 5 ∧ g ≠ c ∧ W.heap[g]? = some (.cells (([200, 201, 204, 409, 404] : List Int).map (Value.int .i64)).toArray 3 (0, 0)), fun ⟨g, h0, h1, h2⟩ hb => ⟨g, h0, h1, (hb.1.block g (Array.getElem?_eq_some_iff.1 h2).1 (by simpa using h1)).trans h2⟩⟩, ⟨fun v W => ∃ q, v = .int .i64 q, fun ⟨q, h0⟩ hb => ⟨q, h0⟩⟩, StayE.val _ (.pointer (some ⟨c, 0, none⟩)), StayE.val _ (.pointer (some ⟨bx, 1, none⟩)), StayE.val _ (.slice xa n xc), StayE.val _ (.int .i64 (n : Int)), ⟨fun v W => ∃ g, v = .slice (some ⟨g, 0, none⟩) 6 6 ∧ g ≠ c ∧ W.heap[g]? = some (.cells (([0, 5, 24, 48, 60, (n : Int)] : List Int).map (Value.int .i64)).toArray 3 (0, 0)), fun ⟨g, h0, h1, h2⟩ hb => ⟨g, h0, h1, (hb.1.block g (Array.getElem?_eq_some_iff.1 h2).1 (by simpa using h1)).trans h2⟩⟩, ⟨fun v W => ∃ q, v = .int .i64 q, fun ⟨q, h0⟩ hb => ⟨q, h0⟩⟩, ⟨fun v W => ∃ q r, v = .agg #[.int .i64 q, .int .i64 r], fun ⟨q, r, h0⟩ hb => ⟨q, r, h0⟩⟩, ⟨fun v W => ∃ a2 c2 st2 off2, v = .agg #[.string id, .slice a2 n c2, .int .i64 st2, .int .i64 off2] ∧ Owns W wr.heap.size a2 n c2 ys, fun ⟨a2, c2, st2, off2, h0, h1⟩ hb => ⟨a2, c2, st2, off2, h0, hb.own h1 (fun q hq => by have := (h1.lt q hq).1; omega)⟩⟩] (by kernel_rfl) (by kernel_rfl) ?_ ?_
      · refine (all_succ (all_succ (all_succ (all_succ (all_succ (all_succ (all_succ (all_succ (all_succ (all_succ (all_succ (all_succ all_zero ?g0) ?g1) ?g2) ?g3) ?g4) ?g5) ?g6) ?g7) ?g8) ?g9) ?g10) ?g11)
        case g0 =>
          intro o ho vs W hb hd
          have HXW : Hid (DrE B c a len cap zs wr W) := hb
          have HCW : Hid (Cur W B c a len cap zs) := (HX.out.2.2.2.trans HXW.out).2 (HE1.out.2 HC.out)
          have HBW : Hid (BoxN W bx 25 [.string id, .slice xa n xc, .int .i64 st, .int .i64 off]) := HXW.out.box HX.out.1 hbc
          have HOW : Hid (Owns W w1.heap.size xa n xc ys) := HXW.out.own HX.out.2.1 (fun q hq => by have := (HX.out.2.1.lt q hq).1; omega)
          have hcW : c < W.heap.size := HCW.out.lt
          have hsW : wr.heap.size ≤ W.heap.size := HXW.out.1.size
          clear hb
          obtain rfl := Option.some.inj ho
          clear ho hd
          have c0 := HBW.out.cell 0 rfl
          have c1 := HBW.out.cell 1 rfl
          have c2 := HBW.out.cell 2 rfl
          have c3 := HBW.out.cell 3 rfl
          intro K hK
          simp only [List.take, putsT, put_mk, List.setIfInBounds_toArray, List.set_cons_succ, List.set_cons_zero] at hK ⊢
          have HK : Hid _ := hK
          clear hK
          go_wp2_with fail
          exact HK.out _ _ (HEr.out _) rfl
        case g1 =>
          intro o ho vs W hb hd
          have HXW : Hid (DrE B c a len cap zs wr W) := hb
          have HCW : Hid (Cur W B c a len cap zs) := (HX.out.2.2.2.trans HXW.out).2 (HE1.out.2 HC.out)
          have HBW : Hid (BoxN W bx 25 [.string id, .slice xa n xc, .int .i64 st, .int .i64 off]) := HXW.out.box HX.out.1 hbc
          have HOW : Hid (Owns W w1.heap.size xa n xc ys) := HXW.out.own HX.out.2.1 (fun q hq => by have := (HX.out.2.1.lt q hq).1; omega)
          have hcW : c < W.heap.size := HCW.out.lt
          have hsW : wr.heap.size ≤ W.heap.size := HXW.out.1.size
          clear hb
          obtain rfl := Option.some.inj ho
          clear ho hd
          intro K hK
          simp only [List.take, putsT, put_mk, List.setIfInBounds_toArray, List.set_cons_succ, List.set_cons_zero] at hK ⊢
          have HK : Hid _ := hK
          clear hK
          go_wp2_with fail
          exact HK.out _ _ (HEr.out _) rfl
        case g2 =>
          intro o ho vs W hb hd
          have HXW : Hid (DrE B c a len cap zs wr W) := hb
          have HCW : Hid (Cur W B c a len cap zs) := (HX.out.2.2.2.trans HXW.out).2 (HE1.out.2 HC.out)
          have HBW : Hid (BoxN W bx 25 [.string id, .slice xa n xc, .int .i64 st, .int .i64 off]) := HXW.out.box HX.out.1 hbc
          have HOW : Hid (Owns W w1.heap.size xa n xc ys) := HXW.out.own HX.out.2.1 (fun q hq => by have := (HX.out.2.1.lt q hq).1; omega)
          have hcW : c < W.heap.size := HCW.out.lt
          have hsW : wr.heap.size ≤ W.heap.size := HXW.out.1.size
          clear hb
          obtain rfl := Option.some.inj ho
          clear ho hd
          intro K hK
          simp only [List.take, putsT, put_mk, List.setIfInBounds_toArray, List.set_cons_succ, List.set_cons_zero] at hK ⊢
          have HK : Hid _ := hK
          clear hK
          go_wp2_with fail
          exact HK.out _ _ (DrE.below ((Below.refl _ _).alloc (Nat.le_refl _) _)) ⟨_, rfl, by omega, heap_alloc_new W _⟩
        case g3 =>
          intro o ho vs W hb hd
          have HXW : Hid (DrE B c a len cap zs wr W) := hb
          have HCW : Hid (Cur W B c a len cap zs) := (HX.out.2.2.2.trans HXW.out).2 (HE1.out.2 HC.out)
          have HBW : Hid (BoxN W bx 25 [.string id, .slice xa n xc, .int .i64 st, .int .i64 off]) := HXW.out.box HX.out.1 hbc
          have HOW : Hid (Owns W w1.heap.size xa n xc ys) := HXW.out.own HX.out.2.1 (fun q hq => by have := (HX.out.2.1.lt q hq).1; omega)
          have hcW : c < W.heap.size := HCW.out.lt
          have hsW : wr.heap.size ≤ W.heap.size := HXW.out.1.size
          clear hb
          obtain rfl := Option.some.inj ho
          have h1 : vs 1 = _ := hd 1 (by decide) (by kernel_rfl)
          obtain ⟨g, h2, hgc, hgL⟩ := hd 2 (by decide) (by kernel_rfl)
          clear ho hd
          intro K hK
          simp only [List.take, putsT, put_mk, List.setIfInBounds_toArray, List.set_cons_succ, List.set_cons_zero] at hK ⊢
          rw [h1, h2] at hK ⊢
          clear h1 h2
          have HK : Hid _ := hK
          clear hK
          go_wp2_with fail
          refine (l1Int_any B c a len cap zs _ 5 5 [200, 201, 204, 409, 404] W HCW.out hl hgL hgc rfl (by omega) (by omega)).mono ?_
          rintro e w9 ⟨q, rfl, _, hc9, hg9⟩
          go_wp2_with fail
          exact HK.out _ _ (DrE.cur hg9 hc9) ⟨q, rfl⟩
        case g4 =>
          intro o ho vs W hb hd
          have HXW : Hid (DrE B c a len cap zs wr W) := hb
          have HCW : Hid (Cur W B c a len cap zs) := (HX.out.2.2.2.trans HXW.out).2 (HE1.out.2 HC.out)
          have HBW : Hid (BoxN W bx 25 [.string id, .slice xa n xc, .int .i64 st, .int .i64 off]) := HXW.out.box HX.out.1 hbc
          have HOW : Hid (Owns W w1.heap.size xa n xc ys) := HXW.out.own HX.out.2.1 (fun q hq => by have := (HX.out.2.1.lt q hq).1; omega)
          have hcW : c < W.heap.size := HCW.out.lt
          have hsW : wr.heap.size ≤ W.heap.size := HXW.out.1.size
          clear hb
          obtain rfl := Option.some.inj ho
          clear ho hd
          intro K hK
          simp only [List.take, putsT, put_mk, List.setIfInBounds_toArray, List.set_cons_succ, List.set_cons_zero] at hK ⊢
          have HK : Hid _ := hK
          clear hK
          go_wp2_with fail
          exact HK.out _ _ (HEr.out _) rfl
        case g5 =>
          intro o ho vs W hb hd
          have HXW : Hid (DrE B c a len cap zs wr W) := hb
          have HCW : Hid (Cur W B c a len cap zs) := (HX.out.2.2.2.trans HXW.out).2 (HE1.out.2 HC.out)
          have HBW : Hid (BoxN W bx 25 [.string id, .slice xa n xc, .int .i64 st, .int .i64 off]) := HXW.out.box HX.out.1 hbc
          have HOW : Hid (Owns W w1.heap.size xa n xc ys) := HXW.out.own HX.out.2.1 (fun q hq => by have := (HX.out.2.1.lt q hq).1; omega)
          have hcW : c < W.heap.size := HCW.out.lt
          have hsW : wr.heap.size ≤ W.heap.size := HXW.out.1.size
          clear hb
          obtain rfl := Option.some.inj ho
          clear ho hd
          intro K hK
          simp only [List.take, putsT, put_mk, List.setIfInBounds_toArray, List.set_cons_succ, List.set_cons_zero] at hK ⊢
          have HK : Hid _ := hK
          clear hK
          go_wp2_with fail
          exact HK.out _ _ (HEr.out _) rfl
        case g6 =>
          intro o ho vs W hb hd
          have HXW : Hid (DrE B c a len cap zs wr W) := hb
          have HCW : Hid (Cur W B c a len cap zs) := (HX.out.2.2.2.trans HXW.out).2 (HE1.out.2 HC.out)
          have HBW : Hid (BoxN W bx 25 [.string id, .slice xa n xc, .int .i64 st, .int .i64 off]) := HXW.out.box HX.out.1 hbc
          have HOW : Hid (Owns W w1.heap.size xa n xc ys) := HXW.out.own HX.out.2.1 (fun q hq => by have := (HX.out.2.1.lt q hq).1; omega)
          have hcW : c < W.heap.size := HCW.out.lt
          have hsW : wr.heap.size ≤ W.heap.size := HXW.out.1.size
          clear hb
          obtain rfl := Option.some.inj ho
          have h5 : vs 5 = _ := hd 5 (by decide) (by kernel_rfl)
          clear ho hd
          have c0 := HBW.out.cell 0 rfl
          have c1 := HBW.out.cell 1 rfl
          have c2 := HBW.out.cell 2 rfl
          have c3 := HBW.out.cell 3 rfl
          intro K hK
          simp only [List.take, putsT, put_mk, List.setIfInBounds_toArray, List.set_cons_succ, List.set_cons_zero] at hK ⊢
          rw [h5] at hK ⊢
          clear h5
          have HK : Hid _ := hK
          clear hK
          go_wp2_with fail
          exact HK.out _ _ (HEr.out _) rfl
        case g7 =>
          intro o ho vs W hb hd
          have HXW : Hid (DrE B c a len cap zs wr W) := hb
          have HCW : Hid (Cur W B c a len cap zs) := (HX.out.2.2.2.trans HXW.out).2 (HE1.out.2 HC.out)
          have HBW : Hid (BoxN W bx 25 [.string id, .slice xa n xc, .int .i64 st, .int .i64 off]) := HXW.out.box HX.out.1 hbc
          have HOW : Hid (Owns W w1.heap.size xa n xc ys) := HXW.out.own HX.out.2.1 (fun q hq => by have := (HX.out.2.1.lt q hq).1; omega)
          have hcW : c < W.heap.size := HCW.out.lt
          have hsW : wr.heap.size ≤ W.heap.size := HXW.out.1.size
          clear hb
          obtain rfl := Option.some.inj ho
          have h6 : vs 6 = _ := hd 6 (by decide) (by kernel_rfl)
          clear ho hd
          intro K hK
          simp only [List.take, putsT, put_mk, List.setIfInBounds_toArray, List.set_cons_succ, List.set_cons_zero] at hK ⊢
          rw [h6] at hK ⊢
          clear h6
          have HK : Hid _ := hK
          clear hK
          go_wp2_with fail
          exact HK.out _ _ (HEr.out _) rfl
        case g8 =>
          intro o ho vs W hb hd
          have HXW : Hid (DrE B c a len cap zs wr W) := hb
          have HCW : Hid (Cur W B c a len cap zs) := (HX.out.2.2.2.trans HXW.out).2 (HE1.out.2 HC.out)
          have HBW : Hid (BoxN W bx 25 [.string id, .slice xa n xc, .int .i64 st, .int .i64 off]) := HXW.out.box HX.out.1 hbc
          have HOW : Hid (Owns W w1.heap.size xa n xc ys) := HXW.out.own HX.out.2.1 (fun q hq => by have := (HX.out.2.1.lt q hq).1; omega)
          have hcW : c < W.heap.size := HCW.out.lt
          have hsW : wr.heap.size ≤ W.heap.size := HXW.out.1.size
          clear hb
          obtain rfl := Option.some.inj ho
          have h7 : vs 7 = _ := hd 7 (by decide) (by kernel_rfl)
          clear ho hd
          intro K hK
          simp only [List.take, putsT, put_mk, List.setIfInBounds_toArray, List.set_cons_succ, List.set_cons_zero] at hK ⊢
          rw [h7] at hK ⊢
          clear h7
          have HK : Hid _ := hK
          clear hK
          go_wp2_with fail
          exact HK.out _ _ (DrE.below ((Below.refl _ _).alloc (Nat.le_refl _) _)) ⟨_, rfl, by omega, heap_alloc_new W _⟩
        case g9 =>
          intro o ho vs W hb hd
          have HXW : Hid (DrE B c a len cap zs wr W) := hb
          have HCW : Hid (Cur W B c a len cap zs) := (HX.out.2.2.2.trans HXW.out).2 (HE1.out.2 HC.out)
          have HBW : Hid (BoxN W bx 25 [.string id, .slice xa n xc, .int .i64 st, .int .i64 off]) := HXW.out.box HX.out.1 hbc
          have HOW : Hid (Owns W w1.heap.size xa n xc ys) := HXW.out.own HX.out.2.1 (fun q hq => by have := (HX.out.2.1.lt q hq).1; omega)
          have hcW : c < W.heap.size := HCW.out.lt
          have hsW : wr.heap.size ≤ W.heap.size := HXW.out.1.size
          clear hb
          obtain rfl := Option.some.inj ho
          have h4 : vs 4 = _ := hd 4 (by decide) (by kernel_rfl)
          obtain ⟨g, h8, hgc, hgL⟩ := hd 8 (by decide) (by kernel_rfl)
          clear ho hd
          intro K hK
          simp only [List.take, putsT, put_mk, List.setIfInBounds_toArray, List.set_cons_succ, List.set_cons_zero] at hK ⊢
          rw [h4, h8] at hK ⊢
          clear h4 h8
          have HK : Hid _ := hK
          clear hK
          go_wp2_with fail
          refine (l1Int_any B c a len cap zs _ 6 6 [0, 5, 24, 48, 60, (n : Int)] W HCW.out hl hgL hgc rfl (by omega) (by omega)).mono ?_
          rintro e w9 ⟨q, rfl, _, hc9, hg9⟩
          go_wp2_with fail
          exact HK.out _ _ (DrE.cur hg9 hc9) ⟨q, rfl⟩
        case g10 =>
          intro o ho vs W hb hd
          have HXW : Hid (DrE B c a len cap zs wr W) := hb
          have HCW : Hid (Cur W B c a len cap zs) := (HX.out.2.2.2.trans HXW.out).2 (HE1.out.2 HC.out)
          have HBW : Hid (BoxN W bx 25 [.string id, .slice xa n xc, .int .i64 st, .int .i64 off]) := HXW.out.box HX.out.1 hbc
          have HOW : Hid (Owns W w1.heap.size xa n xc ys) := HXW.out.own HX.out.2.1 (fun q hq => by have := (HX.out.2.1.lt q hq).1; omega)
          have hcW : c < W.heap.size := HCW.out.lt
          have hsW : wr.heap.size ≤ W.heap.size := HXW.out.1.size
          clear hb
          obtain rfl := Option.some.inj ho
          obtain ⟨q, h3⟩ := hd 3 (by decide) (by kernel_rfl)
          obtain ⟨r, h9⟩ := hd 9 (by decide) (by kernel_rfl)
          clear ho hd
          intro K hK
          simp only [List.take, putsT, put_mk, List.setIfInBounds_toArray, List.set_cons_succ, List.set_cons_zero] at hK ⊢
          rw [h3, h9] at hK ⊢
          clear h3 h9
          have HK : Hid _ := hK
          clear hK
          go_wp2_with fail
          exact HK.out _ _ (HEr.out _) ⟨q, r, rfl⟩
        case g11 =>
          intro o ho vs W hb hd
          have HXW : Hid (DrE B c a len cap zs wr W) := hb
          have HCW : Hid (Cur W B c a len cap zs) := (HX.out.2.2.2.trans HXW.out).2 (HE1.out.2 HC.out)
          have HBW : Hid (BoxN W bx 25 [.string id, .slice xa n xc, .int .i64 st, .int .i64 off]) := HXW.out.box HX.out.1 hbc
          have HOW : Hid (Owns W w1.heap.size xa n xc ys) := HXW.out.own HX.out.2.1 (fun q hq => by have := (HX.out.2.1.lt q hq).1; omega)
          have hcW : c < W.heap.size := HCW.out.lt
          have hsW : wr.heap.size ≤ W.heap.size := HXW.out.1.size
          clear hb
          obtain rfl := Option.some.inj ho
          have h0 : vs 0 = _ := hd 0 (by decide) (by kernel_rfl)
          obtain ⟨q, r, h10⟩ := hd 10 (by decide) (by kernel_rfl)
          clear ho hd
          intro K hK
          simp only [List.take, putsT, put_mk, List.setIfInBounds_toArray, List.set_cons_succ, List.set_cons_zero] at hK ⊢
          rw [h0, h10] at hK ⊢
          clear h0 h10
          have HK : Hid _ := hK
          clear hK
          go_wp2_with fail
          refine (specHearR_any id xa n xc ys st off q r W HOW.out.seg (by have := HId.out; omega) (by omega)).mono ?_
          rintro e w9 ⟨⟨a2, c2, rfl, ho9⟩, hb9⟩
          go_wp2_with fail
          exact HK.out _ _ (DrE.below hb9) ⟨_, _, _, _, rfl, ho9.low hsW⟩
      intro vs W hb hd
      have HXW : Hid (DrE B c a len cap zs wr W) := hb
      have HCW : Hid (Cur W B c a len cap zs) := (HX.out.2.2.2.trans HXW.out).2 (HE1.out.2 HC.out)
      have HBW : Hid (BoxN W bx 25 [.string id, .slice xa n xc, .int .i64 st, .int .i64 off]) := HXW.out.box HX.out.1 hbc
      have HOW : Hid (Owns W w1.heap.size xa n xc ys) := HXW.out.own HX.out.2.1 (fun q hq => by have := (HX.out.2.1.lt q hq).1; omega)
      have hcW : c < W.heap.size := HCW.out.lt
      have hsW : wr.heap.size ≤ W.heap.size := HXW.out.1.size
      clear hb
      simp only [List.take, List.drop, putsT, put_mk, List.setIfInBounds_toArray, List.set_cons_succ, List.set_cons_zero]
      obtain ⟨a2, c2, st2, off2, h11, ho2⟩ := hd 11 (by decide)
      rw [h11]
      clear h11 hd
      have d0 := HBW.out.cell 0 rfl
      have d1 := HBW.out.cell 1 rfl
      have d2 := HBW.out.cell 2 rfl
      have d3 := HBW.out.cell 3 rfl
      have f0 := HBW.out.frozen 0
      have f1 := HBW.out.frozen 1
      have f2 := HBW.out.frozen 2
      have f3 := HBW.out.frozen 3
      have HO2 : Hid (Owns W wr.heap.size a2 n c2 ys) := ho2
      have hbw : bx < wr.heap.size := HX.out.1.lt
      clear ho2
      go_wp2_with fail
      go_roundw
      case rel =>
        refine ⟨k - 1, by omega, by go_num, a2, c2, st2, off2, ?_, ?_, ?_, ?_⟩
        · exact (((HBW.out.set 0 _).set 1 _).set 2 _).set 3 _
        · have hne : a2.map (·.block) ≠ some bx := fun e => by have := (HO2.out.lt _ e).1; omega
          exact (owns_set (owns_set (owns_set (owns_set HO2.out hne) hne) hne) hne).low HX.out.2.2.2.1.size
        · exact fun q hq => by have := (HO2.out.lt q hq).1; omega
        · have hE := HX.out.2.2.2.trans HXW.out
          exact ⟨gput (gput (gput (gput hE.1 hbl _) hbl _) hbl _) hbl _, fun x => (((((hE.2 x).put (by omega) _).put (by omega) _).put (by omega) _).put (by omega) _)⟩
      case measure => simp [intOf]; omega
    · obtain rfl : k = 0 := by omega
      clear hpos
      have HR0 : Hid (BoxN wr w.heap.size 25 [.string ⟨#[]⟩, .slice none 0 0, .int .i64 0, .int .i64 0]) := HX.out.2.2.2.box HQ1.out (by omega)
      have d0 := HX.out.1.cell 0 rfl
      have d1 := HX.out.1.cell 1 rfl
      have d2 := HX.out.1.cell 2 rfl
      have d3 := HX.out.1.cell 3 rfl
      have g0 := HR0.out.cell 0 rfl
      have g1 := HR0.out.cell 1 rfl
      have g2 := HR0.out.cell 2 rfl
      have g3 := HR0.out.cell 3 rfl
      have f0 := HR0.out.frozen 0
      have f1 := HR0.out.frozen 1
      have f2 := HR0.out.frozen 2
      have f3 := HR0.out.frozen 3
      have hn1 : xa.map (·.block) ≠ some w.heap.size := fun e => by have := (HX.out.2.1.lt _ e).1; have := HZ1.out; omega
      have HF : Hid (Owns ((((wr.setCell ⟨w.heap.size, 0, none⟩ (.string id)).setCell ⟨w.heap.size, 1, none⟩ (.slice xa n xc)).setCell ⟨w.heap.size, 2, none⟩ (.int .i64 st)).setCell ⟨w.heap.size, 3, none⟩ (.int .i64 off)) w.heap.size xa n xc ys ∧ Cur ((((wr.setCell ⟨w.heap.size, 0, none⟩ (.string id)).setCell ⟨w.heap.size, 1, none⟩ (.slice xa n xc)).setCell ⟨w.heap.size, 2, none⟩ (.int .i64 st)).setCell ⟨w.heap.size, 3, none⟩ (.int .i64 off)) B c a len cap zs ∧ w.grownBy ((((wr.setCell ⟨w.heap.size, 0, none⟩ (.string id)).setCell ⟨w.heap.size, 1, none⟩ (.slice xa n xc)).setCell ⟨w.heap.size, 2, none⟩ (.int .i64 st)).setCell ⟨w.heap.size, 3, none⟩ (.int .i64 off)) (some c)) := by
        have hE := HE1.out.trans HX.out.2.2.2
        refine ⟨(owns_set (owns_set (owns_set (owns_set HX.out.2.1 hn1) hn1) hn1) hn1).low (by have := HZ1.out; omega), ((((hE.2 HC.out).put hcw _).put hcw _).put hcw _).put hcw _, ?_⟩
        exact gput (gput (gput (gput hE.1 (Nat.le_refl _) _) (Nat.le_refl _) _) (Nat.le_refl _) _) (Nat.le_refl _) _
      clear HX HR0 hn1
      go_wp2_with fail
      refine bodyPost_ret (v := .agg #[.string id, .slice xa n xc, .int .i64 st, .int .i64 off]) (by simp [results, Tryd.f31, go_sem, g0, g1, g2, g3]) rfl ?_
      exact ⟨⟨id, xa, n, xc, ys, st, off, rfl, HF.out.1, HId.out, hn0⟩, HF.out.2⟩

end Go.Proofs.YtlalebaaabdihagDoor

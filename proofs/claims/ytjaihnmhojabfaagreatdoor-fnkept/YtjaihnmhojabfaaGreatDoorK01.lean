/- Drawn bytes, as many as a length of thirty bits tells. For codes of at most 2^40 bytes. The draw of a store, a name, a place and bytes. For codes of at most 2^40 bytes. What is put is behind what there was; with its sum, once it is whole, it is done. No program in it. Uploads of a right store fit: no program in it but where UFit is said. -/
import Derived.Test.YtjaihnmhojabfaaGreatDoorM09
import Derived.Test.YtjaihnmhojabfaaGreatDoorM25
import Derived.Test.YtjaihnmhojabfaaGreatDoorM25
import Derived.Test.YtjaihnmhojabfaaGreatDoorM26
import Derived.Test.YtjaihnmhojabfaaGreatDoorM23
import Derived.Test.YtjaihnmhojabfaaGreatDoorM33
import Derived.Test.YtjaihnmhojabfaaGreatDoorM07
namespace Go.Proofs.YtjaihnmhojabfaaGreatDoor
open Go.RowKit
set_option linter.unusedVariables false

set_option maxRecDepth 10000 in
set_option maxHeartbeats 400000 in
theorem l1Bytes_big (B c : Nat) (a : Option Addr) (len cap : Nat) (zs : List Int) (n : Nat) (w : World) (hcur : Cur w B c a len cap zs) (hl : len ≤ 1099511627776) (hn2 : n ≤ 2000000000) :
    Calls Tryz.prog 54 #[.pointer (some ⟨c, 0, none⟩), .int .i64 n] w fun e w' => ∃ g cp ys, e = .returned (.slice (some ⟨g, 0, none⟩) n cp) ∧ w.heap.size ≤ g ∧ Owns w' w.heap.size (some ⟨g, 0, none⟩) n cp ys ∧ Cur w' B c a len cap zs ∧ w.grownBy w' (some c) := by
  obtain ⟨i0, hi, hz0, hz1, hz2⟩ := info_parts Tryz.info5
  have hcl : c < w.heap.size := hcur.lt
  have HC : Hid (Cur (w.alloc (.cells #[] 5)) B c a len cap zs) := hcur.kept (World.grownBy_alloc w _ none) (by simp)
  have HB : Hid (B ≤ c) := hcur.1
  have HO : Hid ((w.alloc (.cells #[] 5)).ownsRow w.heap.size 5 1 (.slice (some ⟨w.heap.size, 0, none⟩) 0 0) 0 (([] : List Int).map (Value.int .u8))) := World.ownsRow_lit w #[] 0 (Nat.le_refl _) (Nat.zero_le _) rfl
  clear hcur
  go_enter Tryz.func54, Tryz.ntmps54
  go_wp2_with fail
  go_loopw [5, 6] (fun v i wr => ∃ (k g cp : Nat) (ys : List Int), k ≤ n ∧ i = .int .i64 k ∧ v = .slice (some ⟨g, 0, none⟩) k cp ∧ w.heap.size ≤ g ∧ Hid (wr.ownsRow w.heap.size 5 1 (.slice (some ⟨g, 0, none⟩) k cp) k (ys.map (Value.int .u8)) ∧ (∀ x ∈ ys, 0 ≤ x ∧ x ≤ 255)) ∧ Hid (Cur wr B c a len cap zs) ∧ Hid (w.grownBy wr (some c))) (fun _ i _ => n - (intOf i).toNat)
  case atStart => exact ⟨0, w.heap.size, 0, [], Nat.zero_le _, rfl, rfl, Nat.le_refl _, ⟨HO.out, by simp⟩, HC, World.grownBy_alloc w _ _⟩
  case round =>
    clear HO HC
    obtain ⟨k, g, cp, ys, hk, rfl, rfl, hgw, HO, HC, HG⟩ := hrel
    by_cases hlt : k < n
    · go_wp2_with fail
      refine (l1Byte_any B c a len cap zs _ HC.out hl).mono ?_
      rintro e w1 ⟨x, hx0, hx1, rfl, hc1, hg1⟩
      have hgc : ¬ g = c := by omega
      have HO1 : Hid (w1.ownsRow w.heap.size 5 1 (.slice (some ⟨g, 0, none⟩) k cp) k (ys.map (Value.int .u8))) := HO.out.1.kept hg1 (.inr (fun e => hgc (by simpa [Value.ownBlock] using e)))
      have HY : Hid (∀ x ∈ ys, 0 ≤ x ∧ x ≤ 255) := HO.out.2
      have HG1 : Hid (w.grownBy w1 (some c)) := gtrans HG.out hg1
      have HC1 : Hid (Cur w1 B c a len cap zs) := hc1
      have HN : Hid (∀ j u, [Value.int .u8 x][j]? = some u → (w1.alloc (.cells #[.int .u8 x] 5)).cell? ((⟨w1.heap.size, 0, none⟩ : Addr).add j) = some u) := one_new w1 x
      have hsz := HG1.out.size
      clear hc1 hg1 HO HC HG
      go_wp2_with (at_builtin; refine wpList_append_own _ rfl _ _ 22 rfl w.heap.size 5 i0 (.int .u8 0) 1 1 Tryz.underlying22 hi hz0 hz1 hz2 rfl (by decide) (.slice (some ⟨g, 0, none⟩) k cp) k _ rfl (HO1.out.alloc _) ⟨w1.heap.size, 0, none⟩ 1 1 [.int .u8 x] rfl rfl HN.out (ints_one [x]) (by unfold maxLen; omega) (by omega) (by simp; omega) ?_; intro v2 w2 hown2 hgrow2 hnil; refine Hid.out ?_)
      refine hidden ?_
      obtain ⟨g2, cp2, rfl, hg2⟩ := own_some5 hown2 (fun e => by have := (hnil.1 e).1; simp at this)
      have HO2 : Hid (w2.ownsRow w.heap.size 5 1 (.slice (some ⟨g2, 0, none⟩) (k + 1) cp2) (k + 1) ((ys ++ [x]).map (Value.int .u8)) ∧ (∀ z ∈ ys ++ [x], 0 ≤ z ∧ z ≤ 255)) := by
        refine ⟨by rw [List.map_append]; exact hown2, ?_⟩
        intro z hz
        rcases List.mem_append.1 hz with hz | hz
        · exact HY.out z hz
        · obtain rfl : z = x := by simpa using hz
          exact ⟨hx0, hx1⟩
      have hrow : ∀ j, (Value.slice (some ⟨g, 0, none⟩) k cp).ownBlock = some j → w.heap.size ≤ j ∧ j ≠ c := by
        intro j hj
        have : g = j := by simpa [Value.ownBlock] using hj
        omega
      have HG2 : Hid (w.grownBy w2 (some c)) := gown (gown HG1.out (World.grownBy_alloc w1 _ none) (by simp)) hgrow2 (fun j hj => (hrow j hj).1)
      have HC2 : Hid (Cur w2 B c a len cap zs) := (HC1.out.kept (World.grownBy_alloc w1 _ none) (by simp)).kept hgrow2 (fun j hj => ⟨by have := (hrow j hj).1; have := HB.out; omega, (hrow j hj).2⟩)
      clear hown2 hgrow2 hnil HO1 HC1 HG1 HN hrow
      go_wp2_with fail
      go_roundw
      case rel => exact ⟨k + 1, g2, cp2, ys ++ [x], by omega, by go_num, rfl, hg2, HO2, HC2, HG2⟩
      case measure => simp [intOf]; omega
    · have hkn : k = n := by omega
      subst hkn
      go_wp2_with fail
      go_ret
      exact ⟨g, cp, ys, rfl, hgw, ⟨HO.out.1, HO.out.2⟩, HC.out, HG.out⟩


end Go.Proofs.YtjaihnmhojabfaaGreatDoor

namespace Go.Proofs.YtjaihnmhojabfaaGreatDoor
open Go.RowKit
set_option linter.unusedVariables false

theorem gotU_all {us : List U} {id : ByteArray} {Q : U → Prop} (h : ∀ u ∈ us, Q u) (h0 : Q ⟨⟨#[]⟩, 0, [], false⟩) : Q (gotU us id) := by
  cases ha : atU us id with
  | none => rw [gotU_none ha]; exact h0
  | some k =>
    rw [gotU, ha]
    dsimp only
    rw [List.getD_eq_getElem?_getD]
    cases hk : us[k]? with
    | none => exact h0
    | some u => exact h u (List.mem_of_getElem? hk)

theorem off_small {x : Int} {Z : Nat} (hz : Z ≤ 4800) (h : x ∈ [(Z : Int), (Z : Int), (Z : Int), 0, IntKind.i64.wrap ((Z : Int) + 1), -1]) : -1 ≤ x ∧ x ≤ 4801 := by
  have hw : IntKind.i64.wrap ((Z : Int) + 1) = (Z : Int) + 1 := by rw [IntKind.wrap_i64]; omega
  rw [hw] at h
  simp only [List.mem_cons, List.not_mem_nil, or_false] at h
  omega

/-- Bytes of one's own behind the store that is answered. -/
theorem owns_five {W : World} {base : Nat} {vs : List Value} (hz : BoxN W base 29 vs) {lo : Nat} {da : Option Addr} {dn dc : Nat} {ys : List Int} (h : Owns W lo da dn dc ys) (hlo : base ≤ lo) (v0 v1 v2 v3 v4 : Value) : Owns (((((W.setCell ⟨base, 0, none⟩ v0).setCell ⟨base, 1, none⟩ v1).setCell ⟨base, 2, none⟩ v2).setCell ⟨base, 3, none⟩ v3).setCell ⟨base, 4, none⟩ v4) base da dn dc ys := by
  have n0 := h.other (show W.heap[base]? = _ from hz) (by decide)
  exact Owns.low (owns_set (owns_set (owns_set (owns_set (owns_set h n0) n0) n0) n0) n0) hlo

set_option maxRecDepth 10000 in
set_option maxHeartbeats 12800000 in
theorem drawPutUp_any (a : Option Addr) (len cap : Nat) (zs : List Int) (w : World) (hs : Seg w a len zs) (hl : len ≤ 1099511627776) :
    Calls Tryz.prog 14 #[.slice a len cap] w fun e w' => (∃ v id off da dn dc ys, e = .returned (.tuple #[v, .string id, .int .i64 off, .slice da dn dc]) ∧ DrawnB w.heap.size v w' ∧ id.size ≤ 3 ∧ (-1 ≤ off ∧ off ≤ 4801) ∧ Owns w' w.heap.size da dn dc ys ∧ dn ≤ 1000000000 ∧ dn ≤ dc) ∧ Below w.heap.size w w' := by
  obtain ⟨w1, hw1⟩ : ∃ w1, w.alloc (.cells #[.slice none 0 0, .slice none 0 0, .int .i64 0, .int .i64 0, .slice none 0 0] 29) = w1 := ⟨_, rfl⟩
  have HE : Hid (w.alloc (.cells #[.slice none 0 0, .slice none 0 0, .int .i64 0, .int .i64 0, .slice none 0 0] 29) = w1) := hw1
  have HZ1 : Hid (BoxN w1 w.heap.size 29 [.slice none 0 0, .slice none 0 0, .int .i64 0, .int .i64 0, .slice none 0 0]) := by show BoxN _ _ _ _; rw [← hw1]; exact BoxN.new _ _ _
  have HB1 : Hid (Below w.heap.size w w1) := by show Below _ _ _; rw [← hw1]; exact (Below.refl _ _).alloc (Nat.le_refl _) _
  have HS : Hid (Seg w1 a len zs) := hs.below HB1.out
  clear hs hw1
  go_enter Tryz.func14, Tryz.ntmps14
  go_wp2_with fail
  rw [HE.out]
  clear HE
  refine (l1New_any a len cap zs w1 HS.out hl).mono ?_
  rintro e w2 ⟨rfl, hc2, hb2⟩
  have hlt : w.heap.size < w1.heap.size := HZ1.out.lt
  have HZ2 : Hid (BoxN w2 w.heap.size 29 [.slice none 0 0, .slice none 0 0, .int .i64 0, .int .i64 0, .slice none 0 0]) := HZ1.out.stays hb2
  have HB2 : Hid (Below w.heap.size w w2) := HB1.out.trans (hb2.mono HB1.out.size)
  obtain ⟨cc, hcc⟩ : ∃ cc, w1.heap.size = cc := ⟨_, rfl⟩
  rw [hcc] at hc2 hlt ⊢
  have HC2 : Hid (Cur w2 cc cc a len cap zs) := hc2
  clear hc2 hb2 HZ1 HB1 HS hcc
  go_wp2_with fail
  refine (l1Size_pos a len cap 20 w2 hl (by omega) (by omega)).mono ?_
  rintro e w2 ⟨⟨n, rfl, hn1, hn⟩, rfl⟩
  go_wp2_with fail
  refine (l14Any_any cc cc a len cap zs n w2 HC2.out hl hn1 (by omega)).mono ?_
  rintro e w6 ⟨⟨v, rfl, X, Y, ep, nx, us, hans, hbn⟩, hc6, hg6⟩
  obtain ⟨A, C, A', C', ua, uc, l, rfl, hs6, hm6⟩ := hans.get
  subst hm6
  obtain ⟨M, hM⟩ : ∃ M, (l.map UE.u).length = M := ⟨_, rfl⟩
  rw [hM] at hs6 ⊢
  have HD6 : Hid (DSw w (w6.alloc (.cells #[.slice A X.length C, .slice A' Y.length C', .int .i64 ep, .int .i64 nx, .slice ua M uc] 29)) cc a len cap zs w6.heap.size A X.length C X A' Y.length C' Y ep nx ua M uc l) := by
    have hcl : cc < w2.heap.size := HC2.out.lt
    have hsz := hg6.size
    have hb4 : Below w6.heap.size w6 (w6.alloc (.cells #[.slice A X.length C, .slice A' Y.length C', .int .i64 ep, .int .i64 nx, .slice ua M uc] 29)) := (Below.refl _ _).alloc (Nat.le_refl _) _
    have hb6 : Below w.heap.size w w6 := HB2.out.grown hg6 HB2.out.size (fun k e => by injection e with e; omega)
    exact ⟨BoxN.new _ _ _, (HZ2.out.grown hg6 (fun e => by injection e with e; omega)).stays hb4, (hs6.stays hb4).low (by omega), hc6.new _, hb6.trans (hb4.mono hb6.size), hbn, hlt, by omega⟩
  clear hans hs6 hbn hc6 hg6 HC2 HB2 HZ2 hM hn hn1
  go_upto_region 3 with fail
  obtain ⟨w4, hw4⟩ : ∃ w4, w6.alloc (.cells #[.slice A X.length C, .slice A' Y.length C', .int .i64 ep, .int .i64 nx, .slice ua M uc] 29) = w4 := ⟨_, rfl⟩
  rw [hw4] at HD6 ⊢
  clear hw4
  obtain ⟨b, hb⟩ : ∃ b, w6.heap.size = b := ⟨_, rfl⟩
  rw [hb] at HD6 ⊢
  clear hb
  have hcw : cc < w4.heap.size := HD6.out.cur.lt
  go_wp2_with fail
  refine (l14Id_any cc cc a len cap zs w4 HD6.out.cur hl).mono ?_
  rintro e w7 ⟨id, rfl, hid, hc7, hg7⟩
  have HD7 := (show Hid _ from HD6.out.call hc7 hg7)
  have HId : Hid (id.size ≤ 3) := hid
  clear hc7 hg7 HD6 hid hcw
  obtain ⟨c0, c1, c2, c3, c4⟩ := (show _ ∧ _ ∧ _ ∧ _ ∧ _ from ⟨BoxN.cell HD7.out.box 0 rfl, BoxN.cell HD7.out.box 1 rfl, BoxN.cell HD7.out.box 2 rfl, BoxN.cell HD7.out.box 3 rfl, BoxN.cell HD7.out.box 4 rfl⟩)
  have HP := (show Hid _ from HD7.out.sto.preB HD7.out.bnd)
  have hun := HP.out.2.2.2.2.2.2.2.1
  have HUb : Hid (0 ≤ (gotU (l.map UE.u) id).want ∧ (gotU (l.map UE.u) id).want ≤ 1000000000 ∧ (gotU (l.map UE.u) id).zs.length ≤ 4800) := by
    have hq := HD7.out.bnd.2.2.2.2.1
    exact gotU_all (Q := fun u => 0 ≤ u.want ∧ u.want ≤ 1000000000 ∧ u.zs.length ≤ 4800) (fun u hu => ⟨(hq u hu).2.1, (hq u hu).2.2, (hq u hu).1⟩) (by decide)
  go_wp2_with fail
  refine (specUpAt_any A X.length C A' Y.length C' ep nx ua M uc (cc + 1) l id w7 HP.out.2.2.2.2.2.1 HP.out.2.2.2.2.2.2.1 (by omega) (fun e he => by have := HP.out.2.2.2.2.2.2.2.2.1 e he; omega)).mono ?_
  rintro e w8 ⟨⟨UA, UC, rfl, hown⟩, hb8⟩
  obtain ⟨u, hu⟩ : ∃ u, gotU (l.map UE.u) id = u := ⟨_, rfl⟩
  obtain ⟨okb, hok⟩ : ∃ okb, (atU (l.map UE.u) id).isSome = okb := ⟨_, rfl⟩
  rw [hu] at HUb hown ⊢
  rw [hok]
  obtain ⟨Z, hZ⟩ : ∃ Z, u.zs.length = Z := ⟨_, rfl⟩
  rw [hZ] at HUb hown ⊢
  have hb9 : Below w8.heap.size w8 (w8.alloc (.cells #[.string u.id, .int .i64 u.want, .slice UA Z UC, .bool u.done] 36)) := (Below.refl _ _).alloc (Nat.le_refl _) _
  have HDa := (show Hid _ from (HD7.out.stays hb8).stays hb9)
  have HBu : Hid (BoxN (w8.alloc (.cells #[.string u.id, .int .i64 u.want, .slice UA Z UC, .bool u.done] 36)) w8.heap.size 36 [.string u.id, .int .i64 u.want, .slice UA Z UC, .bool u.done]) := BoxN.new _ _ _
  have hccu : cc < w8.heap.size := (HD7.out.stays hb8).cur.lt
  have hz0 : Z ≤ 4800 := HUb.out.2.2
  clear hu hok hZ hown hb8 hb9 HD7 HP hun c0 c1 c2 c3 c4
  go_upto_region 5 with fail
  obtain ⟨w9, hw9⟩ : ∃ w9, w8.alloc (.cells #[.string u.id, .int .i64 u.want, .slice UA Z UC, .bool u.done] 36) = w9 := ⟨_, rfl⟩
  rw [hw9] at HDa HBu ⊢
  clear hw9
  obtain ⟨bu, hbu⟩ : ∃ bu, w8.heap.size = bu := ⟨_, rfl⟩
  rw [hbu] at HBu hccu ⊢
  clear hbu
  have hcw9 : cc < w9.heap.size := HDa.out.cur.lt
  go_wp2_with fail
  refine (l1Int_any cc cc a len cap zs w9.heap.size 5 5 [1, 3, 25, 0, 401] _ (HDa.out.new _).cur hl (heap_alloc_new w9 _) (by omega) rfl (by omega) (by omega)).mono ?_
  rintro e w10 ⟨n0, rfl, hn0, hc10, hg10⟩
  have HDb := (show Hid _ from (HDa.out.new _).call hc10 hg10)
  have hg910 : w9.grownBy w10 (some cc) := gtrans (World.grownBy_alloc w9 _ _) hg10
  have HBb := (show Hid _ from BoxN.grown HBu.out hg910 (fun e => by injection e with e; omega))
  have hn1 : 0 ≤ n0 ∧ n0 ≤ 401 := by simp only [List.mem_cons, List.not_mem_nil, or_false] at hn0; omega
  clear hn0 hc10 hg10 hg910 HDa HBu hcw9
  obtain ⟨nn, rfl⟩ := Int.eq_ofNat_of_zero_le hn1.1
  have hnn : nn ≤ 401 := by omega
  clear hn1
  go_upto_region 6 with fail
  go_cut [38] from 39 (fun v W => ∃ q : Bool, v = .bool q ∧ Hid (q = true → (Z : Int) < u.want) ∧ Hid (DSw w W cc a len cap zs b A X.length C X A' Y.length C' Y ep nx ua M uc l ∧ BoxN W bu 36 [.string u.id, .int .i64 u.want, .slice UA Z UC, .bool u.done]))
  case first =>
    go_wp2_with fail
    refine (l1Once_any cc cc a len cap zs 2 w10 HDb.out.cur hl (by omega) (by omega)).mono ?_
    rintro e w11 ⟨bb, rfl, hc11, hg11⟩
    have HDc := (show Hid _ from HDb.out.call hc11 hg11)
    have HBc := (show Hid _ from BoxN.grown HBb.out hg11 (fun e => by injection e with e; omega))
    clear hc11 hg11 HDb HBb
    have HF := (show Hid _ from And.intro HDc.out HBc.out)
    have p1 := BoxN.cell HBc.out 1 rfl
    have p2 := BoxN.cell HBc.out 2 rfl
    cases bb with
    | false =>
      clear p1 p2
      go_wp2_with fail
      go_meet
      exact ⟨false, rfl, (fun h => by cases h), HF⟩
    | true =>
    obtain ⟨wt, hwt⟩ : ∃ wt, u.want = wt := ⟨_, rfl⟩
    have HWt : Hid (u.want = wt) := hwt
    rw [hwt] at p1
    clear hwt
    by_cases hgt : (Z : Int) < wt
    · have hd1 : decide ((Z : Int) < wt) = true := by simpa using hgt
      have HQ : Hid (true = true → (Z : Int) < u.want) := fun _ => by rw [HWt.out]; exact hgt
      clear hgt
      go_wp2_with fail
      go_meet
      exact ⟨true, rfl, fun _ => HQ.out trivial, HF⟩
    · have hd1 : decide ((Z : Int) < wt) = false := by simpa using hgt
      clear hgt
      go_wp2_with fail
      go_meet
      exact ⟨false, rfl, (fun h => by cases h), HF⟩
  case rest =>
  obtain ⟨ws, hws⟩ : ∃ ws, wc = ws := ⟨_, rfl⟩
  rw [hws] at hcut ⊢
  clear hws HDb HBb
  obtain ⟨q38, rfl, HQ, HF⟩ := hcut
  go_upto_if 38 with fail
  go_cut [11] from 39 (fun v W => ∃ k : Nat, v = .int .i64 (k : Int) ∧ k ≤ 1000000000 ∧ Hid (DSw w W cc a len cap zs b A X.length C X A' Y.length C' Y ep nx ua M uc l ∧ BoxN W bu 36 [.string u.id, .int .i64 u.want, .slice UA Z UC, .bool u.done]))
  case first =>
    have p1 := BoxN.cell HF.out.2 1 rfl
    have p2 := BoxN.cell HF.out.2 2 rfl
    cases q38 with
    | false =>
      clear p1 p2 HQ
      go_wp2_with fail
      go_meet
      exact ⟨nn, rfl, by omega, HF⟩
    | true =>
    obtain ⟨wt, hwt⟩ : ∃ wt, u.want = wt := ⟨_, rfl⟩
    have hwb := HUb.out
    have hgt : (Z : Int) < wt := by rw [← hwt]; exact HQ.out rfl
    rw [hwt] at hwb p1
    clear hwt HQ
    obtain ⟨hwb0, hwb1, _⟩ := hwb
    obtain ⟨q, hq⟩ := Int.eq_ofNat_of_zero_le (show 0 ≤ wt - (Z : Int) by omega)
    have hqw : IntKind.i64.wrap (wt - (Z : Int)) = (q : Int) := by rw [hq, IntKind.wrap_i64]; omega
    have hqb : q ≤ 1000000000 := by omega
    clear hq hgt
    go_wp2_with fail
    go_meet
    exact ⟨q, rfl, hqb, HF⟩
  case rest =>
  obtain ⟨wr, hwr⟩ : ∃ wr, wc = wr := ⟨_, rfl⟩
  rw [hwr] at hcut ⊢
  clear hwr HF HQ
  obtain ⟨k, rfl, hk, HD⟩ := hcut
  have HDd : Hid (DSw w wr.drew cc a len cap zs b A X.length C X A' Y.length C' Y ep nx ua M uc l ∧ BoxN wr.drew bu 36 [.string u.id, .int .i64 u.want, .slice UA Z UC, .bool u.done]) := ⟨HD.out.1.drew, HD.out.2.stays (Below.refl _ _).drew⟩
  have HDa : Hid (∀ o, DSw w ((wr.alloc o).drew) cc a len cap zs b A X.length C X A' Y.length C' Y ep nx ua M uc l ∧ BoxN ((wr.alloc o).drew) bu 36 [.string u.id, .int .i64 u.want, .slice UA Z UC, .bool u.done]) := fun o => ⟨(HD.out.1.new o).drew, (HD.out.2.alloc o).stays (Below.refl _ _).drew⟩
  have q0 : ∀ o, (wr.alloc o).drew.cell? ⟨b, 0, none⟩ = _ := fun o => BoxN.cell (HDa.out o).1.box 0 rfl
  have q1 : ∀ o, (wr.alloc o).drew.cell? ⟨b, 1, none⟩ = _ := fun o => BoxN.cell (HDa.out o).1.box 1 rfl
  have q2 : ∀ o, (wr.alloc o).drew.cell? ⟨b, 2, none⟩ = _ := fun o => BoxN.cell (HDa.out o).1.box 2 rfl
  have q3 : ∀ o, (wr.alloc o).drew.cell? ⟨b, 3, none⟩ = _ := fun o => BoxN.cell (HDa.out o).1.box 3 rfl
  have q4 : ∀ o, (wr.alloc o).drew.cell? ⟨b, 4, none⟩ = _ := fun o => BoxN.cell (HDa.out o).1.box 4 rfl
  have q5 : ∀ o, (wr.alloc o).drew.cell? ⟨bu, 2, none⟩ = _ := fun o => BoxN.cell (HDa.out o).2 2 rfl
  have hbl := HD.out.1.low
  have hlc := HD.out.1.lc
  have hcw : cc < wr.heap.size := HD.out.1.cur.lt
  clear HD
  obtain ⟨c0, c1, c2, c3, c4⟩ := (show _ ∧ _ ∧ _ ∧ _ ∧ _ from ⟨BoxN.cell HDd.out.1.box 0 rfl, BoxN.cell HDd.out.1.box 1 rfl, BoxN.cell HDd.out.1.box 2 rfl, BoxN.cell HDd.out.1.box 3 rfl, BoxN.cell HDd.out.1.box 4 rfl⟩)
  have c5 := BoxN.cell HDd.out.2 2 rfl
  go_upto_region 8 with fail
  go_region_held3 (fun W => W.cell? ⟨b, 0, none⟩ = some (.slice A X.length C) ∧ W.cell? ⟨b, 1, none⟩ = some (.slice A' Y.length C') ∧ W.cell? ⟨b, 2, none⟩ = some (.int .i64 ep) ∧ W.cell? ⟨b, 3, none⟩ = some (.int .i64 nx) ∧ W.cell? ⟨b, 4, none⟩ = some (.slice ua M uc) ∧ W.cell? ⟨bu, 2, none⟩ = some (.slice UA Z UC)) (first | with_reducible exact ⟨c0, c1, c2, c3, c4, c5⟩ | with_reducible exact ⟨q0 _, q1 _, q2 _, q3 _, q4 _, q5 _⟩ | with_reducible exact ⟨e0, e1, e2, e3, e4, e5⟩ | with_reducible exact ⟨m0, m1, m2, m3, m4, m5⟩ | with_reducible exact ⟨t0 _ _ _ _ _, t1 _ _ _ _ _, t2 _ _ _ _ _, t3 _ _ _ _ _, t4 _ _ _ _ _, t5 _ _ _ _ _⟩ | fail) (first
    | (go_at_call 35
       refine (l1Int_any cc cc a len cap zs wr.heap.size 6 6 [(Z : Int), (Z : Int), (Z : Int), 0, IntKind.i64.wrap ((Z : Int) + 1), -1] _ (HDa.out _).1.cur hl (BoxN.stays (BoxN.new wr 3 ([(Z : Int), (Z : Int), (Z : Int), 0, IntKind.i64.wrap ((Z : Int) + 1), -1].map (Value.int .i64))) (Below.refl _ _).drew) (by omega) rfl (by omega) (by omega)).mono ?_; rintro e y1 ⟨x, rfl, hx, hc1, hg1⟩
       have hD1 := (HDa.out _).1.call hc1 hg1
       have HX := (show Hid _ from off_small hz0 hx)
       have hB1 := BoxN.grown (HDa.out _).2 hg1 (fun e => by injection e with e; omega)
       obtain ⟨e0, e1, e2, e3, e4⟩ := (show _ ∧ _ ∧ _ ∧ _ ∧ _ from ⟨BoxN.cell hD1.box 0 rfl, BoxN.cell hD1.box 1 rfl, BoxN.cell hD1.box 2 rfl, BoxN.cell hD1.box 3 rfl, BoxN.cell hD1.box 4 rfl⟩)
       have e5 := BoxN.cell hB1 2 rfl
       clear hx hc1 hg1)
    | (go_at_call 54
       refine (l1Bytes_big cc cc a len cap zs k y1 hD1.cur hl (by omega)).mono ?_; rintro e y2 ⟨gd, cd, ys, rfl, hgd, hod, hc2, hg2⟩
       have hD2 := hD1.call hc2 hg2
       have hB2 := BoxN.grown hB1 hg2 (fun e => by injection e with e; omega)
       obtain ⟨m0, m1, m2, m3, m4⟩ := (show _ ∧ _ ∧ _ ∧ _ ∧ _ from ⟨BoxN.cell hD2.box 0 rfl, BoxN.cell hD2.box 1 rfl, BoxN.cell hD2.box 2 rfl, BoxN.cell hD2.box 3 rfl, BoxN.cell hD2.box 4 rfl⟩)
       have m5 := BoxN.cell hB2 2 rfl
       have HO1 := (show Hid _ from hod)
       have HSz1 := (show Hid _ from hD1.zero.lt)
       clear hod hc2 hg2
       obtain ⟨z0, z1, z2, z3, z4⟩ := (show _ ∧ _ ∧ _ ∧ _ ∧ _ from ⟨BoxN.cell hD2.zero 0 rfl, BoxN.cell hD2.zero 1 rfl, BoxN.cell hD2.zero 2 rfl, BoxN.cell hD2.zero 3 rfl, BoxN.cell hD2.zero 4 rfl⟩)
       obtain ⟨g0, g1, g2, g3, g4⟩ := (show _ ∧ _ ∧ _ ∧ _ ∧ _ from ⟨BoxN.frozen hD2.zero 0, BoxN.frozen hD2.zero 1, BoxN.frozen hD2.zero 2, BoxN.frozen hD2.zero 3, BoxN.frozen hD2.zero 4⟩)
       have hnbw : b ≠ w.heap.size := by omega
       have hnbu : bu ≠ w.heap.size := by omega
       have t0 := fun (v0 v1 v2 v3 v4 : Value) => BoxN.cell (BoxN.other (BoxN.other (BoxN.other (BoxN.other (BoxN.other hD2.box hnbw v0 (k := 0)) hnbw v1 (k := 1)) hnbw v2 (k := 2)) hnbw v3 (k := 3)) hnbw v4 (k := 4)) 0 rfl
       have t1 := fun (v0 v1 v2 v3 v4 : Value) => BoxN.cell (BoxN.other (BoxN.other (BoxN.other (BoxN.other (BoxN.other hD2.box hnbw v0 (k := 0)) hnbw v1 (k := 1)) hnbw v2 (k := 2)) hnbw v3 (k := 3)) hnbw v4 (k := 4)) 1 rfl
       have t2 := fun (v0 v1 v2 v3 v4 : Value) => BoxN.cell (BoxN.other (BoxN.other (BoxN.other (BoxN.other (BoxN.other hD2.box hnbw v0 (k := 0)) hnbw v1 (k := 1)) hnbw v2 (k := 2)) hnbw v3 (k := 3)) hnbw v4 (k := 4)) 2 rfl
       have t3 := fun (v0 v1 v2 v3 v4 : Value) => BoxN.cell (BoxN.other (BoxN.other (BoxN.other (BoxN.other (BoxN.other hD2.box hnbw v0 (k := 0)) hnbw v1 (k := 1)) hnbw v2 (k := 2)) hnbw v3 (k := 3)) hnbw v4 (k := 4)) 3 rfl
       have t4 := fun (v0 v1 v2 v3 v4 : Value) => BoxN.cell (BoxN.other (BoxN.other (BoxN.other (BoxN.other (BoxN.other hD2.box hnbw v0 (k := 0)) hnbw v1 (k := 1)) hnbw v2 (k := 2)) hnbw v3 (k := 3)) hnbw v4 (k := 4)) 4 rfl
       have t5 := fun (v0 v1 v2 v3 v4 : Value) => BoxN.cell (BoxN.other (BoxN.other (BoxN.other (BoxN.other (BoxN.other hB2 hnbu v0 (k := 0)) hnbu v1 (k := 1)) hnbu v2 (k := 2)) hnbu v3 (k := 3)) hnbu v4 (k := 4)) 2 rfl
       )
    | fail)
  all_goals
    have HR := (show Hid _ from hD2.done)
    have hsz := HSz1.out
    have hod := HO1.out
    have HOw := (show Hid _ from owns_five hD2.zero hod (Nat.le_of_lt hsz) (.slice A X.length C) (.slice A' Y.length C') (.int .i64 ep) (.int .i64 nx) (.slice ua M uc))
    have hkc : k ≤ cd := owns_cap hod
    clear HO1 HSz1 hD1 hD2 hB1 hB2 HDd HDa q0 q1 q2 q3 q4 q5 hod hsz hgd c0 c1 c2 c3 c4 c5 e0 e1 e2 e3 e4 e5 m0 m1 m2 m3 m4 m5 t0 t1 t2 t3 t4 t5
    go_wp2_with fail
    refine bodyPost_ret (v := .tuple #[.agg #[.slice A X.length C, .slice A' Y.length C', .int .i64 ep, .int .i64 nx, .slice ua M uc], .string id, .int .i64 x, .slice (some ⟨gd, 0, none⟩) k cd]) (by simp [results, Tryz.f14, go_sem, z0, z1, z2, z3, z4]) rfl ?_
    exact ⟨⟨_, id, x, _, _, _, ys, rfl, HR.out.1, HId.out, HX.out, HOw.out, hk, hkc⟩, HR.out.2⟩

end Go.Proofs.YtjaihnmhojabfaaGreatDoor

namespace Go.Proofs.YtjaihnmhojabfaaGreatDoor
open Go.RowKit
set_option linter.unusedVariables false

/-- What the program's DoneUp answers: room is asked for ahead of the sum. -/
noncomputable def doneI (X Y : List ByteArray) (ep nx : Int) (us : List U) (id : ByteArray) (sum : Int) : WA :=
  if decB (SOk X Y ep nx us) = true ∧ idB id.data.toList = true then
    match atU us id with
    | none => ⟨X, nx, us, 2⟩
    | some k => match us[k]? with
      | none => ⟨X, nx, us, 2⟩
      | some u =>
        if (u.zs.length : Int) < u.want then ⟨X, nx, us, 4⟩
        else if u.done = false ∧ ¬ nx < (X.length : Int) then ⟨X, nx, us, 5⟩
        else if sum ≠ crcI u.zs then ⟨X, nx, us, 6⟩
        else if u.done = true then ⟨X, nx, us, 0⟩
        else wroteA X ep nx us [doneR id]
  else ⟨X, nx, us, 1⟩

theorem putU_all (us : List U) (k : Nat) (u : U) (zs : List Int) : putU us k u zs (pcs zs.length) = us.set k { u with zs := u.zs ++ zs } := by
  have h : 24 * pcs zs.length ≥ zs.length := by unfold pcs; omega
  rw [putU, List.take_of_length_le h]

theorem kept_all {X Y : List ByteArray} {ep nx : Int} {us : List U} {id : ByteArray} {off : Int} {zs : List Int} {A : WA} (hA : putA X Y ep nx us id off zs = A) (h : A.c = 0) (hz : ∀ x ∈ zs, 0 ≤ x ∧ x ≤ 255) :
    ∃ k u, atU us id = some k ∧ us[k]? = some u ∧ u.done = false ∧ SOk A.X Y ep A.nx A.us ∧ A.us.length = us.length ∧ atU A.us id = some k ∧ A.us[k]? = some { u with zs := u.zs ++ zs } ∧
      (((u.zs ++ zs).length : Int) < u.want → (doneI A.X Y ep A.nx A.us id (crcI (u.zs ++ zs))).c = 4) ∧
      (¬ ((u.zs ++ zs).length : Int) < u.want → ((doneI A.X Y ep A.nx A.us id (crcI (u.zs ++ zs))).c = 0 ∧ atU (doneI A.X Y ep A.nx A.us id (crcI (u.zs ++ zs))).us id = some k ∧ (doneI A.X Y ep A.nx A.us id (crcI (u.zs ++ zs))).us[k]? = some { u with zs := u.zs ++ zs, done := true }) ∨ (doneI A.X Y ep A.nx A.us id (crcI (u.zs ++ zs))).c = 5) := by
  have h0 : (putA X Y ep nx us id off zs).c = 0 := by rw [hA]; exact h
  obtain ⟨hso, hi, hl, k, u, h4, h5, h6, h7, h8, h9, hf, he⟩ := putA_yes h0
  have hw := hso.wants u (List.mem_of_getElem? h5)
  have hlen := dataRs_len id off zs
  have hsA : SOk A.X Y ep A.nx A.us := by
    rw [← hA, he]
    have := wrote_ok (rs := dataRs id off zs) hso (dataRs_ok hi (by omega) (by omega) hz) (by rw [hlen]; exact h9) hf
    rw [hlen] at this
    exact this
  have hAu : A.us = us.set k { u with zs := u.zs ++ zs } := by rw [← hA, he, ← putU_all]
  have hkl : k < us.length := (List.getElem?_eq_some_iff.1 h5).1
  have hat : atU A.us id = some k := by rw [hAu]; exact atU_set h4 h5 rfl
  have hget : A.us[k]? = some { u with zs := u.zs ++ zs } := by rw [hAu, List.getElem?_set_self hkl]
  refine ⟨k, u, h4, h5, h6, hsA, by rw [hAu, List.length_set], hat, hget, fun hlt => ?_, fun hge => ?_⟩
  · unfold doneI
    rw [if_pos ⟨decB_true hsA, hi⟩, hat]
    dsimp only
    rw [hget]
    dsimp only
    rw [if_pos hlt]
  · have hfit := hsA.fits _ (List.mem_of_getElem? hget)
    unfold doneI
    rw [if_pos ⟨decB_true hsA, hi⟩, hat]
    dsimp only
    rw [hget]
    dsimp only
    rw [if_neg hge]
    by_cases hr : A.nx < (A.X.length : Int)
    · left
      rw [if_neg (fun h => h.2 hr), if_neg (fun h => h rfl), if_neg (by rw [h6]; simp)]
      have hwant : ((u.zs ++ zs).length : Int) = u.want := by have := hfit.1; dsimp only at this; omega
      have ho := done_fits hat hget h6 hwant
      have hf2 : [doneR id].foldlM oneU A.us = some (A.us.set k { u with zs := u.zs ++ zs, done := true }) := by rw [List.foldlM_cons, ho]; rfl
      have hkA : k < A.us.length := by rw [hAu, List.length_set]; exact hkl
      rw [wroteA, hf2]
      exact ⟨rfl, atU_set hat hget rfl, by show (A.us.set k _)[k]? = _; rw [List.getElem?_set_self hkA]⟩
    · right
      rw [if_pos ⟨h6, hr⟩]

end Go.Proofs.YtjaihnmhojabfaaGreatDoor

namespace Go.Proofs.YtjaihnmhojabfaaGreatDoor
open Go.RowKit
set_option linter.unusedVariables false

theorem fold_fit {rs : List R} : ∀ {us us' : List U}, (∀ u ∈ us, UFit u) → (∀ r ∈ rs, r.ok = true) → rs.foldlM oneU us = some us' → ∀ u ∈ us', UFit u := by
  induction rs with
  | nil =>
    intro us us' h1 _ h
    obtain rfl : us = us' := by simpa using h
    exact h1
  | cons r rs ih =>
    intro us us' h1 hr h
    rw [List.foldlM_cons] at h
    cases ho : oneU us r with
    | none => rw [ho] at h; cases h
    | some u1 =>
      rw [ho] at h
      have hrn := okRec_iff (hr r (List.mem_cons_self ..))
      exact ih (oneU_fit (by omega) ho h1) (fun x hx => hr x (List.mem_cons_of_mem _ hx)) h

theorem SOk.fitsU {X Y : List ByteArray} {ep nx : Int} {us : List U} (h : SOk X Y ep nx us) : ∀ u ∈ us, UFit u :=
  fold_fit (us := []) (by simp) (fun r hr => scan_allok X r hr) h.2.2.1

theorem fit_no {u : U} {off : Int} {d : Nat} (h : fitB u off d = false) (hw : 0 ≤ u.want ∧ u.want ≤ 1000000000) : u.done = true ∨ off ≠ (u.zs.length : Int) ∨ u.want < off + (d : Int) := by
  by_cases h1 : u.done = true
  · exact .inl h1
  by_cases h2 : off = (u.zs.length : Int)
  case neg => exact .inr (.inl h2)
  refine .inr (.inr ?_)
  have h3 : u.done = false := by simpa using h1
  rw [fitB, h3] at h
  simp at h
  omega

theorem fit_yes {u : U} {off : Int} {d : Nat} (h : fitB u off d = true) : ¬ (u.done = true ∨ off ≠ (u.zs.length : Int) ∨ u.want < off + (d : Int)) := by
  rw [fitB] at h
  simp at h
  rintro (h1 | h1 | h1)
  · rw [h1] at h; simp at h
  · exact h1 (by omega)
  · omega

end Go.Proofs.YtjaihnmhojabfaaGreatDoor

/- An append onto a row of the call's own that has a block, of whatever may be appended: it has a block behind it, too. No program in it. What PutFields answers, and what its loop keeps. What the program's PutFields answers. -/
import Derived.Test.YtghakpcagacdaalM04
import Derived.Test.YtghakpcagacdaalM30
import Derived.Test.YtghakpcagacdaalL01
import Derived.Test.YtghakpcagacdaalM26
import Derived.Deep.Cut
namespace Go.Proofs.Ytghakpcagacdaal
open Go.RowKit
set_option linter.unusedVariables false

theorem run_append_got {P : Program} (w : World) (base : Nat) (t tx ty e : TypeId) (i : TypeInfo) (z : Value) (size bytes : Nat) (ht : P.underlying t = some (.slice e)) (hi : P.info? e = some i) (hz : i.zero = some z)
    (hsize : i.size = size) (hby : i.bytes = bytes) (hzs : z.cells.size = size) (hsz : 0 < size)
    (g n cap : Nat) (xs : List Value) (hown : w.ownsRow base e size (.slice (some ⟨g, 0, none⟩) n cap) n xs)
    (x : Value) (m : Nat) (news : List Value) (hs : Src P size tx x m news w)
    (h63 : n + m ≤ maxLen) (hbytes : (n + m) * bytes ≤ 140737488355328) (hbase : base ≤ w.heap.size) :
    ∃ g' c' w', (Builtin.append_ #[t, tx] ty #[.slice (some ⟨g, 0, none⟩) n cap, x]).run P w = .ok (.slice (some ⟨g', 0, none⟩) (n + m) c') w' ∧ w'.ownsRow base e size (.slice (some ⟨g', 0, none⟩) (n + m) c') (n + m) (xs ++ news) ∧ w.grownBy w' (some g) := by
  subst hsize
  subst hby
  have hsmall : n + m ≤ 9223372036854775807 := by simp only [maxLen] at h63; omega
  have hl := hs.newsLen
  have hlen : (xs ++ news).length = (n + m) * i.size := by rw [List.length_append, hown.1, hl, Nat.add_mul]
  rcases hown.2 with ⟨h, _⟩ | ⟨g', cap', cur, heq, hbg, hg, hnc, hcm, hcs, htake⟩
  · cases h
  · injection heq with e1 e2 e3
    injection e1 with e1
    injection e1 with e1
    subst e1
    subst e3
    by_cases hroom : n + m ≤ cap
    · have hfit : n * i.size + news.length ≤ cur.size := by rw [hl, hcs, ← Nat.add_mul]; exact Nat.mul_le_mul_right _ hroom
      have hr := run_room_any w t tx ty e i ht hi g n cap cur hg x m news hs hroom hfit
      refine ⟨_, _, _, hr, ⟨hlen, .inr ⟨g, cap, _, rfl, hbg, setRow_heap w g cur _ e _ hg, hroom, hcm, ?_, ?_⟩⟩, ⟨rfl, rfl, rfl, by simp, fun k _ hk => setRow_other w g k _ (fun e => hk (by simp [e]))⟩⟩
      · simp only [List.size_toArray, List.length_append, List.length_take, List.length_drop, Array.length_toList]
        omega
      · rw [htake, ← hlen]
        exact List.take_left
    · have holds : ∀ j u, xs[j]? = some u → w.cell? ((⟨g, 0, none⟩ : Addr).add j) = some u := hown.cells (g := g) rfl
      have hold := run_firstCells_some (P := P) w.drew i.size n ⟨g, 0, none⟩ n cap xs hown.1 (by simpa using holds)
      have hr := run_append_grow_src (P := P) w t tx ty e i z ht hi hz (some ⟨g, 0, none⟩) n cap xs hold x m news hs (by omega) (by omega) (growslice_fits (by omega) hbytes)
      have hge := grownCap_ge w (n + m) cap e
      have hcm' : grownCap w (n + m) cap e ≤ maxLen := grownCap_le_maxLen w (n + m) cap e h63
      refine ⟨_, _, _, hr, ⟨hlen, .inr ⟨w.heap.size, _, _, rfl, hbase, heap_alloc_new w.drew _, hge, hcm', ?_, ?_⟩⟩, ⟨rfl, rfl, rfl, by simp, fun k hk _ => heap_alloc_old w.drew _ hk⟩⟩
      · simp only [Array.size_append, List.size_toArray, size_zeroCells, hzs, hlen, ← Nat.add_mul]
        congr 1
        omega
      · simp only [Array.toList_append]
        rw [← hlen]
        exact List.take_left

theorem wpList_append_got {P : Program} {w : World} {ops : Array Oper} {rest : List Oper} {o : Oper} {a : Act} {Q : Exit → Act → World → Prop} (hgd : o.guard = none) (s x : Operand) (t tx : TypeId)
    (ho : o.op = .call { callee := .builtin .append, args := #[s, x], argTypes := #[t, tx] })
    (base : Nat) (e : TypeId) (i : TypeInfo) (z : Value) (size bytes : Nat) (ht : P.underlying t = some (.slice e)) (hi : P.info? e = some i) (hz : i.zero = some z)
    (hsize : i.size = size) (hby : i.bytes = bytes) (hzs : z.cells.size = size) (hsz : 0 < size)
    (g n cap : Nat) (xs : List Value) (hs : a.eval s = .slice (some ⟨g, 0, none⟩) n cap) (hown : w.ownsRow base e size (.slice (some ⟨g, 0, none⟩) n cap) n xs)
    (u : Value) (m : Nat) (news : List Value) (hx : a.eval x = u) (hsrc : Src P size tx u m news w)
    (h63 : n + m ≤ maxLen) (hbytes : (n + m) * bytes ≤ 140737488355328) (hbase : base ≤ w.heap.size)
    (h : ∀ g' c' w', w'.ownsRow base e size (.slice (some ⟨g', 0, none⟩) (n + m) c') (n + m) (xs ++ news) → w.grownBy w' (some g) → wpList P ops Q rest (a.put o.dst (.slice (some ⟨g', 0, none⟩) (n + m) c')) w') : wpList P ops Q (o :: rest) a w := by
  refine wpList_plain hgd fun K hK => ?_
  obtain ⟨g', c', w', hr, h2, h3⟩ := run_append_got (P := P) w base t tx o.type e i z size bytes ht hi hz hsize hby hzs hsz g n cap xs hown u m news hsrc h63 hbytes hbase
  unfold Oper.wp execOp
  simp only [ho, resolve, invoke, builtin, Sem.run_bind, Sem.run_pure, Result.andThen_ok, List.map_toArray, List.map_cons, List.map_nil, hs, hx, hr]
  exact hK _ _ (h g' c' w' h2 h3)

end Go.Proofs.Ytghakpcagacdaal

namespace Go.Proofs.Ytghakpcagacdaal
open Go.RowKit
set_option linter.unusedVariables false

/-- The mode of a field: of one name it is never kept. -/
def fmode (x : ByteArray) : Int := if x.toList == [97, 117, 116, 104, 111, 114, 105, 122, 97, 116, 105, 111, 110] then 3 else 1

/-- What stands behind the first n fields of L: the bytes and the table's fields. -/
def PutN (L : List Fld) (m : Int) (xs : List Fld) : Nat → List Int → List Fld → Prop
  | 0, q, ys => q = [] ∧ ys = xs
  | n + 1, q, ys => ∃ q1 y1 x y r, PutN L m xs n q1 y1 ∧ L[n]? = some (x, y) ∧ PutAns m y1 x y (fmode x) r ys ∧ q = q1 ++ r

theorem PutN.one {L : List Fld} {m : Int} {xs : List Fld} : ∀ {n : Nat} {q r : List Int} {ys zs : List Fld}, PutN L m xs n q ys → PutN L m xs n r zs → q = r ∧ ys = zs := by
  intro n
  induction n with
  | zero =>
    rintro q r ys zs ⟨rfl, rfl⟩ ⟨rfl, rfl⟩
    exact ⟨rfl, rfl⟩
  | succ n ih =>
    rintro q r ys zs ⟨q1, y1, x, y, r1, h1, h2, h3, rfl⟩ ⟨q2, y2, x2, z2, r2, g1, g2, g3, rfl⟩
    obtain ⟨rfl, rfl⟩ := ih h1 g1
    rw [h2] at g2
    injection g2 with g2
    injection g2 with e1 e2
    subst e1
    subst e2
    obtain ⟨rfl, rfl⟩ := h3.one g3
    exact ⟨rfl, rfl⟩

theorem PutAns.fits {m : Int} {xs : List Fld} {x y : ByteArray} {mode : Int} {q : List Int} {ys : List Fld} (h : PutAns m xs x y mode q ys) : ys.length ≤ xs.length + 1 ∧ fldBytes ys ≤ fldBytes xs + (x.size + y.size) ∧ q.length ≤ x.size + y.size + 18 := by
  rcases h with ⟨_, i, b, _, h2, h3⟩ | ⟨_, rfl, rfl⟩
  · have h4 := h2.len
    rcases h3 with ⟨_, _, h⟩ | ⟨_, rfl⟩
    · refine ⟨h.short, ?_, h4⟩
      rcases h with ⟨_, k, _, rfl⟩ | ⟨_, rfl⟩
      · have h5 := fldBytes_take ((x, y) :: xs) k
        have h6 : fldBytes ((x, y) :: xs) = x.size + y.size + fldBytes xs := by simp [fldBytes]
        omega
      · omega
    · exact ⟨by omega, by omega, h4⟩
  · exact ⟨by omega, by omega, by simp⟩

theorem PutN.fits {L : List Fld} {m : Int} {xs : List Fld} : ∀ {n : Nat} {q : List Int} {ys : List Fld}, PutN L m xs n q ys → ys.length ≤ xs.length + n ∧ fldBytes ys ≤ fldBytes xs + fldBytes (L.take n) ∧ q.length ≤ fldBytes (L.take n) + 18 * n := by
  intro n
  induction n with
  | zero =>
    rintro q ys ⟨rfl, rfl⟩
    exact ⟨by omega, by omega, by simp⟩
  | succ n ih =>
    rintro q ys ⟨q1, y1, x, y, r, h1, h2, h3, rfl⟩
    have h4 := ih h1
    have h5 := h3.fits
    have h6 := fldBytes_step L n x y h2
    rw [List.length_append]
    omega

theorem own_set_other {w : World} {base n size : Nat} {e : TypeId} {v : Value} {xs : List Value} (h : w.ownsRow base e size v n xs) {b : Nat} (hb : v.ownBlock ≠ some b) (k : Nat) (u : Value) : (w.setCell ⟨b, k, none⟩ u).ownsRow base e size v n xs := by
  refine ⟨h.1, ?_⟩
  rcases h.2 with h | ⟨g, cap, cur, heq, h1, hg, r⟩
  · exact .inl h
  · refine .inr ⟨g, cap, cur, heq, h1, ?_, r⟩
    rw [set_block_other _ _ _ _ _ (fun e => hb (by rw [heq, e]; rfl))]
    exact hg

/-- What the loop of PutFields keeps: the answer's variable, the table's, the bytes. -/
def PSt (w W : World) (bb : Nat) (m : Int) (q : List Int) (ql g c : Nat) (va : Option Addr) (n vc : Nat) (ys : List Fld) : Prop :=
  Below w.heap.size w W ∧ w.heap.size + 1 < bb ∧ Box2 W (w.heap.size + 1) 40 (.int .i64 0) (.slice none 0 0) ∧ Box2 W bb 40 (.int .i64 m) (.slice va n vc) ∧
    Owns W w.heap.size (some ⟨g, 0, none⟩) ql c q ∧ OwnF W w.heap.size (.slice va n vc) n ys

theorem PSt.stays {w W W' : World} {bb : Nat} {m : Int} {q : List Int} {ql g c : Nat} {va : Option Addr} {n vc : Nat} {ys : List Fld} (h : PSt w W bb m q ql g c va n vc ys) (hb : Below W.heap.size W W') : PSt w W' bb m q ql g c va n vc ys :=
  ⟨h.1.trans (hb.mono h.1.size), h.2.1, h.2.2.1.stays hb, h.2.2.2.1.stays hb, h.2.2.2.2.1.below hb, h.2.2.2.2.2.stays hb⟩

theorem owns_apart2 {W : World} {base n cap : Nat} {a : Option Addr} {zs : List Int} (h : Owns W base a n cap zs) {b : Nat} {x y : Value} (hq : Box2 W b 40 x y) : (Value.slice a n cap).ownBlock ≠ some b := by
  rw [ownBlock_slice]
  exact h.other hq (by decide)

theorem ownF_apart2 {W : World} {base n k : Nat} {v : Value} {ys : List Fld} (h : OwnF W base v k ys) {b : Nat} {x y : Value} (hq : Box2 W b 40 x y) : v.ownBlock ≠ some b := own_other' h.1 hq (by decide)

theorem owns_setTwo {W : World} {base n cap : Nat} {a : Option Addr} {zs : List Int} (h : Owns W base a n cap zs) {b : Nat} {x y : Value} (hq : Box2 W b 40 x y) (u v : Value) : Owns ((W.setCell ⟨b, 0, none⟩ u).setCell ⟨b, 1, none⟩ v) base a n cap zs :=
  ⟨own_set_other (own_set_other h.1 (owns_apart2 h hq) _ _) (owns_apart2 h hq) _ _, h.2⟩

theorem ownF_setTwo {W : World} {base k : Nat} {z : Value} {ys : List Fld} (h : OwnF W base z k ys) {b : Nat} {x y : Value} (hq : Box2 W b 40 x y) (u v : Value) : OwnF ((W.setCell ⟨b, 0, none⟩ u).setCell ⟨b, 1, none⟩ v) base z k ys :=
  ⟨own_set_other (own_set_other h.1 (own_other' h.1 hq (by decide)) _ _) (own_other' h.1 hq (by decide)) _ _, h.2⟩

theorem PSt.put {w W : World} {bb : Nat} {m : Int} {q : List Int} {ql g c : Nat} {va : Option Addr} {n vc : Nat} {ys : List Fld} (h : PSt w W bb m q ql g c va n vc ys) {B : Nat} (hB : w.heap.size ≤ B) {a2 : Option Addr} {n2 c2 : Nat} {zs : List Fld} (ho : OwnF W B (.slice a2 n2 c2) n2 zs) :
    PSt w ((W.setCell ⟨bb, 0, none⟩ (.int .i64 m)).setCell ⟨bb, 1, none⟩ (.slice a2 n2 c2)) bb m q ql g c a2 n2 c2 zs := by
  obtain ⟨h1, h2, h3, h4, h5, h6⟩ := h
  refine ⟨(h1.setCell (p := ⟨bb, 0, none⟩) (show w.heap.size ≤ bb by omega) _).setCell (p := ⟨bb, 1, none⟩) (show w.heap.size ≤ bb by omega) _, h2, ?_, two_set1 (two_set0 h4 _) _, owns_setTwo h5 h4 _ _, ?_⟩
  · show _ = _
    rw [set_block_other _ _ _ _ _ (by omega), set_block_other _ _ _ _ _ (by omega)]
    exact h3
  · have := ownF_setTwo ho h4 (.int .i64 m) (.slice a2 n2 c2)
    exact ⟨own_down this.1 hB, this.2⟩

theorem PSt.app {w W W' : World} {bb : Nat} {m : Int} {q r : List Int} {ql rl g c g' c' : Nat} {va : Option Addr} {n vc : Nat} {ys : List Fld} (h : PSt w W bb m q ql g c va n vc ys) (hg : W.grownBy W' (some g)) (ho : W'.ownsRow w.heap.size 5 1 (.slice (some ⟨g', 0, none⟩) (ql + rl) c') (ql + rl) (q.map (Value.int .u8) ++ r.map (Value.int .u8))) (hr : ∀ x ∈ r, 0 ≤ x ∧ x ≤ 255) :
    PSt w W' bb m (q ++ r) (ql + rl) g' c' va n vc ys := by
  obtain ⟨h1, h2, h3, h4, h5, h6⟩ := h
  have e1 : some g ≠ some bb := fun e => by
    have := owns_apart2 h5 h4
    rw [ownBlock_slice] at this
    exact this e
  have e2 : some g ≠ some (w.heap.size + 1) := fun e => by
    have := owns_apart2 h5 h3
    rw [ownBlock_slice] at this
    exact this e
  have hgb : ∃ cur : Array Value, W.heap[g]? = some (.cells cur 5 (0, 0)) := by
    rcases h5.1.2 with ⟨h, _⟩ | ⟨g2, cap2, cur, heq, _, hg2, _⟩
    · cases h
    · injection heq with e3 _ _
      injection e3 with e3
      injection e3 with e3
      subst e3
      exact ⟨cur, hg2⟩
  obtain ⟨cur, hgb⟩ := hgb
  refine ⟨h1.grown hg h1.size (fun k hk => ?_), h2, h3.grown hg e2, h4.grown hg e1, ⟨?_, ?_⟩, h6.grown hg (.inr (own_other' h6.1 hgb (by decide)))⟩
  · exact (h5.lt k hk).1
  · rw [List.map_append]
    exact ho
  · intro x hx
    rcases List.mem_append.1 hx with hx | hx
    · exact h5.2 x hx
    · exact hr x hx

theorem PSt.fin {w W : World} {bb : Nat} {m : Int} {q : List Int} {ql g c : Nat} {va : Option Addr} {n vc : Nat} {ys : List Fld} (h : PSt w W bb m q ql g c va n vc ys) :
    Below w.heap.size w ((W.setCell ⟨w.heap.size + 1, 0, none⟩ (.int .i64 m)).setCell ⟨w.heap.size + 1, 1, none⟩ (.slice va n vc)).drew ∧ Box2 ((W.setCell ⟨w.heap.size + 1, 0, none⟩ (.int .i64 m)).setCell ⟨w.heap.size + 1, 1, none⟩ (.slice va n vc)).drew (w.heap.size + 1) 40 (.int .i64 m) (.slice va n vc) ∧
    Owns ((W.setCell ⟨w.heap.size + 1, 0, none⟩ (.int .i64 m)).setCell ⟨w.heap.size + 1, 1, none⟩ (.slice va n vc)).drew w.heap.size (some ⟨g, 0, none⟩) ql c q ∧ OwnF ((W.setCell ⟨w.heap.size + 1, 0, none⟩ (.int .i64 m)).setCell ⟨w.heap.size + 1, 1, none⟩ (.slice va n vc)).drew w.heap.size (.slice va n vc) n ys := by
  obtain ⟨h1, h2, h3, h4, h5, h6⟩ := h
  exact ⟨((h1.setCell (p := ⟨w.heap.size + 1, 0, none⟩) (show w.heap.size ≤ w.heap.size + 1 by omega) _).setCell (p := ⟨w.heap.size + 1, 1, none⟩) (show w.heap.size ≤ w.heap.size + 1 by omega) _).drew, two_set1 (two_set0 h3 _) _, owns_setTwo h5 h3 _ _, ownF_setTwo h6 h3 _ _⟩

end Go.Proofs.Ytghakpcagacdaal

namespace Go.Proofs.Ytghakpcagacdaal
open Go.RowKit
set_option linter.unusedVariables false

set_option maxRecDepth 10000 in
set_option maxHeartbeats 3200000 in
theorem implPuts_any (m : Int) (a : Option Addr) (len ca : Nat) (xs : List Fld) (la : Option Addr) (ll lc : Nat) (L : List Fld) (w : World) (hx : Flds w a len xs) (hL : Flds w la ll L) (hl : len + ll + fldBytes xs + fldBytes L ≤ 1048576) :
    Calls Try.prog 29 #[.agg #[.int .i64 m, .slice a len ca], .slice la ll lc] w fun e w' => ∃ (q : List Int) (a' : Option Addr) (c' : Nat) (v : Value) (n : Nat) (ys : List Fld), e = .returned (.tuple #[.slice a' q.length c', .agg #[.int .i64 m, v]]) ∧ PutN L m xs ll q ys ∧ Owns w' w.heap.size a' q.length c' q ∧ OwnF w' w.heap.size v n ys ∧ Below w.heap.size w w' := by
  obtain ⟨i0, hi, hz0, hz1, hz2⟩ := info_parts Try.info5
  have HX : Hid (Flds w a len xs) := hx
  have HL : Hid (Flds w la ll L) := hL
  have hlen := hx.1
  have hll := hL.1
  clear hx hL
  obtain ⟨w2, hw2⟩ : ∃ w2, ((w.alloc (.cells #[.int .i64 m, .slice a len ca] 40)).alloc (.cells #[.int .i64 0, .slice none 0 0] 40)) = w2 := ⟨_, rfl⟩
  have q1 : Box2 w2 w.heap.size 40 (.int .i64 m) (.slice a len ca) := by rw [← hw2]; exact (Box2.new _ _ _ _).alloc _
  have q2 : Box2 w2 (w.heap.size + 1) 40 (.int .i64 0) (.slice none 0 0) := by
    rw [← hw2]
    have := Box2.new (w.alloc (.cells #[.int .i64 m, .slice a len ca] 40)) 40 (.int .i64 0) (.slice none 0 0)
    rwa [World.size_alloc] at this
  have HB2 : Hid (Below w.heap.size w w2) := by show Below _ _ _; rw [← hw2]; exact ((Below.refl _ _).alloc (Nat.le_refl _) _).alloc (by simp) _
  have HW2 : Hid (w2.heap.size = w.heap.size + 2) := by show _ = _; rw [← hw2]; simp
  have HQ2 : Hid (Box2 w2 (w.heap.size + 1) 40 (.int .i64 0) (.slice none 0 0)) := q2
  obtain ⟨c0, c1, _, _⟩ := q1.cells
  clear q2
  obtain ⟨w3, hw3⟩ : ∃ w3, w2.alloc (.cells #[] 5) = w3 := ⟨_, rfl⟩
  have hb3 : Below w2.heap.size w2 w3 := by rw [← hw3]; exact (Below.refl _ _).alloc (Nat.le_refl _) _
  have HO3 : Hid (Owns w3 w2.heap.size (some ⟨w2.heap.size, 0, none⟩) 0 0 []) := by
    show Owns _ _ _ _ _ _
    rw [← hw3]
    exact ⟨⟨rfl, .inr ⟨w2.heap.size, 0, #[], rfl, Nat.le_refl _, heap_alloc_new w2 _, Nat.le_refl _, by decide, rfl, rfl⟩⟩, by simp⟩
  have HB3 : Hid (Below w2.heap.size w2 w3) := hb3
  obtain ⟨d0, d1, _, _⟩ := (q1.stays hb3).cells
  clear hb3 q1
  go_enter Try.func29, Try.ntmps29
  go_wp2_with fail
  refine (implCopy_any m a len ca xs _ (HX.out.below (HB2.out.trans (HB3.out.mono HB2.out.size))) (by omega)).mono ?_
  rintro e w4 ⟨v4, rfl, how4, hb4⟩
  obtain ⟨a4, c4, rfl⟩ := how4.shape
  have HS4 : Hid (PSt w (w4.alloc (.cells #[.int .i64 m, .slice a4 len c4] 40)) w4.heap.size m [] 0 w2.heap.size 0 a4 len c4 xs) := by
    have hb24 : Below w2.heap.size w2 w4 := HB3.out.trans (hb4.mono HB3.out.size)
    have hn := (Below.refl w4.heap.size w4).alloc (Nat.le_refl _) (.cells #[.int .i64 m, .slice a4 len c4] 40)
    have hs := HW2.out
    have hs4 := hb24.size
    have hs3 := HB3.out.size
    have hb5 : Below w.heap.size w w4 := HB2.out.trans (hb24.mono HB2.out.size)
    refine ⟨hb5.alloc hb5.size _, by omega, (HQ2.out.stays hb24).stays hn, Box2.new _ _ _ _, ?_, ?_⟩
    · exact ((HO3.out.below hb4).below hn).low (by omega)
    · have := how4.stays hn
      exact ⟨own_down this.1 (by omega), this.2⟩
  clear hb4 how4 HO3 HB3 HQ2 c0 c1 d0 d1 hw2 hw3
  go_wp2_with fail
  obtain ⟨bb, hbb⟩ : ∃ bb, w4.heap.size = bb := ⟨_, rfl⟩
  obtain ⟨w5, hw5⟩ : ∃ w5, w4.alloc (.cells #[.int .i64 m, .slice a4 len c4] 40) = w5 := ⟨_, rfl⟩
  rw [hw5, hbb] at HS4
  rw [hw5, hbb]
  clear hw5 hbb
  go_loopw [6, 17] (fun v i wr => ∃ (k : Nat) (q : List Int) (ql g c : Nat) (va : Option Addr) (n vc : Nat) (ys : List Fld), k ≤ ll ∧ i = .int .i64 k ∧ v = .slice (some ⟨g, 0, none⟩) ql c ∧ Hid (q.length = ql) ∧ Hid (PutN L m xs k q ys) ∧ Hid (PSt w wr bb m q ql g c va n vc ys)) (fun _ i _ => ll - (intOf i).toNat)
  case atStart => exact ⟨0, [], 0, _, 0, a4, len, c4, xs, Nat.zero_le _, rfl, rfl, rfl, ⟨rfl, rfl⟩, HS4⟩
  case round =>
    clear HS4
    obtain ⟨k, q, ql, g, c, va, n, vc, ys, hk, rfl, rfl, HQL, HP, HS⟩ := hrel
    have hfit := HP.out.fits
    have hyn : ys.length = n := HS.out.2.2.2.2.2.len
    have hql := HQL.out
    by_cases hlt : k < ll
    · obtain ⟨ba, oa, x, y, rfl, hba, hfa, ha0, ha1⟩ := HL.out.at hlt
      have ga0 : wr.cell? ⟨ba, oa + k * 2, none⟩ = some (.string x) := (HS.out.1.cell (p := ⟨ba, _, none⟩) hba).trans ha0
      have ga1 : wr.cell? ⟨ba, oa + k * 2 + 1, none⟩ = some (.string y) := (HS.out.1.cell (p := ⟨ba, _, none⟩) hba).trans ha1
      have hst := fldBytes_step L k x y hfa
      have hle := fldBytes_take L (k + 1)
      have hbd : n + (x.size + y.size) + fldBytes ys ≤ 1048576 := by omega
      have hqb : ql + (x.size + y.size + 18) ≤ 100000000 := by omega
      have hxs : x.size ≤ maxLen := by unfold maxLen; omega
      have hys : y.size ≤ maxLen := by unfold maxLen; omega
      have HF : Hid (L[k]? = some (x, y)) := hfa
      clear hfa hst hle ha0 ha1 hfit hyn hql
      have hki : (k : Int) < (ll : Int) := by omega
      have hk0 : (0 : Int) ≤ (k : Int) := by omega
      obtain ⟨x1, hx1⟩ : ∃ x1, wr.alloc (.cells #[.string x, .string y] 44) = x1 := ⟨_, rfl⟩
      have hb1 : Below wr.heap.size wr x1 := by rw [← hx1]; exact (Below.refl _ _).alloc (Nat.le_refl _) _
      have HS1 : Hid (PSt w x1 bb m q ql g c va n vc ys) := HS.out.stays hb1
      obtain ⟨u0, u1, _, _⟩ := HS1.out.2.2.2.1.cells
      obtain ⟨u2, u3, _, _⟩ : x1.cell? ⟨wr.heap.size, 0, none⟩ = some (.string x) ∧ x1.cell? ⟨wr.heap.size, 1, none⟩ = some (.string y) ∧ x1.frozen? ⟨wr.heap.size, 0, none⟩ = false ∧ x1.frozen? ⟨wr.heap.size, 1, none⟩ = false := by rw [← hx1]; exact (Box2.new wr 44 (.string x) (.string y)).cells
      clear hb1
      by_cases hsx : (x.toList == [97, 117, 116, 104, 111, 114, 105, 122, 97, 116, 105, 111, 110]) = true
      · have HMd : Hid (fmode x = 3) := by show _ = _; rw [fmode, if_pos hsx]
        go_wp2_with fail
        refine (implPutF_any m va n vc ys x y 3 _ HS1.out.2.2.2.2.2.flds ⟨hxs, hys⟩ hbd).mono ?_
        rintro e x2 ⟨r, ra, rc, v2, n2, zs, rfl, hadd, hor, how, hb⟩
        obtain ⟨a2, c2, rfl⟩ := how.shape
        obtain ⟨rl, hrl⟩ : ∃ rl, r.length = rl := ⟨_, rfl⟩
        have HAdd : Hid (PutAns m ys x y (fmode x) r zs) := by show PutAns _ _ _ _ _ _ _; rw [HMd.out]; exact hadd
        have hrl2 : rl ≤ x.size + y.size + 18 := by have := hadd.fits.2.2; omega
        rw [hrl] at hor ⊢
        have HRL : Hid (r.length = rl) := hrl
        have hs2 := HS1.out.stays hb
        have HS3 : Hid (PSt w ((x2.setCell ⟨bb, 0, none⟩ (.int .i64 m)).setCell ⟨bb, 1, none⟩ (.slice a2 n2 c2)) bb m q ql g c a2 n2 c2 zs) := hs2.put HS1.out.1.size how
        have HR3 : Hid (Owns ((x2.setCell ⟨bb, 0, none⟩ (.int .i64 m)).setCell ⟨bb, 1, none⟩ (.slice a2 n2 c2)) x1.heap.size ra rl rc r) := owns_setTwo hor hs2.2.2.2.1 _ _
        obtain ⟨b0, b1, b2, b3⟩ := hs2.2.2.2.1.cells
        clear hadd hor how hb hrl hs2 u0 u1 u2 u3 ga0 ga1 hx1
        obtain ⟨x3, hx3⟩ : ∃ x3, (x2.setCell ⟨bb, 0, none⟩ (.int .i64 m)).setCell ⟨bb, 1, none⟩ (.slice a2 n2 c2) = x3 := ⟨_, rfl⟩
        rw [hx3] at HS3 HR3
        have HSrc : Hid (Src Try.prog 1 22 (.slice ra rl rc) rl (r.map (Value.int .u8)) x3) := Src.ofSeg Try.underlying22 HR3.out.seg HR3.out.none
        have hA : ql + rl ≤ maxLen := by unfold maxLen; omega
        have hA2 : (ql + rl) * 1 ≤ 140737488355328 := by omega
        go_wp2_with (at_builtin; refine wpList_append_got rfl _ _ 22 22 rfl w.heap.size 5 i0 (.int .u8 0) 1 1 Try.underlying22 hi hz0 hz1 hz2 rfl (by decide) g ql c (q.map (Value.int .u8)) rfl HS3.out.2.2.2.2.1.1 (.slice ra rl rc) rl (r.map (Value.int .u8)) rfl HSrc.out hA hA2 HS3.out.1.size ?_; intro g' c' x4 hown hgrow; refine Hid.out ?_)
        refine hidden ?_
        have HS5 : Hid (PSt w x4 bb m (q ++ r) (ql + rl) g' c' a2 n2 c2 zs) := HS3.out.app hgrow hown HR3.out.2
        clear hown hgrow HS3 HR3 HSrc hx3 b0 b1 b2 b3 hA hA2
        go_wp2
        go_roundw
        case rel =>
          refine ⟨k + 1, q ++ r, ql + rl, g', c', a2, n2, c2, zs, by omega, by go_num, rfl, ?_, ⟨q, ys, x, y, r, HP.out, HF.out, HAdd.out, rfl⟩, HS5⟩
          show _ = _
          rw [List.length_append, HQL.out, HRL.out]
        case measure => simp [intOf]; omega
      · have HMd : Hid (fmode x = 1) := by show _ = _; rw [fmode, if_neg hsx]
        have hs1 : (x.toList == [97, 117, 116, 104, 111, 114, 105, 122, 97, 116, 105, 111, 110]) = false := by simpa using hsx
        clear hsx
        go_wp2_with fail
        refine (implPutF_any m va n vc ys x y 1 _ HS1.out.2.2.2.2.2.flds ⟨hxs, hys⟩ hbd).mono ?_
        rintro e x2 ⟨r, ra, rc, v2, n2, zs, rfl, hadd, hor, how, hb⟩
        obtain ⟨a2, c2, rfl⟩ := how.shape
        obtain ⟨rl, hrl⟩ : ∃ rl, r.length = rl := ⟨_, rfl⟩
        have HAdd : Hid (PutAns m ys x y (fmode x) r zs) := by show PutAns _ _ _ _ _ _ _; rw [HMd.out]; exact hadd
        have hrl2 : rl ≤ x.size + y.size + 18 := by have := hadd.fits.2.2; omega
        rw [hrl] at hor ⊢
        have HRL : Hid (r.length = rl) := hrl
        have hs2 := HS1.out.stays hb
        have HS3 : Hid (PSt w ((x2.setCell ⟨bb, 0, none⟩ (.int .i64 m)).setCell ⟨bb, 1, none⟩ (.slice a2 n2 c2)) bb m q ql g c a2 n2 c2 zs) := hs2.put HS1.out.1.size how
        have HR3 : Hid (Owns ((x2.setCell ⟨bb, 0, none⟩ (.int .i64 m)).setCell ⟨bb, 1, none⟩ (.slice a2 n2 c2)) x1.heap.size ra rl rc r) := owns_setTwo hor hs2.2.2.2.1 _ _
        obtain ⟨b0, b1, b2, b3⟩ := hs2.2.2.2.1.cells
        clear hadd hor how hb hrl hs2 u0 u1 u2 u3 ga0 ga1 hx1
        obtain ⟨x3, hx3⟩ : ∃ x3, (x2.setCell ⟨bb, 0, none⟩ (.int .i64 m)).setCell ⟨bb, 1, none⟩ (.slice a2 n2 c2) = x3 := ⟨_, rfl⟩
        rw [hx3] at HS3 HR3
        have HSrc : Hid (Src Try.prog 1 22 (.slice ra rl rc) rl (r.map (Value.int .u8)) x3) := Src.ofSeg Try.underlying22 HR3.out.seg HR3.out.none
        have hA : ql + rl ≤ maxLen := by unfold maxLen; omega
        have hA2 : (ql + rl) * 1 ≤ 140737488355328 := by omega
        go_wp2_with (at_builtin; refine wpList_append_got rfl _ _ 22 22 rfl w.heap.size 5 i0 (.int .u8 0) 1 1 Try.underlying22 hi hz0 hz1 hz2 rfl (by decide) g ql c (q.map (Value.int .u8)) rfl HS3.out.2.2.2.2.1.1 (.slice ra rl rc) rl (r.map (Value.int .u8)) rfl HSrc.out hA hA2 HS3.out.1.size ?_; intro g' c' x4 hown hgrow; refine Hid.out ?_)
        refine hidden ?_
        have HS5 : Hid (PSt w x4 bb m (q ++ r) (ql + rl) g' c' a2 n2 c2 zs) := HS3.out.app hgrow hown HR3.out.2
        clear hown hgrow HS3 HR3 HSrc hx3 b0 b1 b2 b3 hA hA2
        go_wp2
        go_roundw
        case rel =>
          refine ⟨k + 1, q ++ r, ql + rl, g', c', a2, n2, c2, zs, by omega, by go_num, rfl, ?_, ⟨q, ys, x, y, r, HP.out, HF.out, HAdd.out, rfl⟩, HS5⟩
          show _ = _
          rw [List.length_append, HQL.out, HRL.out]
        case measure => simp [intOf]; omega
    · obtain rfl : k = ll := by omega
      have hki : ¬ (k : Int) < (k : Int) := by omega
      obtain ⟨c0, c1, _, _⟩ := HS.out.2.2.2.1.cells
      obtain ⟨c2, c3, c4', c5⟩ := HS.out.2.2.1.cells
      have HFn : Hid _ := HS.out.fin
      clear hfit hyn hql
      go_wp2_with fail
      go_region
      all_goals
        clear c0 c1 c4' c5
        go_wp2_with fail
        refine bodyPost_ret (v := .tuple #[.slice (some ⟨g, 0, none⟩) ql c, .agg #[.int .i64 m, .slice va n vc]]) (by simp [results, Try.f29, go_sem, c2, c3]) rfl ?_
        exact ⟨q, _, _, _, n, ys, by rw [HQL.out], HP.out, by rw [HQL.out]; exact HFn.out.2.2.1, HFn.out.2.2.2, HFn.out.1⟩

end Go.Proofs.Ytghakpcagacdaal

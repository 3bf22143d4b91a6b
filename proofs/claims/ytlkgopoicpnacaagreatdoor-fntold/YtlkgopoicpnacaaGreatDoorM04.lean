/- What is written into a store, one record behind the other, and what the store's functions answer; no program in it. An upload more in a row. No statement of the program but its table of types. An append onto a row of the call's own of whatever may be appended, a text's bytes too: as an operation. No program in it. Variables of three cells. No program in it. A row of uploads in a block with room behind them: copies into it, an append of one; a row that is cut and cleared. No program in it but its table of types. Variables of three and of four cells, written into. No program in it. A variable of any number of cells: no program in it. A cell that is written; no program in it. A row of uploads that another row comes of: some of its uploads, and ones without bytes. No statement of the program but its table of types. The small facts of Own, under the name that the other texts import. -/
import Derived.Test.YtlkgopoicpnacaaGreatDoorM03
import Derived.Deep.AppendSrc
import Derived.Laws.AppendOwn
import Derived.WalkKit
import Derived.Test.YtlkgopoicpnacaaGreatDoorM02
import Derived.Lib.AppendZerosOnto
import Derived.Lib.SliceRun
import Derived.Test.YtlkgopoicpnacaaGreatDoorM01
namespace Go.Proofs.YtlkgopoicpnacaaGreatDoor
open Go.RowKit
set_option linter.unusedVariables false

theorem decB_of {P : Prop} (h : decB P = true) : P := @of_decide_eq_true P (Classical.propDecidable P) h

/-- A record as it is written. -/
def R.at (r : R) (ep : Int) (q : Nat) : R := { r with e := ep, q := (q : Int) }

/-- The sectors behind records that are written from nx on. -/
def wroteX (X : List ByteArray) (ep : Int) (nx : Nat) : List R → List ByteArray
  | [] => X
  | r :: rs => wroteX (X.set nx (txU (r.at ep nx).put)) ep (nx + 1) rs

theorem wroteX_len (ep : Int) : ∀ (rs : List R) (X : List ByteArray) (nx : Nat), (wroteX X ep nx rs).length = X.length
  | [], _, _ => rfl
  | r :: rs, X, nx => by rw [wroteX, wroteX_len ep rs, List.length_set]

theorem wroteX_snoc (ep : Int) (r : R) : ∀ (rs : List R) (X : List ByteArray) (nx : Nat), wroteX X ep nx (rs ++ [r]) = (wroteX X ep nx rs).set (nx + rs.length) (txU (r.at ep (nx + rs.length)).put)
  | [], _, _ => rfl
  | x :: rs, X, nx => by
    have h : nx + 1 + rs.length = nx + (rs.length + 1) := by omega
    rw [List.cons_append, wroteX, wroteX_snoc ep r rs, wroteX, List.length_cons, h]

/-- What a function of the store answers: the sectors, the next one, the uploads, the code. -/
structure WA where
  X : List ByteArray
  nx : Int
  us : List U
  c : Int

def wroteA (X : List ByteArray) (ep nx : Int) (us : List U) (rs : List R) : WA := ⟨wroteX X ep nx.toNat rs, nx + (rs.length : Int), (rs.foldlM oneU us).getD us, 0⟩

theorem SOk.nums {X Y : List ByteArray} {ep nx : Int} {us : List U} (h : SOk X Y ep nx us) : (0 ≤ ep ∧ ep ≤ 10000) ∧ 0 ≤ nx ∧ nx ≤ (X.length : Int) ∧ X.length ≤ 200 := by
  obtain ⟨h1, h2, h3, h4, h5, h6⟩ := h
  have h7 := scanFrom_len X 0 0
  have h8 := (okD_iff.1 h1).2.1
  have h9 : (scanR X).length = (scanFrom 0 0 X).length := rfl
  exact ⟨h2, by omega, by omega, h8⟩

theorem foldlM_len {rs : List R} : ∀ {us us' : List U}, us.length ≤ 10 → rs.foldlM oneU us = some us' → us'.length ≤ 10 := by
  induction rs with
  | nil => intro us us' h1 h; obtain rfl : us = us' := by simpa using h
           exact h1
  | cons r rs ih =>
    intro us us' h1 h
    rw [List.foldlM_cons] at h
    cases ho : oneU us r with
    | none => rw [ho] at h; cases h
    | some u1 =>
      rw [ho] at h
      have := oneU_len ho
      exact ih (by omega) h

theorem SOk.few {X Y : List ByteArray} {ep nx : Int} {us : List U} (h : SOk X Y ep nx us) : us.length ≤ 10 := foldlM_len (us := []) (by simp) h.2.2.1

/-- What is right stays so behind records that fit. -/
theorem wrote_ok {Y : List ByteArray} {ep : Int} : ∀ {rs : List R} {X : List ByteArray} {nx : Int} {us us' : List U}, SOk X Y ep nx us → (∀ r ∈ rs, idB r.id.data.toList = true ∧ kindB r.k r.n r.zs.length = true ∧ ∀ x ∈ r.zs, 0 ≤ x ∧ x ≤ 255) → nx + (rs.length : Int) ≤ (X.length : Int) → rs.foldlM oneU us = some us' → SOk (wroteX X ep nx.toNat rs) Y ep (nx + (rs.length : Int)) us' := by
  intro rs
  induction rs with
  | nil =>
    intro X nx us us' h _ _ ho
    obtain rfl : us = us' := by simpa using ho
    simpa [wroteX] using h
  | cons r rs ih =>
    intro X nx us us' h hk hl ho
    obtain ⟨n1, n2, n3, n4⟩ := h.nums
    have hl' : nx + ((rs.length : Int) + 1) ≤ (X.length : Int) := by simpa using hl
    rw [List.foldlM_cons] at ho
    cases h1 : oneU us r with
    | none => rw [h1] at ho; cases ho
    | some u1 =>
      rw [h1] at ho
      have hr := hk r (List.mem_cons_self ..)
      have hq : ((nx.toNat : Nat) : Int) = nx := by omega
      have hok : (r.at ep nx.toNat).ok = true := by
        show okRec ep ((nx.toNat : Nat) : Int) r.k r.id r.n r.zs.length = true
        rw [okRec, hr.1, hr.2.1, hq, decide_eq_true n1, decide_eq_true (show 0 ≤ nx ∧ nx ≤ 199 by omega)]
        rfl
      have h2 := (h.put (r := r.at ep nx.toNat) hok hr.2.2 rfl hq (by omega) (us' := u1) h1).2
      have h3 := ih h2 (fun x hx => hk x (List.mem_cons_of_mem _ hx)) (by rw [List.length_set]; omega) ho
      have e1 : (nx + 1).toNat = nx.toNat + 1 := by omega
      have e2 : nx + 1 + (rs.length : Int) = nx + ((r :: rs).length : Int) := by simp; omega
      rw [e1, e2] at h3
      exact h3

/-- What MakeUp answers. -/
def makeR (id : ByteArray) (want : Int) : R := ⟨0, 0, 1, id, want, []⟩
noncomputable def makeA (X Y : List ByteArray) (ep nx : Int) (us : List U) (id : ByteArray) (want : Int) : WA :=
  if decB (SOk X Y ep nx us) = true ∧ idB id.data.toList = true ∧ 0 ≤ want ∧ want ≤ 1000000 then
    if atU us id = none then
      if nx < (X.length : Int) ∧ us.length ≠ 10 then wroteA X ep nx us [makeR id want] else ⟨X, nx, us, 5⟩
    else ⟨X, nx, us, 3⟩
  else ⟨X, nx, us, 1⟩

/-- What DropUp answers. -/
def dropR (id : ByteArray) : R := ⟨0, 0, 4, id, 0, []⟩
noncomputable def dropA (X Y : List ByteArray) (ep nx : Int) (us : List U) (id : ByteArray) : WA :=
  if decB (SOk X Y ep nx us) = true ∧ idB id.data.toList = true then
    if atU us id = none then ⟨X, nx, us, 2⟩
    else if nx < (X.length : Int) then wroteA X ep nx us [dropR id] else ⟨X, nx, us, 5⟩
  else ⟨X, nx, us, 1⟩

theorem make_fits {us : List U} {id : ByteArray} {want : Int} (h1 : atU us id = none) (h2 : us.length ≤ 10) (h3 : us.length ≠ 10) : oneU us (makeR id want) = some (makeU us ⟨id, want, [], false⟩) := by
  unfold oneU makeR
  dsimp only
  rw [if_pos rfl, if_pos ⟨h1, by omega⟩]

theorem drop_fits {us : List U} {id : ByteArray} {k : Nat} (h1 : atU us id = some k) : ∃ us', oneU us (dropR id) = some us' := by
  obtain ⟨hk, _⟩ := atU_is h1
  refine ⟨us.eraseIdx k, ?_⟩
  unfold oneU dropR
  dsimp only
  rw [if_neg (by decide), h1]
  dsimp only
  rw [List.getElem?_eq_getElem hk]
  rfl

theorem makeA_no {X Y : List ByteArray} {ep nx : Int} {us : List U} {id : ByteArray} {want : Int} (h : (makeA X Y ep nx us id want).c ≠ 0) : makeA X Y ep nx us id want = ⟨X, nx, us, (makeA X Y ep nx us id want).c⟩ := by
  rw [makeA] at h ⊢
  split at h
  · rename_i h1
    split at h
    · split at h
      · exact absurd rfl h
      · rename_i h2 h3; rw [if_pos h1, if_pos h2, if_neg h3]
    · rename_i h2; rw [if_pos h1, if_neg h2]
  · rename_i h1; rw [if_neg h1]

theorem makeA_yes {X Y : List ByteArray} {ep nx : Int} {us : List U} {id : ByteArray} {want : Int} (h : (makeA X Y ep nx us id want).c = 0) : SOk X Y ep nx us ∧ (idB id.data.toList = true ∧ kindB 1 want 0 = true) ∧ nx + 1 ≤ (X.length : Int) ∧ ∃ us', [makeR id want].foldlM oneU us = some us' ∧ makeA X Y ep nx us id want = ⟨wroteX X ep nx.toNat [makeR id want], nx + 1, us', 0⟩ := by
  rw [makeA] at h
  split at h
  · rename_i h1
    split at h
    · rename_i h2
      split at h
      · rename_i h3
        have hso : SOk X Y ep nx us := decB_of h1.1
        have ho := make_fits (want := want) h2 hso.few h3.2
        have hf : [makeR id want].foldlM oneU us = some (makeU us ⟨id, want, [], false⟩) := by rw [List.foldlM_cons, ho]; rfl
        refine ⟨hso, ⟨h1.2.1, ?_⟩, by omega, _, hf, ?_⟩
        · rw [kindB, if_pos rfl, decide_eq_true (show 0 ≤ want ∧ want ≤ 1000000000 by omega)]; rfl
        · rw [makeA, if_pos h1, if_pos h2, if_pos h3, wroteA, hf]; rfl
      · cases h
    · cases h
  · cases h

theorem dropA_no {X Y : List ByteArray} {ep nx : Int} {us : List U} {id : ByteArray} (h : (dropA X Y ep nx us id).c ≠ 0) : dropA X Y ep nx us id = ⟨X, nx, us, (dropA X Y ep nx us id).c⟩ := by
  rw [dropA] at h ⊢
  split at h
  · rename_i h1
    split at h
    · rename_i h2; rw [if_pos h1, if_pos h2]
    · rename_i h2
      split at h
      · exact absurd rfl h
      · rename_i h3; rw [if_pos h1, if_neg h2, if_neg h3]
  · rename_i h1; rw [if_neg h1]

theorem dropA_yes {X Y : List ByteArray} {ep nx : Int} {us : List U} {id : ByteArray} (h : (dropA X Y ep nx us id).c = 0) : SOk X Y ep nx us ∧ (idB id.data.toList = true ∧ kindB 4 0 0 = true) ∧ nx + 1 ≤ (X.length : Int) ∧ ∃ us', [dropR id].foldlM oneU us = some us' ∧ dropA X Y ep nx us id = ⟨wroteX X ep nx.toNat [dropR id], nx + 1, us', 0⟩ := by
  rw [dropA] at h
  split at h
  · rename_i h1
    split at h
    · cases h
    · rename_i h2
      split at h
      · rename_i h3
        have hso : SOk X Y ep nx us := decB_of h1.1
        cases ha : atU us id with
        | none => exact absurd ha h2
        | some k =>
          obtain ⟨us', ho⟩ := drop_fits ha
          have hf : [dropR id].foldlM oneU us = some us' := by rw [List.foldlM_cons, ho]; rfl
          refine ⟨hso, ⟨h1.2, rfl⟩, by omega, us', hf, ?_⟩
          rw [dropA, if_pos h1, if_neg h2, if_pos h3, wroteA, hf]; rfl
      · cases h
  · cases h

end Go.Proofs.YtlkgopoicpnacaaGreatDoor

namespace Go.Proofs.YtlkgopoicpnacaaGreatDoor
open Go.RowKit
set_option linter.unusedVariables false

theorem info_up : (Tryz.prog.info? 64).map (fun i => (i.zero, i.size, i.bytes)) = some (some (.agg #[.string ⟨#[]⟩, .int .i64 0, .slice none 0 0, .bool false]), 4, 56) := by kernel_rfl

theorem four_new (W : World) (u : U) (a : Option Addr) (n c : Nat) : ∀ j x, (UE.cells ⟨u, a, n, c⟩)[j]? = some x → (W.alloc (.cells #[.string u.id, .int .i64 u.want, .slice a n c, .bool u.done] 64)).cell? ((⟨W.heap.size, 0, none⟩ : Addr).add j) = some x := by
  intro j x hj
  match j, hj with
  | 0, hj => simp [UE.cells] at hj; subst hj; simp [Addr.add]
  | 1, hj => simp [UE.cells] at hj; subst hj; simp [Addr.add]
  | 2, hj => simp [UE.cells] at hj; subst hj; simp [Addr.add]
  | 3, hj => simp [UE.cells] at hj; subst hj; simp [Addr.add]

theorem four_one (u : U) (a : Option Addr) (n c : Nat) : ∀ x ∈ UE.cells ⟨u, a, n, c⟩, x.oneCell' = true := by
  intro x hx
  simp [UE.cells] at hx
  rcases hx with rfl | rfl | rfl | rfl <;> rfl

/-- An upload more in a row. -/
theorem UpRow.snoc {W W' : World} {base B : Nat} {v v' : Value} {l : List UE} {e : UE} {o : Obj} (h : UpRow W base v l) (he : Owns W B e.a e.n e.c e.u.zs) (hB : base ≤ B) (hl : ∀ x ∈ l, ∀ q, x.a.map (·.block) = some q → q < B) (ho : W'.ownsRow base 64 4 v' (l.length + 1) (ueCells l ++ UE.cells e)) (hg : (W.alloc o).grownBy W' v.ownBlock) : UpRow W' base v' (l ++ [e]) := by
  have hb : Below W.heap.size W (W.alloc o) := (Below.refl _ _).alloc (Nat.le_refl _) _
  have h1 := h.stays hb
  refine ⟨?_, ?_, ?_⟩
  · rw [List.length_append, ueCells_append, show ueCells [e] = UE.cells e by simp [ueCells]]
    exact ho
  · intro x hx
    rcases List.mem_append.1 hx with hx | hx
    · exact (h1.2.1 x hx).grown hg (fun q hq => h1.rowApart (h1.2.1 x hx) q hq)
    · obtain rfl : x = e := by simpa using hx
      exact ((he.below hb).grown hg (fun q hq => h1.rowApart (he.below hb) q hq)).low hB
  · rw [List.pairwise_append]
    refine ⟨h.2.2, by simp, fun x hx y hy q hq hq2 => ?_⟩
    obtain rfl : y = e := by simpa using hy
    have h2 := hl x hx q hq
    have h3 := (he.lt q hq2).1
    omega

end Go.Proofs.YtlkgopoicpnacaaGreatDoor

namespace Go.Proofs.YtlkgopoicpnacaaGreatDoor
open Go.RowKit
set_option linter.unusedVariables false

theorem run_room_any {P : Program} (w : World) (t tx ty e : TypeId) (i : TypeInfo) (ht : P.underlying t = some (.slice e)) (hi : P.info? e = some i)
    (g sLen sCap : Nat) (cur : Array Value) (hg : w.heap[g]? = some (.cells cur e (0, 0))) (x : Value) (m : Nat) (news : List Value) (hs : Src P i.size tx x m news w)
    (hroom : sLen + m ≤ sCap) (hfit : sLen * i.size + news.length ≤ cur.size) :
    (Builtin.append_ #[t, tx] ty #[.slice (some ⟨g, 0, none⟩) sLen sCap, x]).run P w =
      .ok (.slice (some ⟨g, 0, none⟩) (sLen + m) sCap) (w.setRow g (cur.toList.take (sLen * i.size) ++ news ++ cur.toList.drop (sLen * i.size + news.length)).toArray) := by
  have hst := run_storeCells_at P g (sLen * i.size) e news 0 cur w hg (by simpa using hfit) hs.one
  simp only [Nat.add_zero] at hst
  rcases hs.kind with ⟨e', hk⟩ | hk <;> simp [Builtin.append_, run_underlying ht, run_underlying hk, sizeOf, typeInfo, hi, hs.len, hroom, hs.cells, Addr.add_lit, hst]

theorem run_append_any {P : Program} (w : World) (base : Nat) (t tx ty e : TypeId) (i : TypeInfo) (z : Value) (size bytes : Nat) (ht : P.underlying t = some (.slice e)) (hi : P.info? e = some i) (hz : i.zero = some z)
    (hsize : i.size = size) (hby : i.bytes = bytes) (hzs : z.cells.size = size) (hsz : 0 < size)
    (g n cap : Nat) (xs : List Value) (hown : w.ownsRow base e size (.slice (some ⟨g, 0, none⟩) n cap) n xs)
    (x : Value) (m : Nat) (news : List Value) (hs : Src P size tx x m news w)
    (h63 : n + m ≤ maxLen) (hbytes : (n + m) * bytes ≤ 140737488355328) (hbase : base ≤ w.heap.size) :
    ∃ v' w', (Builtin.append_ #[t, tx] ty #[.slice (some ⟨g, 0, none⟩) n cap, x]).run P w = .ok v' w' ∧ w'.ownsRow base e size v' (n + m) (xs ++ news) ∧ w.grownBy w' (some g) := by
  subst hsize
  subst hby
  have hsmall : n + m ≤ 9223372036854775807 := by simp only [maxLen] at h63; omega
  have hl := hs.newsLen
  have hlen : (xs ++ news).length = (n + m) * i.size := by rw [List.length_append, hown.1, hl, Nat.add_mul]
  rcases hown.2 with ⟨h, _⟩ | ⟨g', cap', cur, heq, hbg, hg, hnc, hcm, hcs, htake⟩
  · cases h
  · injection heq with e1 e2 e3
    injection e1 with e1
    injection e1 with e1
    subst e1
    subst e3
    by_cases hroom : n + m ≤ cap
    · have hfit : n * i.size + news.length ≤ cur.size := by rw [hl, hcs, ← Nat.add_mul]; exact Nat.mul_le_mul_right _ hroom
      have hr := run_room_any w t tx ty e i ht hi g n cap cur hg x m news hs hroom hfit
      refine ⟨_, _, hr, ⟨hlen, .inr ⟨g, cap, _, rfl, hbg, setRow_heap w g cur _ e _ hg, hroom, hcm, ?_, ?_⟩⟩, ⟨rfl, rfl, rfl, by simp, fun k _ hk => setRow_other w g k _ (fun e => hk (by simp [e]))⟩⟩
      · simp only [List.size_toArray, List.length_append, List.length_take, List.length_drop, Array.length_toList]
        omega
      · rw [htake, ← hlen]
        exact List.take_left
    · have holds : ∀ j u, xs[j]? = some u → w.cell? ((⟨g, 0, none⟩ : Addr).add j) = some u := hown.cells (g := g) rfl
      have hold := run_firstCells_some (P := P) w.drew i.size n ⟨g, 0, none⟩ n cap xs hown.1 (by simpa using holds)
      have hr := run_append_grow_src (P := P) w t tx ty e i z ht hi hz (some ⟨g, 0, none⟩) n cap xs hold x m news hs (by omega) (by omega) (growslice_fits (by omega) hbytes)
      have hge := grownCap_ge w (n + m) cap e
      have hcm' : grownCap w (n + m) cap e ≤ maxLen := grownCap_le_maxLen w (n + m) cap e h63
      refine ⟨_, _, hr, ⟨hlen, .inr ⟨w.heap.size, _, _, rfl, hbase, heap_alloc_new w.drew _, hge, hcm', ?_, ?_⟩⟩, ⟨rfl, rfl, rfl, by simp, fun k hk _ => heap_alloc_old w.drew _ hk⟩⟩
      · simp only [Array.size_append, List.size_toArray, size_zeroCells, hzs, hlen, ← Nat.add_mul]
        congr 1
        omega
      · simp only [Array.toList_append]
        rw [← hlen]
        exact List.take_left

theorem wpList_append_any {P : Program} {w : World} {ops : Array Oper} {rest : List Oper} {o : Oper} {a : Act} {Q : Exit → Act → World → Prop} (hgd : o.guard = none) (s x : Operand) (t tx : TypeId)
    (ho : o.op = .call { callee := .builtin .append, args := #[s, x], argTypes := #[t, tx] })
    (base : Nat) (e : TypeId) (i : TypeInfo) (z : Value) (size bytes : Nat) (ht : P.underlying t = some (.slice e)) (hi : P.info? e = some i) (hz : i.zero = some z)
    (hsize : i.size = size) (hby : i.bytes = bytes) (hzs : z.cells.size = size) (hsz : 0 < size)
    (g n cap : Nat) (xs : List Value) (hs : a.eval s = .slice (some ⟨g, 0, none⟩) n cap) (hown : w.ownsRow base e size (.slice (some ⟨g, 0, none⟩) n cap) n xs)
    (u : Value) (m : Nat) (news : List Value) (hx : a.eval x = u) (hsrc : Src P size tx u m news w)
    (h63 : n + m ≤ maxLen) (hbytes : (n + m) * bytes ≤ 140737488355328) (hbase : base ≤ w.heap.size)
    (h : ∀ v' w', w'.ownsRow base e size v' (n + m) (xs ++ news) → w.grownBy w' (some g) → wpList P ops Q rest (a.put o.dst v') w') : wpList P ops Q (o :: rest) a w := by
  refine wpList_plain hgd fun K hK => ?_
  obtain ⟨v', w', hr, h2, h3⟩ := run_append_any (P := P) w base t tx o.type e i z size bytes ht hi hz hsize hby hzs hsz g n cap xs hown u m news hsrc h63 hbytes hbase
  unfold Oper.wp execOp
  simp only [ho, resolve, invoke, builtin, Sem.run_bind, Sem.run_pure, Result.andThen_ok, List.map_toArray, List.map_cons, List.map_nil, hs, hx, hr]
  exact hK _ _ (h v' w' h2 h3)

end Go.Proofs.YtlkgopoicpnacaaGreatDoor

namespace Go.Proofs.YtlkgopoicpnacaaGreatDoor
open Go.RowKit
set_option linter.unusedVariables false

/-- A variable of three cells. -/
def Box3 (W : World) (b : Nat) (t : TypeId) (x y z : Value) : Prop := W.heap[b]? = some (.cells #[x, y, z] t (0, 0))

theorem Box3.lt {W : World} {b : Nat} {t : TypeId} {x y z : Value} (h : Box3 W b t x y z) : b < W.heap.size := (Array.getElem?_eq_some_iff.1 h).1

theorem Box3.stays {W W' : World} {b : Nat} {t : TypeId} {x y z : Value} (h : Box3 W b t x y z) (hb : Below W.heap.size W W') : Box3 W' b t x y z := (hb.block b h.lt).trans h

theorem Box3.alloc {W : World} {b : Nat} {t : TypeId} {x y z : Value} (h : Box3 W b t x y z) (o : Obj) : Box3 (W.alloc o) b t x y z := by
  have hl := h.lt
  show (W.heap.push o)[b]? = _
  rw [Array.getElem?_push, if_neg (by omega)]
  exact h

theorem Box3.new (W : World) (t : TypeId) (x y z : Value) : Box3 (W.alloc (.cells #[x, y, z] t)) W.heap.size t x y z := heap_alloc_new W _

theorem Box3.cells {W : World} {b : Nat} {t : TypeId} {x y z : Value} (h : Box3 W b t x y z) : W.cell? ⟨b, 0, none⟩ = some x ∧ W.cell? ⟨b, 1, none⟩ = some y ∧ W.cell? ⟨b, 2, none⟩ = some z := by
  refine ⟨?_, ?_, ?_⟩ <;> (rw [cell_of_row _ _ _ _ _ _ h]; rfl)

theorem Box3.frozen {W : World} {b : Nat} {t : TypeId} {x y z : Value} (h : Box3 W b t x y z) (i : Nat) : W.frozen? ⟨b, i, none⟩ = false := by simp [World.frozen?, show W.heap[b]? = _ from h]

theorem Box3.grown {W W' : World} {b : Nat} {t : TypeId} {x y z : Value} {r : Option Nat} (h : Box3 W b t x y z) (hg : W.grownBy W' r) (hr : r ≠ some b) : Box3 W' b t x y z := (hg.block b h.lt (Ne.symm hr)).trans h

end Go.Proofs.YtlkgopoicpnacaaGreatDoor

namespace Go.Proofs.YtlkgopoicpnacaaGreatDoor
open Go.RowKit
set_option linter.unusedVariables false

/-- A row of uploads of the call's own: its cells alone. -/
def OwnU (w : World) (base : Nat) (a : Option Addr) (n cap : Nat) (l : List UE) : Prop := w.ownsRow base 64 4 (.slice a n cap) n (ueCells l)

theorem OwnU.len {w : World} {base n cap : Nat} {a : Option Addr} {l : List UE} (h : OwnU w base a n cap l) : l.length = n := by
  have h1 : (ueCells l).length = n * 4 := h.1
  rw [ueCells_len] at h1
  omega

theorem OwnU.below {w w' : World} {base n cap : Nat} {a : Option Addr} {l : List UE} (h : OwnU w base a n cap l) (hb : Below w.heap.size w w') : OwnU w' base a n cap l := own_below h hb

theorem OwnU.lt {w : World} {base n cap : Nat} {a : Option Addr} {l : List UE} (h : OwnU w base a n cap l) : ∀ q, a.map (·.block) = some q → base ≤ q ∧ q < w.heap.size := fun q hq => World.ownsRow.lt h q (by rw [ownBlock_sU]; exact hq)

theorem OwnU.kept {w w' : World} {base n cap : Nat} {a : Option Addr} {l : List UE} {r : Option Nat} (h : OwnU w base a n cap l) (hg : w.grownBy w' r) (hr : ∀ q, r = some q → a.map (·.block) ≠ some q) : OwnU w' base a n cap l := by
  refine World.ownsRow.kept h hg ?_
  rw [ownBlock_sU]
  cases e : a.map (·.block) with
  | none => exact .inl rfl
  | some k => exact .inr (fun h2 => hr k h2.symm e)

/-- A block of uploads, with all its cells. -/
def RowU (w : World) (g C : Nat) (cs : List Value) : Prop := w.heap[g]? = some (.cells cs.toArray 64 (0, 0)) ∧ cs.length = C * 4

theorem OwnU.row {w : World} {base g n C : Nat} {l : List UE} (h : OwnU w base (some ⟨g, 0, none⟩) n C l) : ∃ rest, RowU w g C (ueCells l ++ rest) ∧ base ≤ g ∧ n ≤ C ∧ C ≤ maxLen := by
  rcases h.2 with ⟨h0, _⟩ | ⟨g', cap', cur, he, hb, hg, hn, hm, hc, ht⟩
  · cases h0
  · injection he with e1 e2 e3
    injection e1 with e1
    injection e1 with e1
    subst e1
    subst e3
    refine ⟨cur.toList.drop (n * 4), ⟨?_, ?_⟩, hb, hn, hm⟩
    · rw [← ht, List.take_append_drop]
      simpa using hg
    · rw [← ht, List.take_append_drop]
      simpa using hc

theorem RowU.own {w : World} {base g n C : Nat} {l : List UE} {rest : List Value} (h : RowU w g C (ueCells l ++ rest)) (hb : base ≤ g) (hc : C ≤ maxLen) (hl : l.length = n) : OwnU w base (some ⟨g, 0, none⟩) n C l := by
  have h2 := h.2
  rw [List.length_append, ueCells_len] at h2
  refine ⟨by rw [ueCells_len, hl], .inr ⟨g, C, _, rfl, hb, h.1, by omega, hc, by simpa using h.2, ?_⟩⟩
  have : n * 4 = (ueCells l).length := by rw [ueCells_len, hl]
  rw [this]
  simp

theorem RowU.cell {w : World} {g C : Nat} {cs : List Value} (h : RowU w g C cs) (j : Nat) : w.cell? ⟨g, j, none⟩ = cs[j]? := by
  rw [cell_of_row w g j _ _ (0, 0) h.1]
  simp

theorem RowU.lt {w : World} {g C : Nat} {cs : List Value} (h : RowU w g C cs) : g < w.heap.size := (Array.getElem?_eq_some_iff.1 h.1).1

theorem ueCells_drop (l : List UE) (i : Nat) : ueCells (l.drop i) = (ueCells l).drop (i * 4) := by
  by_cases h : i ≤ l.length
  · have e : ueCells l = ueCells (l.take i) ++ ueCells (l.drop i) := by rw [← ueCells_append, List.take_append_drop]
    have hl : (ueCells (l.take i)).length = i * 4 := by rw [ueCells_len, List.length_take]; omega
    rw [e, ← hl, List.drop_left]
  · rw [List.drop_of_length_le (by omega), List.drop_of_length_le (by rw [ueCells_len]; omega)]
    rfl

/-- The cells of a row from the i-th upload on. -/
theorem OwnU.src {w : World} {base g n C : Nat} {l : List UE} (h : OwnU w base (some ⟨g, 0, none⟩) n C l) (i : Nat) : ∀ j v, (ueCells (l.drop i))[j]? = some v → w.cell? ((⟨g, i * 4, none⟩ : Addr).add j) = some v := by
  intro j v hj
  rw [ueCells_drop, List.getElem?_drop] at hj
  have hlt := (List.getElem?_eq_some_iff.1 hj).1
  have hc := World.ownsRow.cellAt h (i * 4 + j) (by rw [ueCells_len] at hlt; have := h.len; omega)
  rw [Addr.add_lit]
  exact hc.trans hj

theorem OwnU.src0 {w : World} {base g n C : Nat} {l : List UE} (h : OwnU w base (some ⟨g, 0, none⟩) n C l) (i : Nat) : ∀ j v, (ueCells (l.take i))[j]? = some v → w.cell? ((⟨g, 0, none⟩ : Addr).add j) = some v := by
  intro j v hj
  have e : ueCells l = ueCells (l.take i) ++ ueCells (l.drop i) := by rw [← ueCells_append, List.take_append_drop]
  have hlt := (List.getElem?_eq_some_iff.1 hj).1
  have hj2 : (ueCells l)[j]? = some v := by rw [e, List.getElem?_append_left hlt]; exact hj
  have hlt2 := (List.getElem?_eq_some_iff.1 hj2).1
  have hc := World.ownsRow.cellAt h j (by rw [ueCells_len] at hlt2; have := h.len; omega)
  rw [Addr.add_lit, Nat.zero_add]
  exact hc.trans hj2

/-- 'copy' of uploads into a row. -/
theorem copyU_run (w : World) (dT sT ty : TypeId) (hu : Tryz.prog.underlying dT = some (.slice 64)) (g C o dLen dCap : Nat) (P T S : List Value) (a : Addr) (sLen sCap : Nat) (zs : List UE)
    (hr : RowU w g C (P ++ T ++ S)) (hT : T.length = zs.length * 4) (ho : P.length = o) (hk : zs.length = Nat.min sLen dLen) (hsrc : ∀ j v, (ueCells zs)[j]? = some v → w.cell? (a.add j) = some v) :
    ∃ w2, (Builtin.copy_ #[dT, sT] ty #[.slice (some ⟨g, o, none⟩) dLen dCap, .slice (some a) sLen sCap]).run Tryz.prog w = .ok (goInt zs.length) w2 ∧ RowU w2 g C (P ++ ueCells zs ++ S) ∧ w.grownBy w2 (some g) := by
  obtain ⟨i0, hi, hz0, hz1, hz2⟩ := info_parts info_up
  have hl := run_loadCells_list (P := Tryz.prog) w a (ueCells zs) hsrc
  have hst := run_storeCells_at Tryz.prog g o _ (ueCells zs) 0 _ w hr.1 (by simp [ueCells_len, hT]; omega) (ueCells_one zs)
  have hzl := ueCells_len zs
  refine ⟨w.setRow g (P ++ ueCells zs ++ S).toArray, ?_, ⟨setRow_heap w g _ _ _ _ hr.1, ?_⟩, ⟨rfl, rfl, rfl, by simp, fun k _ hk => setRow_other w g k _ (fun e => hk (by simp [e]))⟩⟩
  · have e1 : ((P ++ T ++ S).toArray.toList.take (o + 0) ++ ueCells zs ++ (P ++ T ++ S).toArray.toList.drop (o + 0 + (ueCells zs).length)).toArray = (P ++ ueCells zs ++ S).toArray := by
      subst ho
      rw [hzl, ← hT]
      simp [List.drop_append]
    rw [e1] at hst
    rw [hzl] at hl
    simp [Builtin.copy_, run_underlying hu, Builtin.lenOf, Builtin.firstCells, sizeOf, typeInfo, hi, hz1, ← hk, hl, hst]
  · have := hr.2
    simp only [List.length_append] at this ⊢
    omega

/-- An append of uploads onto a row of the call's own, or onto none. -/
theorem appU_run (w : World) (base : Nat) (t tx ty : TypeId) (ht : Tryz.prog.underlying t = some (.slice 64)) (a : Option Addr) (n cap : Nat) (l : List UE) (hown : OwnU w base a n cap l)
    (x : Value) (m : Nat) (zs : List UE) (hs : Src Tryz.prog 4 tx x m (ueCells zs) w) (hm : 0 < m) (h63 : n + m ≤ 2097152) (hbase : base ≤ w.heap.size) :
    ∃ A' C' w', (Builtin.append_ #[t, tx] ty #[.slice a n cap, x]).run Tryz.prog w = .ok (.slice A' (n + m) C') w' ∧ OwnU w' base A' (n + m) C' (l ++ zs) ∧ w.grownBy w' (a.map (·.block)) := by
  obtain ⟨i0, hi, hz0, hz1, hz2⟩ := info_parts info_up
  rcases hown.2 with ⟨h0, hn0⟩ | ⟨g, cap', cur, he, hb, hg, hn, hmx, hc, htk⟩
  · injection h0 with e1 e2 e3
    subst e1 e2 e3
    have hl0 : l = [] := List.eq_nil_of_length_eq_zero hown.len
    subst hl0
    have hs' : Src Tryz.prog i0.size tx x m (ueCells zs) w := by rw [hz1]; exact hs
    have hr := run_append_grow_src (P := Tryz.prog) w t tx ty 64 i0 _ ht hi hz0 none 0 0 [] (run_firstCells_none w.drew i0.size 0 0 0) x m (ueCells zs) hs' (by omega) (by omega) (growslice_fits (by omega) (by rw [hz2]; omega))
    have hge := grownCap_ge w (0 + m) 0 64
    have hcm' : grownCap w (0 + m) 0 64 ≤ maxLen := grownCap_le_maxLen w (0 + m) 0 _ (by unfold maxLen; omega)
    have hl2 := hs.newsLen
    refine ⟨_, _, _, hr, ⟨by rw [List.nil_append, hl2]; omega, .inr ⟨w.heap.size, _, _, rfl, hbase, heap_alloc_new w.drew _, hge, hcm', ?_, ?_⟩⟩, ⟨rfl, rfl, rfl, by simp, fun k hk _ => heap_alloc_old w.drew _ hk⟩⟩
    · simp only [Array.size_append, List.size_toArray, List.nil_append, size_zeroCells, hl2]
      show m * 4 + (_ - _) * 4 = _
      omega
    · simp only [Array.toList_append, List.nil_append]
      have : (0 + m) * 4 = (ueCells zs).length := by rw [hl2]; omega
      rw [this]
      exact List.take_left
  · injection he with e1 e2 e3
    subst e1 e3
    obtain ⟨v', w', hr, ho', hg'⟩ := run_append_any (P := Tryz.prog) w base t tx ty 64 i0 _ 4 56 ht hi hz0 hz1 hz2 rfl (by decide) g n cap (ueCells l) hown x m (ueCells zs) hs (by unfold maxLen; omega) (by omega) hbase
    obtain ⟨A', C', rfl⟩ : ∃ A' C', v' = .slice A' (n + m) C' := by
      rcases ho'.2 with ⟨rfl, h0⟩ | ⟨g, cap, cur, rfl, _⟩
      · rw [h0]; exact ⟨_, _, rfl⟩
      · exact ⟨_, _, rfl⟩
    exact ⟨A', C', w', hr, by rw [OwnU, ueCells_append]; exact ho', hg'⟩

/-- 'clear' of uploads in a row. -/
theorem clearU_run (w : World) (t ty : TypeId) (hu : Tryz.prog.underlying t = some (.slice 64)) (g C o m c : Nat) (P T S : List Value) (hr : RowU w g C (P ++ T ++ S)) (hT : T.length = m * 4) (ho : P.length = o) (hm : 0 < m) :
    ∃ w2 Z, (Builtin.clear_ #[t] ty #[.slice (some ⟨g, o, none⟩) m c]).run Tryz.prog w = .ok (.tuple #[]) w2 ∧ RowU w2 g C (P ++ Z) ∧ w.grownBy w2 (some g) := by
  obtain ⟨i0, hi, hz0, hz1, hz2⟩ := info_parts info_up
  have hv : ∀ w, (zeroValue 64).run Tryz.prog w = .ok (.agg #[.string ⟨#[]⟩, .int .i64 0, .slice none 0 0, .bool false]) w := fun w => by simp [zeroValue, typeInfo, hi, hz0]
  obtain ⟨cs, hcs⟩ : ∃ cs, (Builtin.zeroCells (Value.agg #[.string ⟨#[]⟩, .int .i64 0, .slice none 0 0, .bool false]).cells m) = cs := ⟨_, rfl⟩
  have hcl : cs.size = m * 4 := by
    rw [← hcs, size_zeroCells]
    rfl
  have h1 : ∀ v ∈ cs.toList, v.oneCell' = true := by
    intro v hv'
    rw [← hcs] at hv'
    simp only [Builtin.zeroCells, Value.cells, Array.toList_map, List.mem_map] at hv'
    obtain ⟨k, _, hk⟩ := hv'
    rw [← hk]
    have : k % 4 = 0 ∨ k % 4 = 1 ∨ k % 4 = 2 ∨ k % 4 = 3 := by omega
    rcases this with h | h | h | h <;> simp [h, Value.oneCell']
  have hst := run_storeCells_at Tryz.prog g o _ cs.toList 0 _ w hr.1 (by simp [hcl, hT]; omega) h1
  obtain ⟨m', rfl⟩ : ∃ m', m = m' + 1 := ⟨m - 1, by omega⟩
  refine ⟨w.setRow g (P ++ (cs.toList ++ S)).toArray, cs.toList ++ S, ?_, ⟨setRow_heap w g _ _ _ _ hr.1, ?_⟩, ⟨rfl, rfl, rfl, by simp, fun k _ hk => setRow_other w g k _ (fun e => hk (by simp [e]))⟩⟩
  · have e1 : ((P ++ T ++ S).toArray.toList.take (o + 0) ++ cs.toList ++ (P ++ T ++ S).toArray.toList.drop (o + 0 + cs.toList.length)).toArray = (P ++ (cs.toList ++ S)).toArray := by
      have e2 : cs.toList.length = T.length := by rw [Array.length_toList, hcl, hT]
      subst ho
      rw [e2]
      simp [List.drop_append]
    rw [e1] at hst
    simp [Builtin.clear_, run_underlying hu, hv, hcs, hst]
  · have := hr.2
    simp only [List.length_append, Array.length_toList] at this ⊢
    omega

end Go.Proofs.YtlkgopoicpnacaaGreatDoor

namespace Go.Proofs.YtlkgopoicpnacaaGreatDoor
open Go.RowKit
set_option linter.unusedVariables false

theorem box4_set0 {W : World} {b : Nat} {t : TypeId} {x y z u : Value} (h : Box4 W b t x y z u) (v : Value) : Box4 (W.setCell ⟨b, 0, none⟩ v) b t v y z u := by
  show (W.setCell ⟨b, 0, none⟩ v).heap[b]? = _
  rw [setCell_eq_setRow W b 0 _ t (0, 0) _ h, setRow_heap W b _ _ t (0, 0) h]
  rfl

theorem box4_set1 {W : World} {b : Nat} {t : TypeId} {x y z u : Value} (h : Box4 W b t x y z u) (v : Value) : Box4 (W.setCell ⟨b, 1, none⟩ v) b t x v z u := by
  show (W.setCell ⟨b, 1, none⟩ v).heap[b]? = _
  rw [setCell_eq_setRow W b 1 _ t (0, 0) _ h, setRow_heap W b _ _ t (0, 0) h]
  rfl

theorem box4_set2 {W : World} {b : Nat} {t : TypeId} {x y z u : Value} (h : Box4 W b t x y z u) (v : Value) : Box4 (W.setCell ⟨b, 2, none⟩ v) b t x y v u := by
  show (W.setCell ⟨b, 2, none⟩ v).heap[b]? = _
  rw [setCell_eq_setRow W b 2 _ t (0, 0) _ h, setRow_heap W b _ _ t (0, 0) h]
  rfl

theorem box4_set3 {W : World} {b : Nat} {t : TypeId} {x y z u : Value} (h : Box4 W b t x y z u) (v : Value) : Box4 (W.setCell ⟨b, 3, none⟩ v) b t x y z v := by
  show (W.setCell ⟨b, 3, none⟩ v).heap[b]? = _
  rw [setCell_eq_setRow W b 3 _ t (0, 0) _ h, setRow_heap W b _ _ t (0, 0) h]
  rfl

theorem box3_set0 {W : World} {b : Nat} {t : TypeId} {x y z : Value} (h : Box3 W b t x y z) (v : Value) : Box3 (W.setCell ⟨b, 0, none⟩ v) b t v y z := by
  show (W.setCell ⟨b, 0, none⟩ v).heap[b]? = _
  rw [setCell_eq_setRow W b 0 _ t (0, 0) _ h, setRow_heap W b _ _ t (0, 0) h]
  rfl

theorem box3_set1 {W : World} {b : Nat} {t : TypeId} {x y z : Value} (h : Box3 W b t x y z) (v : Value) : Box3 (W.setCell ⟨b, 1, none⟩ v) b t x v z := by
  show (W.setCell ⟨b, 1, none⟩ v).heap[b]? = _
  rw [setCell_eq_setRow W b 1 _ t (0, 0) _ h, setRow_heap W b _ _ t (0, 0) h]
  rfl

theorem box3_set2 {W : World} {b : Nat} {t : TypeId} {x y z : Value} (h : Box3 W b t x y z) (v : Value) : Box3 (W.setCell ⟨b, 2, none⟩ v) b t x y v := by
  show (W.setCell ⟨b, 2, none⟩ v).heap[b]? = _
  rw [setCell_eq_setRow W b 2 _ t (0, 0) _ h, setRow_heap W b _ _ t (0, 0) h]
  rfl

theorem set_block_ne (w : World) (b b' k : Nat) (v : Value) (h : b ≠ b') : (w.setCell ⟨b', k, none⟩ v).heap[b]? = w.heap[b]? := by
  simp [World.setCell, Array.getElem?_modify, Ne.symm h]

theorem grownBy_set (W : World) (b k : Nat) (v : Value) : W.grownBy (W.setCell ⟨b, k, none⟩ v) (some b) :=
  ⟨rfl, rfl, rfl, by simp, fun i _ hne => set_block_ne W i b k v (fun e => hne (by rw [e]))⟩

/-- A variable of another block is as it was. -/
theorem box4_other {W : World} {b b' k : Nat} {t : TypeId} {x y z u v : Value} (h : Box4 W b t x y z u) (hne : b ≠ b') : Box4 (W.setCell ⟨b', k, none⟩ v) b t x y z u := (set_block_ne W b b' k v hne).trans h

theorem box3_other {W : World} {b b' k : Nat} {t : TypeId} {x y z v : Value} (h : Box3 W b t x y z) (hne : b ≠ b') : Box3 (W.setCell ⟨b', k, none⟩ v) b t x y z := (set_block_ne W b b' k v hne).trans h

/-- A row of the call's own is as it was where another block is written. -/
theorem owns_set {W : World} {base n cap b' k : Nat} {a : Option Addr} {zs : List Int} {v : Value} (h : Owns W base a n cap zs) (hne : a.map (·.block) ≠ some b') : Owns (W.setCell ⟨b', k, none⟩ v) base a n cap zs := by
  refine ⟨⟨h.1.1, ?_⟩, h.2⟩
  rcases h.1.2 with h0 | ⟨g, cap', cur, he, hb, hg, r⟩
  · exact .inl h0
  · injection he with e1 e2 e3
    subst e1
    refine .inr ⟨g, cap', cur, by rw [e3], hb, ?_, r⟩
    rw [set_block_ne W g b' k v (fun e => hne (by rw [← e]; rfl))]
    exact hg

end Go.Proofs.YtlkgopoicpnacaaGreatDoor

namespace Go.Proofs.YtlkgopoicpnacaaGreatDoor
open Go.RowKit
set_option linter.unusedVariables false

/-- The block holds a variable of these cells. -/
def BoxN (W : World) (b : Nat) (t : TypeId) (vs : List Value) : Prop := W.heap[b]? = some (.cells vs.toArray t (0, 0))

section
variable {W W' : World} {b : Nat} {t : TypeId} {vs : List Value}

theorem BoxN.lt (h : BoxN W b t vs) : b < W.heap.size := (Array.getElem?_eq_some_iff.1 h).1
theorem BoxN.stays (h : BoxN W b t vs) (hb : Below W.heap.size W W') : BoxN W' b t vs := (hb.block b h.lt).trans h
theorem BoxN.alloc (h : BoxN W b t vs) (o : Obj) : BoxN (W.alloc o) b t vs := h.stays ((Below.refl _ _).alloc (Nat.le_refl _) _)
theorem BoxN.new (W : World) (t : TypeId) (vs : List Value) : BoxN (W.alloc (.cells vs.toArray t)) W.heap.size t vs := heap_alloc_new W _

theorem BoxN.cell (h : BoxN W b t vs) (i : Nat) {v : Value} (hv : vs[i]? = some v) : W.cell? ⟨b, i, none⟩ = some v := by
  have h' : W.heap[b]? = some (.cells vs.toArray t (0, 0)) := h
  rw [cell_of_row _ _ _ _ _ _ h', ← hv]
  simp

theorem BoxN.frozen (h : BoxN W b t vs) (i : Nat) : W.frozen? ⟨b, i, none⟩ = false := by simp [World.frozen?, show W.heap[b]? = _ from h]
theorem BoxN.grown {r : Option Nat} (h : BoxN W b t vs) (hg : W.grownBy W' r) (hr : r ≠ some b) : BoxN W' b t vs := (hg.block b h.lt (Ne.symm hr)).trans h

theorem BoxN.set (h : BoxN W b t vs) (i : Nat) (v : Value) : BoxN (W.setCell ⟨b, i, none⟩ v) b t (vs.set i v) := by
  show (W.setCell ⟨b, i, none⟩ v).heap[b]? = _
  rw [setCell_eq_setRow W b i _ t (0, 0) _ h, setRow_heap W b _ _ t (0, 0) h]
  simp

theorem BoxN.other {b' k : Nat} (h : BoxN W b t vs) (hne : b ≠ b') (v : Value) : BoxN (W.setCell ⟨b', k, none⟩ v) b t vs := (set_block_ne W b b' k v hne).trans h
end

end Go.Proofs.YtlkgopoicpnacaaGreatDoor

namespace Go.Proofs.YtlkgopoicpnacaaGreatDoor
open Go.RowKit
set_option linter.unusedVariables false

theorem grownBy_setU (w : World) (b i : Nat) (v : Value) : w.grownBy (w.setCell ⟨b, i, none⟩ v) (some b) := ⟨rfl, rfl, rfl, by simp, fun k _ hk => set_block_ne w k b i v (fun e => hk (by rw [e]))⟩

theorem grown_cell {W W' : World} {q : Option Nat} {g i : Nat} (h : W.grownBy W' q) (hg : g < W.heap.size) (hn : some g ≠ q) : W'.cell? ⟨g, i, none⟩ = W.cell? ⟨g, i, none⟩ := by simp only [World.cell?]; rw [h.block g hg hn]
theorem grown_frozen {W W' : World} {q : Option Nat} {g i : Nat} (h : W.grownBy W' q) (hg : g < W.heap.size) (hn : some g ≠ q) : W'.frozen? ⟨g, i, none⟩ = W.frozen? ⟨g, i, none⟩ := by simp only [World.frozen?]; rw [h.block g hg hn]

end Go.Proofs.YtlkgopoicpnacaaGreatDoor

namespace Go.Proofs.YtlkgopoicpnacaaGreatDoor
open Go.RowKit
set_option linter.unusedVariables false

theorem owns_nil (W : World) (base : Nat) : Owns W base none 0 0 [] := ⟨⟨rfl, .inl ⟨rfl, rfl⟩⟩, by simp⟩

/-- Another row of the same uploads, and of ones without bytes. -/
theorem UpRow.remade {W W' : World} {base : Nat} {v v' : Value} {l l' : List UE} (h : UpRow W base v l) (ho : W'.ownsRow base 64 4 v' l'.length (ueCells l')) (hg : W.grownBy W' v.ownBlock) (hin : ∀ e ∈ l', e ∈ l ∨ (e.a = none ∧ e.n = 0 ∧ e.c = 0 ∧ e.u.zs = [])) (hp : l'.Pairwise uapart) : UpRow W' base v' l' := by
  refine ⟨ho, fun e he => ?_, hp⟩
  rcases hin e he with h1 | ⟨h1, h2, h3, h4⟩
  · exact (h.2.1 e h1).grown hg (fun q hq => h.rowApart (h.2.1 e h1) q hq)
  · rw [h1, h2, h3, h4]
    exact owns_nil _ _

theorem uapart_none {e x : UE} (h : x.a = none) : uapart e x ∧ uapart x e := ⟨fun q _ => by rw [h]; simp, fun q hq => by rw [h] at hq; simp at hq⟩

theorem upair_ins {l : List UE} {x : UE} (k : Nat) (h : l.Pairwise uapart) (hx : x.a = none) : (l.take k ++ [x] ++ l.drop k).Pairwise uapart := by
  have h2 := h
  rw [← List.take_append_drop k l, List.pairwise_append] at h2
  rw [List.append_assoc, List.pairwise_append]
  refine ⟨h2.1, ?_, fun y hy z hz => ?_⟩
  · rw [List.singleton_append, List.pairwise_cons]
    exact ⟨fun z _ => (uapart_none hx).2, h2.2.1⟩
  · rw [List.singleton_append] at hz
    rcases List.mem_cons.1 hz with rfl | hz
    · exact (uapart_none hx).1
    · exact h2.2.2 y hy z hz

/-- A row of uploads is no variable of another type. -/
theorem BoxN.noRow {W : World} {b base n size : Nat} {t e : TypeId} {vs xs : List Value} {v : Value} (h : BoxN W b t vs) (ho : W.ownsRow base e size v n xs) (hne : t ≠ e) : v.ownBlock ≠ some b := by
  intro hq
  rcases ho.2 with ⟨rfl, _⟩ | ⟨g, cap, cur, rfl, _, hg, _⟩
  · cases hq
  · obtain rfl : g = b := by simpa [Value.ownBlock] using hq
    have h' : W.heap[g]? = some (.cells vs.toArray t (0, 0)) := h
    rw [h'] at hg
    injection hg with hg
    injection hg with _ h2 _
    exact hne h2

/-- Uploads are as they were where a variable of another type is written. -/
theorem UpRow.setBox {W : World} {base b i : Nat} {t : TypeId} {vs : List Value} {v u : Value} {l : List UE} (h : UpRow W base v l) (hb : BoxN W b t vs) (h1 : t ≠ 64) (h2 : t ≠ 5) : UpRow (W.setCell ⟨b, i, none⟩ u) base v l := by
  refine h.grown (grownBy_setU W b i u) (fun q hq => ?_) (fun e he q hq => ?_)
  · injection hq with hq
    subst hq
    exact hb.noRow h.1 h1
  · injection hq with hq
    subst hq
    have := hb.noRow (h.2.1 e he).1 h2
    rwa [ownBlock_sU] at this

end Go.Proofs.YtlkgopoicpnacaaGreatDoor



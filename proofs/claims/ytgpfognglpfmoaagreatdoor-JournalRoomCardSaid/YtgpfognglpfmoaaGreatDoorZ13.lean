/- record: All. -/
import Derived.Test.YtgpfognglpfmoaaGreatDoorZ12
import Derived.IntWalk
set_option linter.unusedSimpArgs false
set_option linter.unusedVariables false
namespace Go.Proofs.YtgpfognglpfmoaaGreatDoor
set_option maxRecDepth 100000
set_option linter.unusedSimpArgs false
set_option linter.unusedVariables false
open Go.RowKit Go.Shelf

attribute [local go_sem] Oper.semAt_some

def itCells (xs : List It) : List Value := xs.flatMap fun x => x.v.cells
theorem itCells_snoc (xs : List It) (x : It) : itCells (xs ++ [x]) = itCells xs ++ x.v.cells := by simp [itCells]
theorem itCells_eq (xs : List It) : itCells xs = (xs.map It.v).flatMap Rv.cells := by simp [itCells, List.flatMap_map]
theorem itCells_length : ∀ xs : List It, (itCells xs).length = xs.length * 2
  | [] => rfl
  | x :: t => by
    have := itCells_length t
    simp only [itCells, List.flatMap_cons, List.length_append, List.length_cons] at this ⊢
    rw [this]
    simp [Rv.cells]
    omega
/-- A slice's bytes, wherever its own block stays. -/
theorem Rd.block {w w' : World} {top top' n c : Nat} {A : Option Addr} {l : List UInt8} (h : Rd w top A n c l) (hb : ∀ ad, A = some ad → w'.heap[ad.block]? = w.heap[ad.block]? ∧ ad.block < top') : Rd w' top' A n c l :=
  ⟨h.1, h.2.1, fun hn => by
    obtain ⟨ad, e, _, hc⟩ := h.2.2 hn
    obtain ⟨h1, h2⟩ := hb ad e
    exact ⟨ad, e, h2, fun j u hu => (World.cell?_of_block (by rw [add_block]; exact h1)).trans (hc j u hu)⟩⟩

/-- What All has when it has come to the records pre: w: the world at its start; rec: the loop's record; sz, ch: its size and chain. -/
structure Inv (w : World) (rec : Loop) (W : World) (pre : List It) (lv : Value) (sz : Int) (ch : List UInt8) : Prop where
  bel : Below w.heap.size w W
  chain : Bk W w.heap.size (cs8 ch)
  res : Bk W (w.heap.size + 1) z36
  box : Bk W (w.heap.size + 2) [lv]
  size : Bk W (w.heap.size + 3) [.int .i64 sz]
  dfr : W.heap[w.heap.size + 6]? = some (.deferred (some []))
  loop : W.heap[w.heap.size + 7]? = some (.loop rec)
  row : W.ownsRow (w.heap.size + 9) 33 2 lv pre.length (itCells pre)
  data : ∀ x ∈ pre, Rd W W.heap.size x.v.A x.v.d.length x.v.c x.v.d ∧ ∀ ad, x.v.A = some ad → w.heap.size + 9 ≤ ad.block ∧ ad.block < W.heap.size ∧ lv.ownBlock ≠ some ad.block
section
variable {w W W' : World} {rec : Loop} {pre : List It} {lv : Value} {sz : Int} {ch : List UInt8}
theorem Bk.grow {w w' : World} {row : Option Nat} {g : Nat} {cs : List Value} (h : Bk w g cs) (hg : w.grownBy w' row) (hne : row ≠ some g) : Bk w' g cs := by
  have hl := h.lt
  obtain ⟨t, h⟩ := h
  exact ⟨t, (hg.block g hl (fun e => hne e.symm)).trans h⟩
theorem Inv.lt (h : Inv w rec W pre lv sz ch) : w.heap.size + 7 < W.heap.size := (Array.getElem?_eq_some_iff.1 h.loop).1
theorem Inv.lv9 (h : Inv w rec W pre lv sz ch) : ∀ k, lv.ownBlock = some k → w.heap.size + 9 ≤ k ∧ k < W.heap.size := fun k e => World.ownsRow.lt h.row k e
/-- Records' Data, where one block is written that is none of theirs. -/
theorem data_grow {row : Option Nat} (h : ∀ x ∈ pre, Rd W W.heap.size x.v.A x.v.d.length x.v.c x.v.d ∧ ∀ ad, x.v.A = some ad → w.heap.size + 9 ≤ ad.block ∧ ad.block < W.heap.size ∧ lv.ownBlock ≠ some ad.block) (hg : W.grownBy W' row)
    (hr : ∀ r, row = some r → r < w.heap.size + 9 ∨ lv.ownBlock = some r) : ∀ x ∈ pre, Rd W' W'.heap.size x.v.A x.v.d.length x.v.c x.v.d ∧ ∀ ad, x.v.A = some ad → w.heap.size + 9 ≤ ad.block ∧ ad.block < W'.heap.size ∧ lv.ownBlock ≠ some ad.block := fun x hx => by
  obtain ⟨h1, h2⟩ := h x hx
  have hs := hg.size
  refine ⟨h1.block fun ad ha => ?_, fun ad ha => ?_⟩
  · obtain ⟨a1, a2, a3⟩ := h2 ad ha
    refine ⟨hg.block _ a2 (fun e => ?_), by omega⟩
    rcases hr _ e.symm with e2 | e2
    · omega
    · exact a3 e2
  · obtain ⟨a1, a2, a3⟩ := h2 ad ha
    exact ⟨a1, by omega, a3⟩
/-- Block w + 8, or none, is written. -/
theorem Inv.q (h : Inv w rec W pre lv sz ch) {row : Option Nat} (hg : W.grownBy W' row) (hq : ∀ r, row = some r → r = w.heap.size + 8) : Inv w rec W' pre lv sz ch := by
  have hlt := h.lt
  have hne : ∀ k, k ≠ w.heap.size + 8 → row ≠ some k := fun k hk e => hk (hq k e)
  refine ⟨h.bel.trans ⟨hg.os, hg.tape, hg.output, hg.size, fun i hi => hg.block i (by omega) (fun e => hne i (by omega) e.symm)⟩, h.chain.grow hg (hne _ (by omega)), h.res.grow hg (hne _ (by omega)), h.box.grow hg (hne _ (by omega)), h.size.grow hg (hne _ (by omega)),
    (hg.block _ (by omega) (fun e => hne _ (by omega) e.symm)).trans h.dfr, (hg.block _ hlt (fun e => hne _ (by omega) e.symm)).trans h.loop, World.ownsRow.kept h.row hg ?_, data_grow h.data hg (fun r e => .inl (by have := hq r e; omega))⟩
  rcases hlv : lv.ownBlock with _ | k
  · exact .inl rfl
  · exact .inr fun e => hne k (by have := (h.lv9 k hlv).1; omega) e.symm
theorem Inv.below (h : Inv w rec W pre lv sz ch) (hb : Below W.heap.size W W') : Inv w rec W' pre lv sz ch := h.q (row := some (w.heap.size + 8)) (grown_of_below hb) (fun r e => by injection e with e; exact e.symm)
/-- A block below w + 9, which is r, is written. -/
theorem Inv.at_ (h : Inv w rec W pre lv sz ch) {r : Nat} (hg : W.grownBy W' (some r)) (hw : w.heap.size ≤ r) (hr : r < w.heap.size + 9) {rec' : Loop} {sz' : Int} {ch' : List UInt8}
    (h0 : r ≠ w.heap.size + 1 ∧ r ≠ w.heap.size + 2 ∧ r ≠ w.heap.size + 6)
    (hc : Bk W' w.heap.size (cs8 ch')) (hs : Bk W' (w.heap.size + 3) [.int .i64 sz']) (hl : W'.heap[w.heap.size + 7]? = some (.loop rec')) : Inv w rec' W' pre lv sz' ch' := by
  have hlt := h.lt
  have hne : ∀ k, k ≠ r → some r ≠ some k := fun k hk e => by injection e with e; exact hk e.symm
  refine ⟨h.bel.trans ⟨hg.os, hg.tape, hg.output, hg.size, fun i hi => hg.block i (by omega) (fun e => by injection e with e; omega)⟩, hc, h.res.grow hg (hne _ (by omega)), h.box.grow hg (hne _ (by omega)), hs,
    (hg.block _ (by omega) (fun e => hne _ (by omega) e.symm)).trans h.dfr, hl, World.ownsRow.kept h.row hg ?_, data_grow h.data hg (fun k e => .inl (by injection e with e; omega))⟩
  rcases hlv : lv.ownBlock with _ | k
  · exact .inl rfl
  · exact .inr fun e => by have := (h.lv9 k hlv).1; injection e with e; omega
theorem Inv.turn (h : Inv w rec W pre lv sz ch) (rec' : Loop) : Inv w rec' (W.putObj (w.heap.size + 7) (.loop rec')) pre lv sz ch := by
  have hg := grownBy_putObj' W (w.heap.size + 7) (.loop rec')
  exact h.at_ hg (by omega) (by omega) ⟨by omega, by omega, by omega⟩ (h.chain.grow hg (by simp)) (h.size.grow hg (by simp)) (World.putObj_heap_same h.lt)
theorem Inv.setSize (h : Inv w rec W pre lv sz ch) (sz' : Int) : Inv w rec (W.setCell ⟨w.heap.size + 3, 0, none⟩ (.int .i64 sz')) pre lv sz' ch := by
  have hg : W.grownBy (W.setCell ⟨w.heap.size + 3, 0, none⟩ (.int .i64 sz')) (some (w.heap.size + 3)) := Only.set W 0 _
  exact h.at_ hg (by omega) (by omega) ⟨by omega, by omega, by omega⟩ (h.chain.grow hg (by simp)) (h.size.setCell 0 (.int .i64 sz')) ((hg.block _ h.lt (by simp)).trans h.loop)
theorem Inv.setChain (h : Inv w rec W pre lv sz ch) (ch' : List UInt8) : Inv w rec (W.setRow w.heap.size (cs8 ch').toArray) pre lv sz ch' := by
  have hg := grown_setRow W w.heap.size (cs8 ch').toArray
  exact h.at_ hg (by omega) (by omega) ⟨by omega, by omega, by omega⟩ (h.chain.setRow (cs8 ch')) (h.size.grow hg (by simp)) ((hg.block _ h.lt (by simp)).trans h.loop)
/-- One record more. -/
theorem Inv.push (h : Inv w rec W pre lv sz ch) (x : It) (hx : Rd W W.heap.size x.v.A x.v.d.length x.v.c x.v.d ∧ ∀ ad, x.v.A = some ad → w.heap.size + 9 ≤ ad.block ∧ ad.block < W.heap.size ∧ lv.ownBlock ≠ some ad.block) {v' : Value} {W' : World}
    (hrow : W'.ownsRow (w.heap.size + 9) 33 2 v' (pre.length + 1) (itCells pre ++ x.v.cells)) (hg : W.grownBy W' lv.ownBlock) (hv : v'.ownBlock = lv.ownBlock ∨ v'.ownBlock = some W.heap.size) :
    Inv w rec (W'.setCell ⟨w.heap.size + 2, 0, none⟩ v') (pre ++ [x]) v' sz ch := by
  have hlt := h.lt
  have hsz := hg.size
  have hne : ∀ k, k < w.heap.size + 9 → lv.ownBlock ≠ some k := fun k hk e => by have := (h.lv9 k e).1; omega
  have hs : W'.grownBy (W'.setCell ⟨w.heap.size + 2, 0, none⟩ v') (some (w.heap.size + 2)) := Only.set W' 0 _
  have hss := hs.size
  have hv9 : ∀ k, v'.ownBlock = some k → w.heap.size + 9 ≤ k := fun k e => (World.ownsRow.lt hrow k e).1
  have hd := data_grow (W := W) (W' := W') (w := w) (lv := lv) (pre := pre ++ [x]) (fun y hy => by
    rcases List.mem_append.1 hy with hy | hy
    · exact h.data y hy
    · rw [List.mem_singleton] at hy; subst hy; exact hx) hg (fun r e => .inr e)
  have hd2 : ∀ y ∈ pre ++ [x], Rd W' W'.heap.size y.v.A y.v.d.length y.v.c y.v.d ∧ ∀ ad, y.v.A = some ad → w.heap.size + 9 ≤ ad.block ∧ ad.block < W'.heap.size ∧ v'.ownBlock ≠ some ad.block := fun y hy => by
    obtain ⟨h1, h2⟩ := hd y hy
    refine ⟨h1, fun ad ha => ?_⟩
    obtain ⟨a1, a2, a3⟩ := h2 ad ha
    refine ⟨a1, a2, ?_⟩
    rcases hv with e | e
    · rw [e]; exact a3
    · rw [e]
      intro e2
      injection e2 with e2
      have hlt2 : ad.block < W.heap.size := by
        rcases List.mem_append.1 hy with hy | hy
        · exact ((h.data y hy).2 ad ha).2.1
        · rw [List.mem_singleton] at hy; subst hy; exact (hx.2 ad ha).2.1
      omega
  refine ⟨(h.bel.trans ⟨hg.os, hg.tape, hg.output, hg.size, fun i hi => hg.block i (by omega) (fun e => hne i (by omega) e.symm)⟩).trans ⟨hs.os, hs.tape, hs.output, hs.size, fun i hi => hs.block i (by omega) (fun e => by injection e with e; omega)⟩,
    (h.chain.grow hg (hne _ (by omega))).grow hs (by simp), (h.res.grow hg (hne _ (by omega))).grow hs (by simp), (h.box.grow hg (hne _ (by omega))).setCell 0 v', (h.size.grow hg (hne _ (by omega))).grow hs (by simp),
    (hs.block _ (by omega) (by simp)).trans ((hg.block _ (by omega) (fun e => hne _ (by omega) e.symm)).trans h.dfr), (hs.block _ (by omega) (by simp)).trans ((hg.block _ hlt (fun e => hne _ (by omega) e.symm)).trans h.loop), ?_, data_grow hd2 hs (fun r e => .inl (by injection e with e; omega))⟩
  rw [itCells_snoc, List.length_append]
  refine World.ownsRow.kept hrow hs ?_
  rcases hvo : v'.ownBlock with _ | k
  · exact .inl rfl
  · exact .inr fun e => by have := hv9 k hvo; injection e with e; omega
end
/-- What a round has beside: its record and chain in their variables. -/
structure Side (w W : World) (lv : Value) (k : UInt8) (d : List UInt8) (A : Option Addr) (c : Nat) (S : List UInt8) (b9 : Nat) : Prop where
  r : Bk W b9 [.int .u8 (k.toNat : Int), .slice A d.length c]
  s : Bk W (b9 + 1) (cs8 S)
  rd : Rd W W.heap.size A d.length c d
  far : ∀ ad, A = some ad → w.heap.size + 9 ≤ ad.block ∧ ad.block < W.heap.size ∧ lv.ownBlock ≠ some ad.block
  b9 : w.heap.size + 9 ≤ b9 ∧ lv.ownBlock ≠ some b9 ∧ lv.ownBlock ≠ some (b9 + 1)
theorem Side.grow {w W W' : World} {lv : Value} {k : UInt8} {d : List UInt8} {A : Option Addr} {c : Nat} {S : List UInt8} {b9 : Nat} (h : Side w W lv k d A c S b9) {row : Option Nat} (hg : W.grownBy W' row)
    (hr : ∀ r, row = some r → r < w.heap.size + 9 ∨ lv.ownBlock = some r) : Side w W' lv k d A c S b9 := by
  have hb := h.b9
  have hne : ∀ g, w.heap.size + 9 ≤ g → lv.ownBlock ≠ some g → row ≠ some g := fun g h1 h2 e => by
    rcases hr g e with e2 | e2
    · omega
    · exact h2 e2
  have hs := hg.size
  refine ⟨h.r.grow hg (hne _ hb.1 hb.2.1), h.s.grow hg (hne _ (by omega) hb.2.2), h.rd.block fun ad ha => ?_, fun ad ha => ?_, hb⟩
  · obtain ⟨a1, a2, a3⟩ := h.far ad ha
    exact ⟨hg.block _ a2 (fun e => hne _ a1 a3 e.symm), by omega⟩
  · obtain ⟨a1, a2, a3⟩ := h.far ad ha
    exact ⟨a1, by omega, a3⟩
/-- The blocks that a round may write. -/
def may8 (w : World) (lv : Value) (k : Nat) : Prop := k < w.heap.size + 8 ∧ w.heap.size ≤ k ∨ lv.ownBlock = some k
theorem info_rec : (Tryz.prog.info? 33).map (fun i => (i.zero, i.size, i.bytes)) = some (some (.agg z31.toArray), 2, 32) := by kernel_rfl
theorem rec_cells1 (k : Int) (A : Option Addr) (n c : Nat) : ∀ u ∈ ([.int .u8 k, .slice A n c] : List Value), u.oneCell' = true := by intro u hu; simp at hu; rcases hu with rfl | rfl <;> rfl
theorem inl_app_rec {F : Fence} {n : Nat} {ops : Array Oper} {rest : List Oper} {o : Oper} {a : Act} {w : World} {Q : Exit → Act → World → Prop} (hgd : o.guard = none) (s x : Operand)
    (ho : o.op = .call { callee := .builtin .append, args := #[s, x], argTypes := #[37, 37] }) {base : Nat} {v : Value} {m : Nat} {xs : List Value} (hs : a.eval s = v) (hown : w.ownsRow base 33 2 v m xs)
    {g : Nat} {news : List Value} (hx : a.eval x = .slice (some ⟨g, 0, none⟩) 1 1) (hb : Bk w g news) (hl : news.length = 2) (h1 : ∀ u ∈ news, u.oneCell' = true) (hm : m ≤ 1073741824) (hbase : base ≤ w.heap.size)
    (h : ∀ v' w', w'.ownsRow base 33 2 v' (m + 1) (xs ++ news) → w.grownBy w' v.ownBlock → (v'.ownBlock = v.ownBlock ∨ v'.ownBlock = some w.heap.size) → wpListIn F n Tryz.prog ops Q rest (a.put o.dst v') w') :
    wpListIn F n Tryz.prog ops Q (o :: rest) a w := by
  obtain ⟨i, hi, hz0, hz1, hz2⟩ := info_parts info_rec
  obtain ⟨v', w', hrun, h2, h3, _, h5⟩ := run_append_own_at (P := Tryz.prog) w base 37 o.type 33 i (.agg z31.toArray) 2 32 Tryz.underlying37 hi hz0 hz1 hz2 rfl (by decide) v m xs hown ⟨g, 0, none⟩ 1 1 news
    (by rw [hl]) hb.at_ h1 (by simp only [maxLen]; omega) (by omega) hbase
  refine inl_val (v := v') (w' := w') (by simp only [Region.wanted, hgd]) (by simp [Oper.about, ho, resolve, Target.leads, Sem.run_pure]) (by rw [ho]; intro c hc; cases hc) ?_ (h v' w' h2 h3 h5)
  simp [execOp, ho, resolve, invoke, builtin, hs, hx, hrun, Result.andThen]
theorem recs_len (C : List UInt8) : ∀ xs : List It, xs.length ≤ (recsB C (rsOf xs)).length := by
  have h : ∀ (rs : List (UInt8 × List UInt8)) (C : List UInt8), rs.length ≤ (recsB C rs).length := by
    intro rs
    induction rs with
    | nil => intro C; simp
    | cons r t ih =>
      intro C
      have := ih (nextR C r.1 r.2)
      rw [recsB, List.length_append, recB_length, List.length_cons]
      omega
  intro xs
  have := h (rsOf xs) C
  rwa [rsOf, List.length_map] at this
theorem results_ttc {fn : Func} {p q r : Tmp} {ty : TypeId} (h : fn.results = #[.tmp p, .tmp r, .cell q ty]) {tmps : Array Value} {w : World} {g : Nat} {v : Value} (hq : tmps.getD q undef = .pointer (some ⟨g, 0, none⟩)) (hl : (loadVar ty ⟨g, 0, none⟩).run Tryz.prog w = .ok v w) :
    (results fn tmps).run Tryz.prog w = .ok (.tuple #[tmps.getD p undef, tmps.getD r undef, v]) w := by
  have hq' : tmps[q]?.getD undef = .pointer (some ⟨g, 0, none⟩) := by simpa using hq
  simp [results, h, hq', asAddr, hl]
theorem enters41 : ∀ args w, (callFunc 125 args).run Tryz.prog w = .ok (.enter 125 args) w := enters_of Tryz.func125 (by kernel_rfl) rfl

/-- Records that lie from block base on. -/
def RsNew (base : Nat) (A : Option Addr) (l : List Rv) : Prop := (∀ ad, A = some ad → base ≤ ad.block) ∧ ∀ x ∈ l, ∀ ad, x.A = some ad → base ≤ ad.block
/-- All has read the records rs. -/
def AllOk (w : World) (C : List UInt8) (rs : List (UInt8 × List UInt8)) (e : Ending) (w' : World) : Prop :=
  ∃ A n c l, e = .returned (.tuple #[.slice A n c, .int .i64 ((recsB C rs).length : Int), .agg (cs8 (endR C rs)).toArray]) ∧ l.map Rv.r = rs ∧ Rs w' w'.heap.size A n c l ∧ RsNew w.heap.size A l ∧ Below w.heap.size w w'

/-- A range over a function of the program's own. -/
theorem range_of {P : Program} {n : Nat} {g : Operand} {ps : Array Tmp} {assign body : Code} {Q : Exit → Act → World → Prop} {a : Act} {w : World} (h1 : 1 ≤ n) {gf : Nat} {lb : Array Value} (hg : a.eval g = .func (.func gf) #[] lb)
    (eg : ∀ args w, (callFunc gf args).run P w = .ok (.enter gf args) w)
    (h : ∀ fn, CallsIn Fence.wide (n - 1) P gf (#[.func (.yield (w.heap.size + 1)) #[] #[]] ++ lb)
      ((w.alloc (.deferred (some []))).alloc (.loop { state := .ready, pending := none, fn, tmps := a.tmps, params := ps, assign, body, defers := w.heap.size }))
      (rangePost Fence.wide n P (w.heap.size + 1) Q { a with defers := [{ target := .collected w.heap.size, args := #[] }] ++ a.defers })) :
    (Code.rangeFunc g ps assign body).wpIn Fence.wide n P Q a w := by
  refine wpIn_rangeFunc fun fn _ => ?_
  have h2 := h fn
  clear h
  generalize hW1 : (w.alloc (.deferred (some []))).alloc (.loop { state := .ready, pending := none, fn, tmps := a.tmps, params := ps, assign, body, defers := w.heap.size }) = W1 at h2
  refine ⟨w.heap.size + 1, ?_⟩
  refine ⟨[{ target := .collected w.heap.size, args := #[] }], ?_⟩
  refine ⟨W1, ?_⟩
  refine ⟨{ target := .fn (.func gf) lb, args := #[.func (.yield (w.heap.size + 1)) #[] #[]] }, ?_⟩
  refine ⟨W1, gf, ?_⟩
  refine ⟨#[.func (.yield (w.heap.size + 1)) #[] #[]] ++ lb, W1, ?_⟩
  refine ⟨?_, ?_⟩
  · rw [← hW1]; exact run_enterLoop_outer _ _ _ _ _
  refine ⟨?_, ?_⟩
  · simp only [resolve, hg]
    simp [go_sem]
  refine ⟨?_, ?_⟩
  · intro f' _; trivial
  refine ⟨?_, ?_⟩
  · simp [invoke, go_sem, eg]
  refine ⟨fun _ => h1, ?_⟩
  exact h2

/-- Records' cells, one after another. -/
def rvCells (vs : List Rv) : List Value := vs.flatMap Rv.cells
theorem rvCells_at : ∀ (vs : List Rv) (j : Nat) (x : Rv), vs[j]? = some x → ∀ (i : Nat) v, x.cells[i]? = some v → (rvCells vs)[j * 2 + i]? = some v
  | [], j, x, h, _, _, _ => by simp at h
  | y :: t, 0, x, h, i, v, hv => by
    obtain rfl : y = x := by simpa using h
    have hi : i < y.cells.length := (List.getElem?_eq_some_iff.1 hv).1
    rw [rvCells, List.flatMap_cons, Nat.zero_mul, Nat.zero_add, List.getElem?_append_left hi]
    exact hv
  | y :: t, j + 1, x, h, i, v, hv => by
    have ih := rvCells_at t j x (by simpa using h) i v hv
    have hl : y.cells.length = 2 := rfl
    rw [rvCells, List.flatMap_cons, List.getElem?_append_right (by rw [hl]; omega), hl]
    rw [rvCells] at ih
    rw [← ih]
    congr 1
    omega
/-- Records in a block of the program's own. -/
theorem Rs.row {w : World} {base m : Nat} {v : Value} {vs : List Rv} (h : w.ownsRow base 33 2 v m (rvCells vs)) (hm : vs.length = m) (hd : ∀ x ∈ vs, x.ok w w.heap.size) : ∃ A c, v = .slice A m c ∧ Rs w w.heap.size A m c vs := by
  rcases h.2 with ⟨e, h0⟩ | ⟨g, cap, cur, e, hb, hg, h1, h2, h3, h4⟩
  · subst h0; exact ⟨_, _, e, hm, Nat.le_refl _, hd, fun hn => absurd hn (by omega)⟩
  · refine ⟨_, _, e, hm, h1, hd, fun _ => ⟨_, rfl, (Array.getElem?_eq_some_iff.1 hg).1, fun j x hx i u hu => ?_⟩⟩
    exact World.ownsRow.cells h (g := g) (by rw [e]; rfl) _ _ (rvCells_at vs j x hx i u hu)
/-- Only how it ends without a panic is asked. -/
theorem wp_normal {P : Program} {c : Code} {Q : Exit → Act → World → Prop} {a : Act} {w : World} (h : c.wp P (fun e a' w' => e = .normal ∧ Q .normal a' w') a w) : c.wp P Q a w := Code.wp_mono (by rintro e a' w' ⟨rfl, h⟩; exact h) h

set_option maxHeartbeats 400000 in
theorem records_any {A : Option Addr} {m c : Nat} {C : List UInt8} (w : World) : Calls Tryz.prog 96 #[.agg (cs8 C).toArray, .slice A m c] w fun e w' =>
    e = .returned (.func (.func 125) #[] #[.pointer (some ⟨w.heap.size + 1, 0, none⟩), .pointer (some ⟨w.heap.size, 0, none⟩)]) ∧ w' = (w.alloc (.cells (cs8 C).toArray 59)).alloc (.cells #[.slice A m c] 31) := by
  go_enter Tryz.func96, Tryz.ntmps96
  go_wp2
  go_ret
  exact ⟨rfl, rfl⟩

set_option maxHeartbeats 3200000 in
theorem All_ex {A : Option Addr} {m c : Nat} {C b : List UInt8} (w : World) (hC : C.length = 32) (hr : Rd w w.heap.size A m c b) (hm : m ≤ 1073741824) :
    Calls Tryz.prog 59 #[.agg (cs8 C).toArray, .slice A m c] w fun e w' => ∃ rs tail, b = recsB C rs ++ tail ∧ Vrs rs ∧ readErr (endR C rs) tail ≠ 0 ∧ AllOk w C rs e w' := by
  have HR := Lib.hid hr
  have HC8 := Lib.hid (show (cs8 C).length = 32 by rw [cs8_length, hC])
  clear hr
  refine (callsIn_wide (n := 5)).1 ?_
  refine callsIn_of_wp_marks Tryz.func59 rfl trivial ?_ rfl
  simp only [Tryz.ntmps59, List.size_toArray, List.length_cons, List.length_nil, Nat.reduceAdd, Nat.reduceSub, Array.replicate_succ, Array.replicate_zero, List.push_toArray, List.append_toArray, List.nil_append, List.cons_append]
  refine wpIn_wide.2 ?_
  have HC1 : Hid (Bk (((w.alloc (.cells (cs8 C).toArray 59)).alloc (.cells z36.toArray 59)).alloc (.cells #[.slice none 0 0] 37)) w.heap.size (cs8 C)) := Lib.hid (((Bk.new w (cs8 C) 59).old _).old _)
  go_wp2_with (first | (refine wpList_alloc_z rfl 59 rfl z36 zero36 ?_) | (refine wpList_load_at rfl 59 _ rfl ⟨w.heap.size, 0, none⟩ rfl (cs8 C) _ (HC1.out.old _).at_ Tryz.underlying59 rfl (by rw [HC8.out]; exact info36) ?_) | fail)
  refine (records_any _).mono ?_; rintro e w' ⟨rfl, rfl⟩
  have hs1 : ((((((w.alloc (.cells (cs8 C).toArray 59)).alloc (.cells z36.toArray 59)).alloc (.cells #[.slice none 0 0] 37)).alloc (.cells #[.int .i64 0] 3)).alloc (.cells (cs8 C).toArray 59)).alloc (.cells #[.slice A m c] 31)).heap.size = w.heap.size + 6 := by simp
  have hs0 : (((w.alloc (.cells (cs8 C).toArray 59)).alloc (.cells z36.toArray 59)).alloc (.cells #[.slice none 0 0] 37)).heap.size = w.heap.size + 3 := by simp
  have hsq : ((((w.alloc (.cells (cs8 C).toArray 59)).alloc (.cells z36.toArray 59)).alloc (.cells #[.slice none 0 0] 37)).alloc (.cells #[.int .i64 0] 3)).heap.size = w.heap.size + 4 := by simp
  have hsr : (((((w.alloc (.cells (cs8 C).toArray 59)).alloc (.cells z36.toArray 59)).alloc (.cells #[.slice none 0 0] 37)).alloc (.cells #[.int .i64 0] 3)).alloc (.cells (cs8 C).toArray 59)).heap.size = w.heap.size + 5 := by simp
  have hbel := bl_alloc (bl_alloc (bl_alloc (bl_alloc (bl_alloc (bl_alloc (bl0 w) (.cells (cs8 C).toArray 59)) (.cells z36.toArray 59)) (.cells #[.slice none 0 0] 37)) (.cells #[.int .i64 0] 3)) (.cells (cs8 C).toArray 59)) (.cells #[.slice A m c] 31)
  have hk1 := ((((Bk.new (w.alloc (.cells (cs8 C).toArray 59)) z36 59).old (.cells #[.slice none 0 0] 37)).old (.cells #[.int .i64 0] 3)).old (.cells (cs8 C).toArray 59)).old (.cells #[.slice A m c] 31)
  have hk2 := (((Bk.new ((w.alloc (.cells (cs8 C).toArray 59)).alloc (.cells z36.toArray 59)) [.slice none 0 0] 37).old (.cells #[.int .i64 0] 3)).old (.cells (cs8 C).toArray 59)).old (.cells #[.slice A m c] 31)
  have hk3 := ((Bk.new (((w.alloc (.cells (cs8 C).toArray 59)).alloc (.cells z36.toArray 59)).alloc (.cells #[.slice none 0 0] 37)) [.int .i64 0] 3).old (.cells (cs8 C).toArray 59)).old (.cells #[.slice A m c] 31)
  have hk4 := (Bk.new ((((w.alloc (.cells (cs8 C).toArray 59)).alloc (.cells z36.toArray 59)).alloc (.cells #[.slice none 0 0] 37)).alloc (.cells #[.int .i64 0] 3)) (cs8 C) 59).old (.cells #[.slice A m c] 31)
  have hk5 := Bk.new (((((w.alloc (.cells (cs8 C).toArray 59)).alloc (.cells z36.toArray 59)).alloc (.cells #[.slice none 0 0] 37)).alloc (.cells #[.int .i64 0] 3)).alloc (.cells (cs8 C).toArray 59)) [.slice A m c] 31
  have hk0 := (((HC1.out.old (.cells #[.int .i64 0] 3)).old (.cells (cs8 C).toArray 59)).old (.cells #[.slice A m c] 31))
  rw [show (w.alloc (.cells (cs8 C).toArray 59)).heap.size = w.heap.size + 1 from by simp] at hk1
  rw [show ((w.alloc (.cells (cs8 C).toArray 59)).alloc (.cells z36.toArray 59)).heap.size = w.heap.size + 2 from by simp] at hk2
  rw [hs0] at hk3
  rw [hsq] at hk4
  rw [hsr] at hk5
  rw [hsq]
  have HK0 := Lib.hid hk0
  have HK1 := Lib.hid hk1
  have HK2 := Lib.hid hk2
  have HK3 := Lib.hid hk3
  have HK4 := Lib.hid hk4
  have HK5 := Lib.hid hk5
  have HBEL := Lib.hid hbel
  have HS1 := Lib.hid hs1
  clear hk0 hk1 hk2 hk3 hk4 hk5 hbel hs1 hs0 hsq hsr HC1
  go_wp2_with fail
  refine (wpIn_wide (n := 5)).1 ?_
  change Code.wpIn _ _ _ _ _ _ ((((((w.alloc (.cells (cs8 C).toArray 59)).alloc (.cells z36.toArray 59)).alloc (.cells #[.slice none 0 0] 37)).alloc (.cells #[.int .i64 0] 3)).alloc (.cells (cs8 C).toArray 59)).alloc (.cells #[.slice A m c] 31))
  generalize ((((((w.alloc (.cells (cs8 C).toArray 59)).alloc (.cells z36.toArray 59)).alloc (.cells #[.slice none 0 0] 37)).alloc (.cells #[.int .i64 0] 3)).alloc (.cells (cs8 C).toArray 59)).alloc (.cells #[.slice A m c] 31)) = w1 at HK0 HK1 HK2 HK3 HK4 HK5 HBEL HS1 ⊢
  refine range_of (by omega) (gf := 125) (lb := #[.pointer (some ⟨w.heap.size + 4 + 1, 0, none⟩), .pointer (some ⟨w.heap.size + 4, 0, none⟩)]) rfl enters41 ?_
  intro fn
  simp only [List.cons_append, List.nil_append, Array.append_eq_append, List.append_toArray]
  generalize hrec : ({ state := LoopState.ready, pending := none, fn := fn, tmps := _, params := _, assign := _, body := _, defers := w1.heap.size } : Loop) = rec
  have hrs : rec.state = .ready := by rw [← hrec]
  have hrp : rec.params.size = 2 := by rw [← hrec]; rfl
  rw [HS1.out] at hrec ⊢
  have hW0 : ((w1.alloc (.deferred (some []))).alloc (.loop rec)).heap.size = w.heap.size + 8 := by simp [HS1.out]
  have hI0 : Inv w rec ((w1.alloc (.deferred (some []))).alloc (.loop rec)) [] (.slice none 0 0) 0 C := by
    have hb2 := bl_alloc (bl_alloc (bl0 w1) (.deferred (some []))) (.loop rec)
    refine ⟨bl_call HBEL.out hb2, HK0.out.keep hb2, HK1.out.keep hb2, HK2.out.keep hb2, HK3.out.keep hb2, ?_, ?_, World.ownsRow_nil _ _ _ _, fun x hx => by cases hx⟩
    · rw [← HS1.out]; exact (Below.heap_alloc _ _ _ (by simp)).trans (World.alloc_heap_new w1 _)
    · have := World.alloc_heap_new (w1.alloc (.deferred (some []))) (.loop rec)
      rwa [World.size_alloc, HS1.out] at this
  have hb1 : Below w1.heap.size w1 ((w1.alloc (.deferred (some []))).alloc (.loop rec)) := bl_alloc (bl_alloc (bl0 w1) _) _
  have hcB : ((w1.alloc (.deferred (some []))).alloc (.loop rec)).cell? ⟨w.heap.size + 4 + 1, 0, none⟩ = some (.slice A m c) := (HK5.out.keep hb1).cell rfl
  have hcC : Bk ((w1.alloc (.deferred (some []))).alloc (.loop rec)) (w.heap.size + 4) (cs8 C) := HK4.out.keep hb1
  have hrB : Rd ((w1.alloc (.deferred (some []))).alloc (.loop rec)) w.heap.size A m c b := HR.out.below (bl_call HBEL.out hb1)
  have HRL := Lib.hid HR.out.len
  clear HK0 HK1 HK2 HK3 HK4 HK5 HBEL hb1 HR
  generalize (w1.alloc (.deferred (some []))).alloc (.loop rec) = W0 at hW0 hI0 hcB hcC hrB ⊢
  refine (iter_in (5 - 1) (by decide) (w.heap.size + 6 + 1) (w.heap.size + 4 + 1) (w.heap.size + 4) w.heap.size A m c C b hC hm (fun pre W => ∃ lv, Inv w rec W pre lv ((recsB C (rsOf pre)).length : Int) (endR C (rsOf pre))) W0 ?_ ?_ hcB hcC hrB (by omega) ⟨_, hI0⟩).mono ?_
  · rintro pre X Y ⟨lv, h⟩ hg
    rw [hW0] at hg
    exact ⟨lv, h.q hg (fun r e => by injection e with e; exact e.symm)⟩
  · rintro pre x X W1 ⟨lv, hX⟩ hqX hbX hO hV hch hln
    have h1 := hX.below hbX
    refine ⟨rec.fn, _, rec.assign, rec.body, run_yield h1.loop (by rw [hrp]; rfl), roundIn_of_wpIn trivial ?_⟩
    have HRQ : Hid (({ { rec with state := .busy } with state := (if (none : Option Code).isNone then LoopState.ready else .done), pending := none } : Loop) = rec) := Lib.hid (by rw [← hrec]; rfl)
    have hA := congrArg Loop.assign hrec
    have hB := congrArg Loop.body hrec
    have hT := congrArg Loop.tmps hrec
    have hP := congrArg Loop.params hrec
    dsimp only at hA hB hT hP
    rw [← hA, ← hB, ← hT, ← hP]
    have HW0 := Lib.hid hW0
    have HCH := Lib.hid hch
    have HRS := Lib.hid hrs
    have HLN := Lib.hid hln
    have H1 := Lib.hid h1
    have HX := Lib.hid hX
    have HXB := Lib.hid hbX
    have HO := Lib.hid hO
    clear hA hB hT hP hrec hW0 hch hrs hrp h1 hX hbX hO hI0 hcB hcC hrB hln
    have hx32 : Hid ((cs8 x.ch).length = 32) := Lib.hid (by rw [cs8_length, HCH.out, nextR_length])
    obtain ⟨⟨k, d, A', c'⟩, S⟩ := x
    simp only at hV HCH HO hx32 HLN ⊢
    have hl2 := lay2 W1 [.int .u8 (k.toNat : Int), .slice A' d.length c'] (cs8 S)
    gi_wp2_with (first | (refine inl_alloc_z rfl 59 rfl z36 zero36 ?_) | (refine inl_store_bk rfl 59 _ _ rfl (W1.alloc (.cells #[.int .u8 (k.toNat : Int), .slice A' d.length c'] 33)).heap.size rfl (cs8 S) z36 rfl (Bk.new (W1.alloc (.cells #[.int .u8 (k.toNat : Int), .slice A' d.length c'] 33)) z36 59) (by rw [hx32.out]; exact info36) (by rw [hx32.out]; exact len_z36) (cs8_all _) ?_) | fail)
    try rw [show (W1.alloc (.cells #[.int .u8 (k.toNat : Int), .slice A' d.length c'] 33)).heap.size = W1.heap.size + 1 from by simp]
    have hW1X := HXB.out.size
    have hq9 : w.heap.size + 9 ≤ X.heap.size := by have := HW0.out; omega
    have hX8 := HX.out.lt
    have h2 := H1.out.below hl2.bel
    have hsd2 : Side w _ lv k d A' c' S W1.heap.size := ⟨hl2.r, hl2.s, (by
        obtain ⟨A7, c7, e7, hr7⟩ := HO.out.rdN rfl
        injection e7 with e71 e72 e73
        subst e71 e73
        exact hr7.top hl2.bel), fun ad ha => (by
        have h1 := World.ownsRow.lt HO.out ad.block (by rw [ha]; rfl)
        have h3 := hl2.bel.size
        refine ⟨by omega, by omega, fun e => ?_⟩
        have := (HX.out.lv9 _ e).2
        omega), ⟨by omega, fun e => (by have := (HX.out.lv9 _ e).2; omega), fun e => (by have := (HX.out.lv9 _ e).2; omega)⟩⟩
    have hkp2 : Kp (may8 w lv) W1 _ := Kp.of_old hl2.bel
    generalize ((W1.alloc (.cells #[.int .u8 (k.toNat : Int), .slice A' d.length c'] 33)).alloc (.cells z36.toArray 59)).setRow (W1.heap.size + 1) (cs8 S).toArray = W2 at h2 hsd2 hkp2 ⊢
    refine ⟨_, run_beginRound h2.loop HRS.out, ?_⟩
    have hg3 := grownBy_putObj' W2 (w.heap.size + 7) (.loop { rec with state := .busy })
    have h3 := h2.turn { rec with state := .busy }
    have hsd3 := hsd2.grow hg3 (fun r e => .inl (by injection e with e; omega))
    have hkp3 := (Kp.stays _).trans hkp2 (show Kp (may8 w lv) W2 _ from ⟨hg3.os, hg3.tape, hg3.output, hg3.size, fun i hi hm => hg3.block i hi (fun e => by injection e with e; exact hm (.inl ⟨by omega, by omega⟩))⟩)
    clear h2 hsd2 hkp2 hg3 hl2
    generalize W2.putObj (w.heap.size + 7) (.loop { rec with state := .busy }) = W3 at h3 hsd3 hkp3 ⊢
    have HI3 := Lib.hid h3
    have HS3 := Lib.hid hsd3
    have HK3 := Lib.hid hkp3
    have hb9 := hsd3.b9
    clear h3 hsd3 hkp3
    generalize hb : W1.heap.size = b9 at *
    have HB9 := Lib.hid hb
    clear hb
    have hc := HI3.out.box.cell (k := 0) rfl
    have hc0 := HS3.out.r.cell (k := 0) rfl
    have hc1 := HS3.out.r.cell (k := 1) rfl
    have hI4 := HI3.out.below (bl_alloc (bl0 W3) (.cells #[.int .u8 (k.toNat : Int), .slice A' d.length c'] 33))
    have hpl : pre.length ≤ 1073741824 := by
      have := recs_len C pre
      have := HLN.out
      omega
    gi_wp2_with (first | (gi_at_builtin; refine inl_app_rec rfl _ _ rfl (v := lv) ?_ hI4.row ?_ (Bk.new W3 [.int .u8 (k.toNat : Int), .slice A' d.length c'] 33) ?_ ?_ hpl ?_ ?_) | fail)
    · rfl
    · rfl
    · rfl
    · exact rec_cells1 _ _ _ _
    · have h9 := hb9.1; have := HK3.out.size; have := HB9.out; simp; omega
    intro v' w5 hrow hg5 hv5
    obtain ⟨g5, cap5, rfl, _, _⟩ := World.ownsRow.form hrow (by omega)
    have hS4 := HS3.out.grow (World.grownBy_alloc W3 (.cells #[.int .u8 (k.toNat : Int), .slice A' d.length c'] 33) none) (fun r e => by cases e)
    have hI6 := hI4.push ⟨⟨k, d, A', c'⟩, S⟩ ⟨hS4.rd, hS4.far⟩ hrow hg5 (by rw [show (W3.alloc (.cells #[.int .u8 (k.toNat : Int), .slice A' d.length c'] 33)).heap.size = W3.heap.size + 1 from by simp]; exact hv5)
    have hS5 := hS4.grow hg5 (fun r e => .inr e)
    have hS6 := hS5.grow (row := some (w.heap.size + 2)) (Only.set w5 0 (.slice (some ⟨g5, 0, none⟩) (pre.length + 1) cap5) (g := w.heap.size + 2)) (fun r e => .inl (by injection e with e; omega))
    have hbx := hI4.box.grow hg5 (fun e => by have := (hI4.lv9 _ e).1; omega)
    have hc5 := hbx.cell (k := 0) rfl
    have hf5 := hbx.frozen 0
    have hk4 := (Kp.stays (may8 w lv)).trans HK3.out (Kp.of_old (bl_alloc (bl0 W3) (.cells #[.int .u8 (k.toNat : Int), .slice A' d.length c'] 33)))
    have hk5 := (Kp.stays _).trans hk4 (kp_grown hg5 (fun r e => .inr e))
    have hk6 := (Kp.stays _).trans hk5 (show Kp (may8 w lv) w5 (w5.setCell ⟨w.heap.size + 2, 0, none⟩ (.slice (some ⟨g5, 0, none⟩) (pre.length + 1) cap5)) from ⟨rfl, rfl, rfl, by simp [World.setCell], fun r hr hm => Below.heap_setCell w5 _ _ r (fun e => hm (.inl ⟨by rw [e]; show w.heap.size + 2 < _; omega, by rw [e]; show _ ≤ w.heap.size + 2; omega⟩))⟩)
    have HI6 := Lib.hid hI6
    have HS6 := Lib.hid hS6
    have HK6 := Lib.hid hk6
    clear hS4 hI6 hS5 hS6 hbx hk4 hk5 hk6 hrow hg5 hv5 hI4 HI3 HS3 HK3 hc hc0 hc1
    gi_wp2
    change Code.wpIn _ _ _ _ _ _ (w5.setCell ⟨w.heap.size + 2, 0, none⟩ (.slice (some ⟨g5, 0, none⟩) (pre.length + 1) cap5))
    generalize w5.setCell ⟨w.heap.size + 2, 0, none⟩ (.slice (some ⟨g5, 0, none⟩) (pre.length + 1) cap5) = W6 at HI6 HS6 HK6 ⊢
    have hmix : Tryz.prog.follows .mixedOrders = true := follows_mixed
    have hk0 := hV.1
    have hd8 : d.length ≤ 8192 := hV.2
    have hns := numSize_bd d.length
    have hL : (recsB C (rsOf pre)).length ≤ 1073741824 := by have := HLN.out; omega
    generalize hLg : (recsB C (rsOf pre)).length = L at hL HI6
    have HLG := Lib.hid hLg
    clear hLg
    have hcs := HI6.out.size.cell (k := 0) rfl
    have hfs := HI6.out.size.frozen 0
    have hc0 := HS6.out.r.cell (k := 0) rfl
    have hc1 := HS6.out.r.cell (k := 1) rfl
    gi_region_with_o ((refine ⟨trivial, ?_⟩; refine (CallsIn.inRound _ (callsIn_wide.2 (Size_good _ hk0 hd8))).mono ?_; rintro e w7 ⟨rfl, hb7⟩; have HB7 := Lib.hid (bl_call (Below.refl W6.heap.size W6).drew hb7); have hcs7 := (HI6.out.below HB7.out).size.cell (k := 0) rfl; have hfs7 := (HI6.out.below HB7.out).size.frozen 0; clear hb7))
    all_goals
      have hwr : IntKind.i64.wrap ((L : Int) + (1 + ((numSize d.length : Int) + (d.length : Int)) + 8)) = ((L + (1 + (numSize d.length + d.length) + 8) : Nat) : Int) := by
        rw [IntWalk.i64_in _ (by omega)]; omega
      rw [hwr]
      have HI8 := Lib.hid ((HI6.out.below HB7.out).setSize ((L + (1 + (numSize d.length + d.length) + 8) : Nat) : Int))
      have hg8 : W6.grownBy w7 none := ⟨HB7.out.os, HB7.out.tape, HB7.out.output, HB7.out.size, fun k hk _ => HB7.out.block k hk⟩
      have HS8 := Lib.hid ((HS6.out.grow hg8 (fun r e => by cases e)).grow (row := some (w.heap.size + 3)) (Only.set w7 0 (.int .i64 ((L + (1 + (numSize d.length + d.length) + 8) : Nat) : Int)) (g := w.heap.size + 3)) (fun r e => .inl (by injection e with e; omega)))
      have HK8 := Lib.hid ((Kp.stays _).trans ((Kp.stays _).trans HK6.out (Kp.of_old HB7.out)) (show Kp (may8 w lv) w7 (w7.setCell ⟨w.heap.size + 3, 0, none⟩ (.int .i64 ((L + (1 + (numSize d.length + d.length) + 8) : Nat) : Int))) from ⟨rfl, rfl, rfl, by simp [World.setCell], fun r hr hm => Below.heap_setCell w7 _ _ r (fun e => hm (.inl ⟨by rw [e]; show w.heap.size + 3 < _; omega, by rw [e]; show _ ≤ w.heap.size + 3; omega⟩))⟩))
      clear hwr hg8 HI6 HS6 HK6 HB7 hcs hfs hc0 hc1 hcs7 hfs7
      change Exit.then _ _ _ _ (w7.setCell ⟨w.heap.size + 3, 0, none⟩ (.int .i64 ((L + (1 + (numSize d.length + d.length) + 8) : Nat) : Int)))
      generalize w7.setCell ⟨w.heap.size + 3, 0, none⟩ (.int .i64 ((L + (1 + (numSize d.length + d.length) + 8) : Nat) : Int)) = W8 at HI8 HS8 HK8 ⊢
      gi_wp2_with (first | (refine inl_load_at rfl 59 _ rfl ⟨b9 + 1, 0, none⟩ rfl (cs8 S) _ HS8.out.s.at_ Tryz.underlying59 rfl (by rw [hx32.out]; exact info36) ?_) | (refine inl_store_bk rfl 59 _ _ rfl w.heap.size rfl (cs8 S) _ rfl HI8.out.chain (by rw [hx32.out]; exact info36) (by rw [hx32.out, cs8_length, endR_length C hC]) (cs8_all _) ?_) | fail)
    all_goals
      have hch9 := HI8.out.setChain S
      have hg9 := grown_setRow W8 w.heap.size (cs8 S).toArray
      have hk9 := (Kp.stays _).trans HK8.out (show Kp (may8 w lv) W8 _ from kp_setRow W8 w.heap.size (cs8 S).toArray (.inl ⟨by omega, Nat.le_refl _⟩))
      have hg10 := grownBy_putObj' (W8.setRow w.heap.size (cs8 S).toArray) (w.heap.size + 7) (.loop rec)
      have hk10 := (Kp.stays _).trans hk9 (show Kp (may8 w lv) _ _ from ⟨hg10.os, hg10.tape, hg10.output, hg10.size, fun i hi hm => hg10.block i hi (fun e => by injection e with e; exact hm (.inl ⟨by omega, by omega⟩))⟩)
      have hi10 := hch9.turn rec
      have hrun := run_endRound (P := Tryz.prog) none hch9.loop
      rw [HRQ.out] at hrun
      have hrs1 : ((recsB C (rsOf (pre ++ [⟨⟨k, d, A', c'⟩, S⟩]))).length : Int) = ((L + (1 + (numSize d.length + d.length) + 8) : Nat) : Int) := by
        rw [rsOf_snoc, recsB_append, List.length_append, HLG.out]
        simp only [recsB, List.append_nil, It.r]
        rw [recB_length]
      have hrs2 : endR C (rsOf (pre ++ [⟨⟨k, d, A', c'⟩, S⟩])) = S := by
        rw [rsOf_snoc, endR_append, HCH.out]
        rfl
      refine ⟨_, _, hrun, rfl, ⟨_, by rw [hrs1, hrs2]; exact hi10⟩, ⟨?_, hk10.size, fun r hr => hk10.block r ?_ ?_⟩⟩
      · have hb1 := H1.out.bel
        have hb2 := hi10.bel
        exact ⟨hk10.os, hk10.tape, hk10.output, hk10.size, fun i hi => (hb2.block i hi).trans (hb1.block i hi).symm⟩
      · have h9 := HW0.out
        have hx9 := HX.out.lt
        rcases hr with e | e
        · rw [e, h9]; have := HB9.out; omega
        · exact e.2
      · have h9 := HW0.out
        rintro (e | e)
        · rcases hr with e2 | e2
          · omega
          · omega
        · have h8 := HX.out.lv9 _ e
          rcases hr with e2 | e2
          · omega
          · omega
  · rintro e W' ⟨⟨v, rfl⟩, xs, tail, hbt, hvs, hst, lv, hI⟩
    have hrq : rec.pending = none := by rw [← hrec]
    have hrun := run_endLoop (P := Tryz.prog) hI.loop (by rw [hrs]; simp)
    rw [hrq] at hrun
    have HI4 := Lib.hid (hI.turn { rec with state := .exhausted, pending := none })
    refine ⟨none, _, hrun, ?_⟩
    have HST := Lib.hid hst
    have HBT := Lib.hid hbt
    have HVS := Lib.hid hvs
    clear hrun hI hrec hrs hrq hrp hI0 hcB hcC hrB hst hbt hvs
    change Exit.inBlock 0 _ .normal _ (W'.putObj (w.heap.size + 7) (.loop { rec with state := .exhausted, pending := none }))
    generalize W'.putObj (w.heap.size + 7) (.loop { rec with state := .exhausted, pending := none }) = W4 at HI4 ⊢
    have HE8 := Lib.hid (show (cs8 (endR C (rsOf xs))).length = 32 by rw [cs8_length, endR_length C hC])
    have hlb := HI4.out.lt
    go_wp2
    have hR := Kp.stays (fun k => k = w.heap.size + 1)
    refine wp_normal ?_
    refine reg_start (Kp (fun k => k = w.heap.size + 1)) follows_mixed ?_
    have HI5 := Lib.hid (HI4.out.below (Below.refl _ W4).drew)
    clear HI4
    generalize W4.drew = W5 at HI5 ⊢
    generalize hL : (recsB C (rsOf xs)).length = L at HI5
    have HLL := Lib.hid hL
    clear hL
    have hlt5 := HI5.out.lt
    obtain ⟨gl, nl, cl, elv⟩ : ∃ gl nl cl, lv = .slice gl nl cl := by
      rcases HI5.out.row.2 with ⟨e, _⟩ | ⟨g, cap, cur, e, _⟩
      · exact ⟨_, _, _, e⟩
      · exact ⟨_, _, _, e⟩
    subst elv
    refine reg_take (v := .slice gl nl cl) hR 0 rfl (by kernel_rfl) (by kernel_rfl) (by kernel_rfl) (fun _ _ _ h => by cases h.1) (by rfl) ?_ ?_
    · intro W hW; exact exec_load_cell 37 _ rfl Tryz.isAgg37 rfl ((HI5.out.box.kp hW (by omega)).cell (k := 0) rfl)
    try simp only [Act.put, List.getElem_toArray, List.getElem_cons_succ, List.getElem_cons_zero, List.setIfInBounds_toArray, List.set_cons_zero, List.set_cons_succ]
    refine reg_take (v := .int .i64 (L : Int)) hR 1 rfl (by kernel_rfl) (by kernel_rfl) (by kernel_rfl) (fun _ _ _ h => by cases h.1) (by rfl) ?_ ?_
    · intro W hW; exact exec_load_cell 3 _ rfl Tryz.isAgg3 rfl ((HI5.out.size.kp hW (by omega)).cell (k := 0) rfl)
    try simp only [Act.put, List.getElem_toArray, List.getElem_cons_succ, List.getElem_cons_zero, List.setIfInBounds_toArray, List.set_cons_zero, List.set_cons_succ]
    refine reg_take (v := .agg (cs8 (endR C (rsOf xs))).toArray) hR 2 rfl (by kernel_rfl) (by kernel_rfl) (by kernel_rfl) (fun _ _ _ h => by cases h.1) (by rfl) ?_ ?_
    · intro W hW; exact exec_load_at 59 _ rfl ⟨w.heap.size, 0, none⟩ rfl (cs8 (endR C (rsOf xs))) _ (HI5.out.chain.kp hW (by omega)).at_ Tryz.underlying59 rfl (by rw [HE8.out]; exact info36)
    try simp only [Act.put, List.getElem_toArray, List.getElem_cons_succ, List.getElem_cons_zero, List.setIfInBounds_toArray, List.set_cons_zero, List.set_cons_succ]
    refine reg_take (v := .slice gl nl cl) hR 3 rfl (by kernel_rfl) (by kernel_rfl) (by kernel_rfl) (fun _ _ _ h => by cases h.1) (by rfl) ?_ ?_
    · intro W hW; go_simp; try with_reducible rfl
    try simp only [Act.put, List.getElem_toArray, List.getElem_cons_succ, List.getElem_cons_zero, List.setIfInBounds_toArray, List.set_cons_zero, List.set_cons_succ]
    refine reg_take (v := .int .i64 (L : Int)) hR 4 rfl (by kernel_rfl) (by kernel_rfl) (by kernel_rfl) (fun _ _ _ h => by cases h.1) (by rfl) ?_ ?_
    · intro W hW; go_simp; try with_reducible rfl
    try simp only [Act.put, List.getElem_toArray, List.getElem_cons_succ, List.getElem_cons_zero, List.setIfInBounds_toArray, List.set_cons_zero, List.set_cons_succ]
    refine reg_step hR 5 (by kernel_rfl) rfl fun K hK => ?_
    try simp only [Act.put, List.getElem_toArray, List.getElem_cons_succ, List.getElem_cons_zero, List.setIfInBounds_toArray, List.set_cons_zero, List.set_cons_succ]
    rw [if_pos (by rfl)]
    refine wp_store_bk 59 _ _ rfl (w.heap.size + 1) rfl (cs8 (endR C (rsOf xs))) z36 rfl HI5.out.res (by rw [HE8.out]; exact info36) (by rw [HE8.out]; exact len_z36) (cs8_all _) ?_
    refine hK.out _ _ (kp_setRow _ _ _ rfl) ?_
    clear hK K
    try simp only [Act.put, List.getElem_toArray, List.getElem_cons_succ, List.getElem_cons_zero, List.setIfInBounds_toArray, List.set_cons_zero, List.set_cons_succ]
    refine reg_done (by kernel_rfl) ?_ _
    refine ⟨rfl, ?_⟩
    have hg6 := grown_setRow W5 (w.heap.size + 1) (cs8 (endR C (rsOf xs))).toArray
    have HB6 := Lib.hid (HI5.out.bel.trans (show Below w.heap.size W5 _ from ⟨hg6.os, hg6.tape, hg6.output, hg6.size, fun i hi => hg6.block i (by omega) (fun e => by injection e with e; omega)⟩))
    have HZ6 := Lib.hid (HI5.out.res.setRow (cs8 (endR C (rsOf xs))))
    have hr6 := World.ownsRow.kept HI5.out.row hg6 (.inr fun e => by have := (HI5.out.lv9 _ e).1; omega)
    have hd6 := data_grow HI5.out.data hg6 (fun r e => .inl (by injection e with e; omega))
    have hk6 := (hg6.block _ (show w.heap.size + 6 < _ by omega) (fun e => by injection e with e; omega)).trans HI5.out.dfr
    have HR6 := Lib.hid hr6
    have HD6 := Lib.hid hd6
    have HK6 := Lib.hid hk6
    clear HI5 hg6 hr6 hd6 hk6
    generalize W5.setRow (w.heap.size + 1) (cs8 (endR C (rsOf xs))).toArray = W6 at HB6 HZ6 HR6 HD6 HK6 ⊢
    go_wp2
    refine ⟨by simp, .inl ⟨_, _, rfl, run_takeDeferred HK6.out, ?_⟩⟩
    have hg7 := grownBy_putObj' W6 (w.heap.size + 6) (.deferred none)
    have hb7 := HB6.out.trans (show Below w.heap.size W6 _ from ⟨hg7.os, hg7.tape, hg7.output, hg7.size, fun i hi => hg7.block i (by have := HB6.out.size; omega) (fun e => by injection e with e; omega)⟩)
    have hz7 := HZ6.out.grow hg7 (by simp)
    have hr7 := World.ownsRow.kept HR6.out hg7 (.inr fun e => by have := (World.ownsRow.lt HR6.out _ e).1; omega)
    have hd7 := data_grow HD6.out hg7 (fun r e => .inl (by injection e with e; omega))
    rw [itCells_eq] at hr7
    obtain ⟨A', c', ev, hrs⟩ := Rs.row hr7 (by simp) (fun x hx => by
      obtain ⟨y, hy, e⟩ := List.mem_map.1 hx
      subst e
      exact (hd7 y hy).1)
    injection ev with e1 e2 e3
    subst e1; subst e2; subst e3
    have hnew : RsNew w.heap.size gl (xs.map It.v) := ⟨fun ad e => by have := (World.ownsRow.lt hr7 ad.block (by rw [e]; rfl)).1; omega, fun x hx ad e => by
      obtain ⟨y, hy, e2⟩ := List.mem_map.1 hx
      subst e2
      have := ((hd7 y hy).2 ad e).1
      omega⟩
    generalize W6.putObj (w.heap.size + 6) (.deferred none) = W7 at hb7 hz7 hrs ⊢
    go_simp
    refine ⟨_, results_ttc rfl rfl (load_bk hz7 Tryz.underlying59 rfl (by rw [HE8.out]; exact info36)), ?_⟩
    refine ⟨rsOf xs, tail, HBT.out, HVS.out, HST.out, gl, xs.length, cl, xs.map It.v, ?_, by simp [rsOf]; intros; rfl, hrs, hnew, hb7⟩
    rw [← HLL.out]
    rfl

/-- All, where the records are known. -/
theorem All_any {A : Option Addr} {m c : Nat} {C b tail : List UInt8} {rs : List (UInt8 × List UInt8)} (w : World) (hC : C.length = 32) (hr : Rd w w.heap.size A m c b) (hm : m ≤ 1073741824) (hb : b = recsB C rs ++ tail) (hv : Vrs rs) (ht : readErr (endR C rs) tail ≠ 0) :
    Calls Tryz.prog 59 #[.agg (cs8 C).toArray, .slice A m c] w (AllOk w C rs) := by
  refine (All_ex w hC hr hm).mono ?_
  rintro e w' ⟨rs', tail', hb', hv', ht', h⟩
  obtain ⟨rfl, _⟩ := recs_one rs' rs C tail' tail hv' hv (hb'.symm.trans hb) ht' ht
  exact h
end Go.Proofs.YtgpfognglpfmoaaGreatDoor

/- Texts of this claim, one behind the other: Mem, Reg, Shelf, Octa. -/
import Derived.Test.YtgpfognglpfmoaaGreatDoorProg
import Derived.WalkKit
import Derived.WalkSpells
import Derived.WalkLawsBesides
import Derived.Lib.Hide
import Derived.Deep.DeepFit
import Derived.Deep.AppendLies
import Derived.Deep.Draws
import Derived.Maps.AppendAt
import Derived.Deep.RegionHeld3
import Derived.Shelf.Small.Bits
import Derived.Shelf.Strconv.Itoa0
import Derived.Shelf.Bits.Mul64
set_option linter.unusedSimpArgs false
set_option linter.unusedVariables false
section
/- Words for memory: a slice of bytes that reads as a list; a row of bytes of the call's own; what a call leaves as it was. -/
namespace Go.Proofs.YtgpfognglpfmoaaGreatDoor
open Go.RowKit

/-- The cell of a byte. -/
def B8 (b : UInt8) : Value := .int .u8 (b.toNat : Int)
/-- The cells of bytes. -/
def cs8 (l : List UInt8) : List Value := l.map B8

theorem cs8_length (l : List UInt8) : (cs8 l).length = l.length := by simp [cs8]
theorem cs8_append (a b : List UInt8) : cs8 (a ++ b) = cs8 a ++ cs8 b := by simp [cs8]
theorem cs8_one (l : List UInt8) : ∀ u ∈ cs8 l, u.oneCell' = true := by
  intro u hu
  obtain ⟨b, _, rfl⟩ := List.mem_map.1 hu
  rfl

theorem add_block (a : Addr) (n : Nat) : (a.add n).block = a.block := by unfold Addr.add; split <;> rfl
theorem add_add (a : Addr) (i j : Nat) : (a.add i).add j = a.add (i + j) := by
  unfold Addr.add
  by_cases hi : i = 0 <;> by_cases hj : j = 0 <;> simp [hi, hj, Nat.add_assoc]

/-- The slice (A, n, c) reads, in w, as the bytes l, and lies below block top. -/
def Rd (w : World) (top : Nat) (A : Option Addr) (n c : Nat) (l : List UInt8) : Prop :=
  l.length = n ∧ n ≤ c ∧ (0 < n → ∃ ad, A = some ad ∧ ad.block < top ∧ ∀ j u, l[j]? = some u → w.cell? (ad.add j) = some (B8 u))

/-- v is a row of the call's own, from block base on, that holds the bytes l. -/
def Ow (w : World) (base : Nat) (v : Value) (l : List UInt8) : Prop := w.ownsRow base 5 1 v l.length (cs8 l)

/-- The world w' is w but for block g and what is new. -/
def Only (g : Nat) (w w' : World) : Prop := w.grownBy w' (some g)

section
variable {w w' w2 : World} {top base n c g : Nat} {A : Option Addr} {l : List UInt8} {v : Value}

theorem Rd.len (h : Rd w top A n c l) : l.length = n := h.1
theorem Rd.cap (h : Rd w top A n c l) : n ≤ c := h.2.1
theorem Rd.nil (w : World) (top c : Nat) (A : Option Addr) : Rd w top A 0 c [] := ⟨rfl, Nat.zero_le _, fun h => absurd h (by omega)⟩
theorem Rd.keep (h : Rd w top A n c l) (hk : ∀ p : Addr, p.block < top → w'.cell? p = w.cell? p) : Rd w' top A n c l :=
  ⟨h.1, h.2.1, fun hn => by
    obtain ⟨ad, e, hb, hc⟩ := h.2.2 hn
    exact ⟨ad, e, hb, fun j u hu => (hk _ (by rw [add_block]; exact hb)).trans (hc j u hu)⟩⟩
theorem Rd.more {top' : Nat} (h : Rd w top A n c l) (hB : top ≤ top') : Rd w top' A n c l :=
  ⟨h.1, h.2.1, fun hn => by
    obtain ⟨ad, e, hb, hc⟩ := h.2.2 hn
    exact ⟨ad, e, by omega, hc⟩⟩
theorem Rd.below (h : Rd w top A n c l) (hb : Below top w w') : Rd w' top A n c l := h.keep fun _ hp => hb.cell hp
theorem Rd.grown {row : Option Nat} (h : Rd w top A n c l) (hg : w.grownBy w' row) (hB : top ≤ w.heap.size) (hr : ∀ g, row = some g → top ≤ g) : Rd w' top A n c l :=
  h.keep fun p hp => World.cell?_of_block (hg.block p.block (by omega) (fun e => by have := hr _ e.symm; omega))
theorem Rd.at_ (h : Rd w top A n c l) {k : Nat} (hk : k < n) : ∃ ad, A = some ad ∧ ad.block < top ∧ ∃ u, l[k]? = some u ∧ w.cell? (ad.add k) = some (B8 u) := by
  obtain ⟨ad, e, hb, hc⟩ := h.2.2 (by omega)
  have hl : k < l.length := by have := h.1; omega
  exact ⟨ad, e, hb, l[k], List.getElem?_eq_getElem hl, hc k _ (List.getElem?_eq_getElem hl)⟩
/-- A part from k on, as the model cuts it. -/
theorem Rd.drop_ (h : Rd w top A n c l) {k : Nat} (hk : k ≤ n) : Rd w top (if c = k then A else A.map (·.add k)) (n - k) (c - k) (l.drop k) := by
  refine ⟨by rw [List.length_drop, h.1], by have := h.2.1; omega, fun hn => ?_⟩
  obtain ⟨ad, rfl, hb, hcell⟩ := h.2.2 (by omega)
  have := h.2.1
  rw [if_neg (by omega)]
  refine ⟨ad.add k, rfl, by rw [add_block]; exact hb, fun j u hu => ?_⟩
  rw [add_add]
  exact hcell _ u (by rw [← hu, List.getElem?_drop])
theorem Rd.take_ (h : Rd w top A n c l) {k : Nat} (hk : k ≤ n) : Rd w top A k c (l.take k) := by
  refine ⟨by rw [List.length_take, h.1]; omega, by have := h.2.1; omega, fun hn => ?_⟩
  obtain ⟨ad, rfl, hb, hcell⟩ := h.2.2 (by omega)
  refine ⟨ad, rfl, hb, fun j u hu => hcell j u ?_⟩
  rw [List.getElem?_take] at hu
  split at hu
  · exact hu
  · cases hu

theorem Rd.recap {c' : Nat} (h : Rd w top A n c l) (hc : n ≤ c') : Rd w top A n c' l := ⟨h.1, hc, h.2.2⟩
theorem Ow.rd (h : Ow w base v l) : ∃ A c, v = .slice A l.length c ∧ Rd w w.heap.size A l.length c l := by
  rcases h.2 with ⟨rfl, hn⟩ | ⟨g, cap, cur, rfl, hb, hg, hc, _, _, _⟩
  · rw [hn]
    refine ⟨none, 0, rfl, ?_⟩
    rw [List.eq_nil_of_length_eq_zero hn]
    exact Rd.nil _ _ _ _
  · refine ⟨some ⟨g, 0, none⟩, cap, rfl, rfl, hc, fun hn => ⟨_, rfl, (Array.getElem?_eq_some_iff.1 hg).1, fun j u hu => ?_⟩⟩
    exact World.ownsRow.cells h (g := g) rfl j (B8 u) (by simp [cs8, hu])

/-- A row of the call's own lies from base on: as a slice that reads. -/
theorem Ow.rdTop (h : Ow w base v l) : ∃ A c, v = .slice A l.length c ∧ Rd w w.heap.size A l.length c l ∧ (∀ ad, A = some ad → base ≤ ad.block) := by
  rcases h.2 with ⟨rfl, hn⟩ | ⟨g, cap, cur, rfl, hb, hg, hc, _, _, _⟩
  · obtain ⟨A, c, e, r⟩ := h.rd
    injection e with e1 e2 e3
    subst e1
    exact ⟨_, _, by rw [hn, e3], r, fun _ h => by cases h⟩
  · obtain ⟨A, c, e, r⟩ := h.rd
    injection e with e1 e2 e3
    subst e1
    exact ⟨_, _, by rw [e3], r, fun ad h => by injection h with h; subst h; exact hb⟩

theorem Only.refl (g : Nat) (w : World) : Only g w w := World.grownBy.refl w _
theorem Only.of_below (h : Below w.heap.size w w') : Only g w w' := ⟨h.os, h.tape, h.output, h.size, fun i hi _ => h.block i hi⟩
theorem Only.trans (h : Only g w w') (k : Only g w' w2) : Only g w w2 :=
  ⟨k.os.trans h.os, k.tape.trans h.tape, k.output.trans h.output, Nat.le_trans h.size k.size, fun i hi hne => (k.block i (Nat.lt_of_lt_of_le hi h.size) hne).trans (h.block i hi hne)⟩
theorem Only.below {B : Nat} (h : Only g w w') (hg : B ≤ g) (hB : B ≤ w.heap.size) : Below B w w' :=
  ⟨h.os, h.tape, h.output, h.size, fun i hi => h.block i (by omega) (fun e => by injection e; omega)⟩
theorem Only.set (w : World) (o : Nat) (u : Value) : Only g w (w.setCell ⟨g, o, none⟩ u) :=
  ⟨rfl, rfl, rfl, by simp [World.setCell], fun i hi hne => Below.heap_setCell w _ u i (fun e => hne (by subst e; rfl))⟩
theorem Only.cell (h : Only g w w') {p : Addr} (hp : p.block < w.heap.size) (hne : p.block ≠ g) : w'.cell? p = w.cell? p :=
  World.cell?_of_block (h.block p.block hp (fun e => hne (by injection e)))
theorem Rd.only (h : Rd w top A n c l) (ho : Only g w w') (ht : top ≤ w.heap.size) (hg : top ≤ g) : Rd w' top A n c l := h.grown ho ht (fun k e => by injection e with e; omega)
theorem Ow.lower {base' : Nat} (h : Ow w base v l) (hb : base' ≤ base) : Ow w base' v l := by
  refine ⟨h.1, ?_⟩
  rcases h.2 with hn | ⟨g, cap, cur, hv, hbg, r⟩
  · exact .inl hn
  · exact .inr ⟨g, cap, cur, hv, by omega, r⟩
theorem Ow.alloc (h : Ow w base v l) (o : Obj) : Ow (w.alloc o) base v l := World.ownsRow.alloc h o
theorem Ow.below (h : Ow w base v l) (hb : Below w.heap.size w w') : Ow w' base v l :=
  World.ownsRow.kept h (row := none) ⟨hb.os, hb.tape, hb.output, hb.size, fun k hk _ => hb.block k hk⟩ (by cases v.ownBlock <;> simp)
end

/-- The bytes of a list as a string. -/
def str (l : List UInt8) : ByteArray := ⟨l.toArray⟩

theorem nums_back (l : List UInt8) : (l.map fun b => (b.toNat : Int)).map (fun n => UInt8.ofNat n.toNat) = l := by
  rw [List.map_map]
  exact (List.map_congr_left (fun b _ => by simp)).trans (List.map_id l)

/-- Bytes as a string. -/
theorem run_str {w : World} {top n c : Nat} {A : Option Addr} {l : List UInt8} (h : Rd w top A n c l) :
    (convert 31 9 (.slice A n c)).run Tryz.prog w = .ok (.string (str l)) w := by
  rw [run_convert_bytes_string w 31 9 5 A n c Tryz.underlying31 Tryz.underlying5 Tryz.underlying9]
  rcases A with _ | ad
  · have hn : n = 0 := by
      rcases Nat.eq_zero_or_pos n with h0 | h0
      · exact h0
      · obtain ⟨ad, e, _⟩ := h.2.2 h0
        cases e
    have hl : l = [] := List.eq_nil_of_length_eq_zero (by rw [h.1, hn])
    subst hl
    simp [Conv.bytesToString, str]
    rfl
  · have hl : (loadCells ad n).run Tryz.prog w = .ok ((l.map fun b => (b.toNat : Int)).map (Value.int .u8)).toArray w := by
      have := run_loadCells_list (P := Tryz.prog) w ad ((l.map fun b => (b.toNat : Int)).map (Value.int .u8)) (fun j v hj => by
        rcases Nat.eq_zero_or_pos n with h0 | h0
        · have hl : l = [] := List.eq_nil_of_length_eq_zero (by rw [h.1, h0])
          subst hl
          simp at hj
        · obtain ⟨ad', e, _, hc⟩ := h.2.2 h0
          injection e with e
          subst e
          rw [List.map_map, List.getElem?_map] at hj
          cases hu : l[j]? with
          | none => rw [hu] at hj; cases hj
          | some u =>
            rw [hu] at hj
            rw [hc j u hu]
            simpa [B8] using hj)
      simpa [h.1] using this
    rw [run_bytesToString w ad n c _ hl, foldl_push_bytes, nums_back]
    simp [str, ByteArray.empty, ByteArray.emptyWithCapacity]
    rfl


theorem info_u8 : (Tryz.prog.info? 5).map (fun i => (i.zero, i.size, i.bytes)) = some (some (.int .u8 0), 1, 1) := by kernel_rfl

/-- append onto a row of the call's own, of a slice that reads. -/
theorem run_app {w : World} {base : Nat} {v : Value} {xs : List UInt8} (hown : Ow w base v xs) {top n c : Nat} {A : Option Addr} {l : List UInt8} (hr : Rd w top A n c l)
    (hb : xs.length + n ≤ 140737488355328) (hbase : base ≤ w.heap.size) (ty : TypeId) :
    ∃ v' w', (Builtin.append_ #[31, 31] ty #[v, .slice A n c]).run Tryz.prog w = .ok v' w' ∧ Ow w' base v' (xs ++ l) ∧ w.grownBy w' v.ownBlock ∧
      (v'.ownBlock = v.ownBlock ∨ v'.ownBlock = some w.heap.size) := by
  obtain ⟨i, hi, hz0, hz1, hz2⟩ := info_parts info_u8
  rcases A with _ | ad
  · have hn : n = 0 := by
      rcases Nat.eq_zero_or_pos n with h0 | h0
      · exact h0
      · obtain ⟨ad, e, _⟩ := hr.2.2 h0
        cases e
    have hl : l = [] := List.eq_nil_of_length_eq_zero (by rw [hr.1, hn])
    subst hl hn
    refine ⟨v, w, ?_, by simpa using hown, World.grownBy.refl w _, .inl rfl⟩
    rcases hown.2 with ⟨rfl, _⟩ | ⟨g, cap, cur, rfl, _, _, hnc, _⟩
    · simp [Builtin.append_, run_underlying Tryz.underlying31, sizeOf, typeInfo, hi, Builtin.lenOf, Builtin.firstCells]
    · simp [Builtin.append_, run_underlying Tryz.underlying31, sizeOf, typeInfo, hi, Builtin.lenOf, Builtin.firstCells, hnc, storeCells]
  · have hcells : ∀ j u, (cs8 l)[j]? = some u → w.cell? (ad.add j) = some u := by
      intro j u hu
      rcases Nat.eq_zero_or_pos n with h0 | h0
      · have hl : l = [] := List.eq_nil_of_length_eq_zero (by rw [hr.1, h0])
        subst hl
        simp [cs8] at hu
      · obtain ⟨ad', e, _, hc⟩ := hr.2.2 h0
        have e := Option.some.inj e
        subst e
        rw [cs8, List.getElem?_map] at hu
        cases hx : l[j]? with
        | none => rw [hx] at hu; cases hu
        | some x =>
          rw [hx] at hu
          rw [hc j x hx]
          simpa using hu
    obtain ⟨v', w', hrun, h2, h3, _, h5⟩ := run_append_own_at (P := Tryz.prog) w base 31 ty 5 i (.int .u8 0) 1 1 Tryz.underlying31 hi hz0 hz1 hz2 rfl (by decide) v xs.length (cs8 xs) hown ad n c (cs8 l)
      (by rw [cs8_length, hr.1, Nat.mul_one]) hcells (cs8_one l) (by simp only [maxLen]; omega) (by omega) hbase
    refine ⟨v', w', hrun, ?_, h3, h5⟩
    unfold Ow
    rw [cs8_append, List.length_append, hr.1]
    exact h2

theorem wpList_app {w : World} {ops : Array Oper} {rest : List Oper} {o : Oper} {a : Act} {Q : Exit → Act → World → Prop} (hgd : o.guard = none) (s x : Operand)
    (ho : o.op = .call { callee := .builtin .append, args := #[s, x], argTypes := #[31, 31] })
    {base : Nat} {v : Value} {xs : List UInt8} (hs : a.eval s = v) (hown : Ow w base v xs) {top n c : Nat} {A : Option Addr} {l : List UInt8} (hx : a.eval x = .slice A n c) (hr : Rd w top A n c l)
    (hb : xs.length + n ≤ 140737488355328) (hbase : base ≤ w.heap.size)
    (h : ∀ v' w', Ow w' base v' (xs ++ l) → w.grownBy w' v.ownBlock → (v'.ownBlock = v.ownBlock ∨ v'.ownBlock = some w.heap.size) → wpList Tryz.prog ops Q rest (a.put o.dst v') w') : wpList Tryz.prog ops Q (o :: rest) a w := by
  refine wpList_plain hgd fun K hK => ?_
  obtain ⟨v', w', hrun, h2, h3, h4⟩ := run_app hown hr hb hbase o.type
  unfold Oper.wp execOp
  simp only [ho, resolve, invoke, builtin, Sem.run_bind, Sem.run_pure, Result.andThen_ok, List.map_toArray, List.map_cons, List.map_nil, hs, hx, hrun]
  exact hK _ _ (h v' w' h2 h3 h4)

/-- make([]byte, 0, n). -/
theorem wpList_make {w : World} {ops : Array Oper} {rest : List Oper} {o : Oper} {a : Act} {Q : Exit → Act → World → Prop} (hgd : o.guard = none) (l c : Operand)
    (ho : o.op = Op.makeSlice 31 l c) {kl kc : IntKind} (C : Int) (hl : a.eval l = .int kl 0) (hc : a.eval c = .int kc C) (h0 : 0 ≤ C) (h1 : C ≤ 140737488355328) {base : Nat} (hbase : base ≤ w.heap.size)
    (h : ∀ v' w', Ow w' base v' [] → Below w.heap.size w w' → w.heap.size < w'.heap.size → wpList Tryz.prog ops Q rest (a.put o.dst v') w') : wpList Tryz.prog ops Q (o :: rest) a w := by
  obtain ⟨i, hi, hz0, hz1, hz2⟩ := info_parts info_u8
  refine wpList_plain hgd fun K hK => ?_
  have hm : (maxLen : Int) = 9223372036854775807 := by simp [maxLen]
  have hr := run_make (P := Tryz.prog) w 31 5 i (.int .u8 0) Tryz.underlying31 hi hz0 kl kc 0 C (Int.le_refl _) h0 (by rw [hz2]; omega) (by omega)
  unfold Oper.wp execOp
  simp only [ho, hl, hc, hr, Sem.run_bind, Result.andThen_ok, Sem.run_pure]
  refine hK _ _ (h _ _ ?_ ?_ (by simp))
  · have := World.ownsRow_made (base := base) (e := 5) (size := 1) w (madeCells (Value.int .u8 0).cells (C.toNat * i.size)) C.toNat hbase (by simp only [maxLen]; omega) (by rw [size_madeCells, hz1])
    simpa [Ow, cs8] using this
  · exact (Below.refl _ _).alloc (Nat.le_refl _) _

/-- A literal slice of one byte. -/
theorem Rd.lit1 (w : World) (k : Int) (h0 : 0 ≤ k) (h1 : k < 256) : Rd (w.alloc (.cells #[.int .u8 k] 5)) (w.heap.size + 1) (some ⟨w.heap.size, 0, none⟩) 1 1 [UInt8.ofNat k.toNat] := by
  refine ⟨rfl, Nat.le_refl _, fun _ => ⟨_, rfl, by simp, fun j u hu => ?_⟩⟩
  rcases j with _ | j
  · simp only [List.getElem?_cons_zero, Option.some.injEq] at hu
    subst hu
    have : (UInt8.ofNat k.toNat).toNat = k.toNat := by simp; omega
    rw [show ((⟨w.heap.size, 0, none⟩ : Addr).add 0) = ⟨w.heap.size, 0, none⟩ from rfl, cell_of_row _ w.heap.size 0 _ 5 (0, 0) (heap_alloc_new w _)]
    rw [B8, this, Int.toNat_of_nonneg h0]
    rfl
  · simp at hu

/-- A literal slice of bytes. -/
theorem Ow.lit (w : World) (cs : Array Value) (l : List UInt8) (h : cs.toList = cs8 l) (hl : l.length ≤ 4294967296) : Ow (w.alloc (.cells cs 5)) w.heap.size (.slice (some ⟨w.heap.size, 0, none⟩) l.length l.length) l := by
  have hs : cs.size = l.length * 1 := by rw [← Array.length_toList, h, cs8_length, Nat.mul_one]
  have := World.ownsRow_lit (base := w.heap.size) (e := 5) (size := 1) w cs l.length (Nat.le_refl _) (by simp only [maxLen]; omega) hs
  rw [h] at this
  exact this
theorem Rd.lit (w : World) (cs : Array Value) (l : List UInt8) (h : cs.toList = cs8 l) (hl : l.length ≤ 4294967296) : Rd (w.alloc (.cells cs 5)) (w.heap.size + 1) (some ⟨w.heap.size, 0, none⟩) l.length l.length l := by
  obtain ⟨A, c, e, r⟩ := (Ow.lit w cs l h hl).rd
  injection e with e1 e2 e3
  subst e1 e3
  simpa using r

/-- The same, its length as a number n, below the top of its own world. -/
theorem Rd.litN (w : World) (cs : Array Value) (l : List UInt8) (n : Nat) (h : cs.toList = cs8 l) (hn : l.length = n) (hl : n ≤ 4294967296) : Rd (w.alloc (.cells cs 5)) (w.alloc (.cells cs 5)).heap.size (some ⟨w.heap.size, 0, none⟩) n n l := by
  subst hn
  have := Rd.lit w cs l h hl
  simpa using this
theorem Ow.rdN {w : World} {base n : Nat} {l : List UInt8} {v : Value} (h : Ow w base v l) (hn : l.length = n) : ∃ A c, v = .slice A n c ∧ Rd w w.heap.size A n c l := by
  subst hn
  exact h.rd

theorem str_loop (l : List UInt8) : ∀ (k i : Nat) (r : List UInt8), l.length - i = k → ByteArray.toList.loop (str l) i r = r.reverse ++ l.drop i
  | 0, i, r, h => by
    rw [ByteArray.toList.loop, if_neg (by simp [str, ByteArray.size]; omega), List.drop_eq_nil_of_le (by omega), List.append_nil]
  | k + 1, i, r, h => by
    rw [ByteArray.toList.loop, if_pos (by simp [str, ByteArray.size]; omega), str_loop l k (i + 1) _ (by omega)]
    rw [List.drop_eq_getElem_cons (i := i) (by omega)]
    have : (str l).get! i = l[i]'(by omega) := by
      simp only [str, ByteArray.get!]
      rw [getElem!_pos _ i (by simp; omega)]
      simp
    rw [this]
    simp
@[go_sem] theorem str_toList (l : List UInt8) : (str l).toList = l := by
  rw [ByteArray.toList, str_loop l l.length 0 [] (by omega)]
  simp
theorem str_inj {a b : List UInt8} : str a = str b ↔ a = b := ⟨fun h => by rw [← str_toList a, h, str_toList], fun h => by rw [h]⟩

section
variable {w w1 w2 : World} {g : Nat} {o : Obj}
theorem bl0 (w : World) : Below w.heap.size w w := Below.refl _ _
theorem bl_call (k : Below w.heap.size w w1) (h : Below w1.heap.size w1 w2) : Below w.heap.size w w2 := k.trans (h.mono k.size)
theorem bl_alloc (k : Below w.heap.size w w1) (o : Obj) : Below w.heap.size w (w1.alloc o) := k.alloc k.size o
theorem bl_only (k : Below w.heap.size w w1) (h : Only g w1 w2) (hg : w.heap.size ≤ g) : Below w.heap.size w w2 := k.trans (h.below hg k.size)
end

end Go.Proofs.YtgpfognglpfmoaaGreatDoor
end
section
/- A region that draws its order, walked in one order: what a call has left stays, as a relation R between worlds says; what is read of it is taken at once. -/
namespace Go.Proofs.YtgpfognglpfmoaaGreatDoor
open Go.RowKit

/-- A relation that tells what stays: every world stays as itself, and step by step. -/
structure Stays (R : World → World → Prop) : Prop where
  refl : ∀ w, R w w
  trans : ∀ {a b c}, R a b → R b c → R a c

/-- All that was there stays. -/
def Old (w w' : World) : Prop := Below w.heap.size w w'
theorem Old.stays : Stays Old := ⟨fun w => Below.refl _ w, fun h k => bl_call h k⟩
/-- All that was there stays, but for the blocks of which 'may' says so. -/
structure Kp (may : Nat → Prop) (w w' : World) : Prop where
  os : w'.os = w.os
  tape : w'.tape = w.tape
  output : w'.output = w.output
  size : w.heap.size ≤ w'.heap.size
  block : ∀ k, k < w.heap.size → ¬ may k → w'.heap[k]? = w.heap[k]?
theorem Kp.stays (may : Nat → Prop) : Stays (Kp may) :=
  ⟨fun _ => ⟨rfl, rfl, rfl, Nat.le_refl _, fun _ _ _ => rfl⟩, fun h k => ⟨k.os.trans h.os, k.tape.trans h.tape, k.output.trans h.output, Nat.le_trans h.size k.size, fun i hi hm => (k.block i (Nat.lt_of_lt_of_le hi h.size) hm).trans (h.block i hi hm)⟩⟩

section
variable {P : Program} {ops : Array Oper} {Q : Exit → Act → World → Prop} {R : World → World → Prop}

theorem held_weaken {md : Region.Mode} {S S' : World → Prop} (h : ∀ W, S' W → S W) : ∀ (fuel : Nat) (listed : Array Bool) (a : Act) (w : World), wpAnyH P md ops Q S' fuel listed a w → wpAnyH P md ops Q S fuel listed a w
  | 0, _, _, _, k => k
  | fuel + 1, _, _, _, k => ⟨k.1, fun i hi => wpOp_mono (fun a' w' r => ⟨h _ r.1, held_weaken h fuel _ a' w' r.2⟩) (k.2 i hi)⟩

theorem reg_start (R : World → World → Prop) {id : Nat} {a : Act} {w : World} (hm : P.follows .mixedOrders = true)
    (h : wpAnyH P .any ops Q (R w.drew) ops.size (Array.replicate ops.size false) a w.drew) : (Code.region id ops true).wp P Q a w := wp_region_held hm h

theorem reg_take (hR : Stays R) (i : Nat) {oi : Oper} {v : Value} {fuel : Nat} {listed : Array Bool} {a : Act} {w : World} (hi : ops[i]? = some oi)
    (hs : Region.noSelect ops = true) (hf : Region.free .any ops listed i = true) (hr : (Region.ready .any ops listed).contains i = true)
    (hQ : ∀ c a w, Q (.panic c) (a.put oi.dst v) w → Q (.panic c) a w) (hw : Region.wanted oi (yielded ops a.tmps) = true) (hy : ∀ W, R w W → (execOp a.eval oi).run P W = .ok (.value v) W)
    (h : wpAnyH P .any ops Q (R w) fuel (listed.setIfInBounds i true) (a.put oi.dst v) w) : wpAnyH P .any ops Q (R w) (fuel + 1) listed a w :=
  wpAnyH_take hi hs hf hr hQ (Or.inl ⟨hw, hy⟩) (hR.refl w) h

theorem reg_skip (hR : Stays R) (i : Nat) {oi : Oper} {fuel : Nat} {listed : Array Bool} {a : Act} {w : World} (hi : ops[i]? = some oi)
    (hs : Region.noSelect ops = true) (hf : Region.free .any ops listed i = true) (hr : (Region.ready .any ops listed).contains i = true)
    (hQ : ∀ c a w, Q (.panic c) (a.put oi.dst undef) w → Q (.panic c) a w) (hw : Region.wanted oi (yielded ops a.tmps) = false)
    (h : wpAnyH P .any ops Q (R w) fuel (listed.setIfInBounds i true) (a.put oi.dst undef) w) : wpAnyH P .any ops Q (R w) (fuel + 1) listed a w :=
  wpAnyH_take hi hs hf hr hQ (Or.inr ⟨hw, rfl⟩) (hR.refl w) h

theorem reg_step (hR : Stays R) (i : Nat) {o : Oper} {fuel : Nat} {listed : Array Bool} {a : Act} {w : World} (hr : Region.ready .any ops listed = [i]) (ho : ops[i]? = some o)
    (h : ∀ K : Act → World → Prop, Shut (∀ a' w', R w w' → wpAnyH P .any ops Q (R w') fuel (listed.setIfInBounds i true) a' w' → K a' w') →
      if Region.wanted o (yielded ops a.tmps) = true then Oper.wp P o a w K Q else K (a.put o.dst undef) w) : wpAnyH P .any ops Q (R w) (fuel + 1) listed a w := by
  refine wpAnyH_all hr (by simp) fun j hj => ?_
  obtain rfl : j = i := by simpa using hj
  have h1 := h (fun a' w' => R w w' ∧ wpAnyH P .any ops Q (R w) fuel (listed.setIfInBounds j true) a' w') (fun a' w' hw hh => ⟨hw, held_weaken (fun W hW => hR.trans hw hW) _ _ _ _ hh⟩)
  unfold wpOp
  simp only [ho]
  split
  · rename_i hw; rw [if_pos hw] at h1; exact .inl h1
  · rename_i hw; rw [if_neg hw] at h1; exact h1

theorem reg_done {S : World → Prop} {listed : Array Bool} {a : Act} {w : World} (hr : Region.ready .any ops listed = []) (h : Q .normal a w) (fuel : Nat) : wpAnyH P .any ops Q S fuel listed a w := wpAnyH_done hr h fuel
end

theorem follows_mixed : Tryz.prog.follows .mixedOrders = true := by kernel_rfl

/-- append, as one operation. -/
theorem wp_app {w : World} {o : Oper} {a : Act} {K : Act → World → Prop} {Q : Exit → Act → World → Prop} (s x : Operand)
    (ho : o.op = .call { callee := .builtin .append, args := #[s, x], argTypes := #[31, 31] })
    {base : Nat} {v : Value} {xs : List UInt8} (hs : a.eval s = v) (hown : Ow w base v xs) {top n c : Nat} {A : Option Addr} {l : List UInt8} (hx : a.eval x = .slice A n c) (hr : Rd w top A n c l)
    (hb : xs.length + n ≤ 140737488355328) (hbase : base ≤ w.heap.size)
    (h : ∀ v' w', Ow w' base v' (xs ++ l) → w.grownBy w' v.ownBlock → K (a.put o.dst v') w') : o.wp Tryz.prog a w K Q := by
  obtain ⟨v', w', hrun, h2, h3, _⟩ := run_app hown hr hb hbase o.type
  unfold Oper.wp execOp
  simp only [ho, resolve, invoke, builtin, Sem.run_bind, Sem.run_pure, Result.andThen_ok, List.map_toArray, List.map_cons, List.map_nil, hs, hx, hrun]
  exact h v' w' h2 h3

theorem exec_load_row {P : Program} {o : Oper} {a : Act} {w : World} (ty : TypeId) (x : Operand) (ho : o.op = .load ty x)
    (g : Nat) (hx : a.eval x = .pointer (some ⟨g, 0, none⟩)) (t : TypeId) (cs : Array Value) (fr : Nat × Nat) (d : TypeDesc) (hg : w.heap[g]? = some (.cells cs t fr))
    (hu : P.underlying ty = some d) (hd : (match d with | .struct _ | .array _ _ => true | _ => false) = true) (hi : (P.info? ty).map (·.size) = some cs.size) :
    (execOp a.eval o).run P w = .ok (.value (.agg cs)) w := by
  unfold execOp
  simp only [ho, hx, Instr.loadAt, Instr.sureAddr, Sem.run_bind, Sem.run_pure, Result.andThen_ok, run_loadVar_row w g t ty cs fr d hg hu hd hi]

section
variable {w w' w0 : World} {g top n c : Nat} {A : Option Addr} {l : List UInt8} {may : Nat → Prop}
theorem Kp.of_only (h : Only g w w') : Kp (· = g) w w' := ⟨h.os, h.tape, h.output, h.size, fun k hk hm => h.block k hk (fun e => hm (by injection e))⟩
theorem Kp.of_old (h : Below w.heap.size w w') : Kp may w w' := ⟨h.os, h.tape, h.output, h.size, fun k hk _ => h.block k hk⟩
theorem Kp.only (h : Kp (· = g) w w') : Only g w w' := ⟨h.os, h.tape, h.output, h.size, fun k hk hm => h.block k hk (fun e => hm (by rw [e]))⟩
theorem bl_kp (k : Below w0.heap.size w0 w) (h : Kp may w w') (hm : ∀ k, may k → w0.heap.size ≤ k) : Below w0.heap.size w0 w' :=
  k.trans ⟨h.os, h.tape, h.output, h.size, fun i hi => h.block i (by have := k.size; omega) (fun e => by have := hm i e; omega)⟩
theorem Kp.cell (h : Kp may w w') {p : Addr} (hp : p.block < w.heap.size) (hm : ¬ may p.block) : w'.cell? p = w.cell? p := World.cell?_of_block (h.block p.block hp hm)
theorem Rd.kp (h : Rd w top A n c l) (hk : Kp may w w') (ht : top ≤ w.heap.size) (hm : ∀ k, may k → top ≤ k) : Rd w' top A n c l :=
  h.keep fun p hp => hk.cell (by omega) (fun e => by have := hm _ e; omega)
/-- A block of bytes, as a slice that reads. -/
theorem Rd.of_block {t : TypeId} {fr : Nat × Nat} (hg : w.heap[g]? = some (.cells (cs8 l).toArray t fr)) (ht : g < top) : Rd w top (some ⟨g, 0, none⟩) l.length l.length l := by
  refine ⟨rfl, Nat.le_refl _, fun _ => ⟨_, rfl, ht, fun j u hu => ?_⟩⟩
  have hadd : (⟨g, 0, none⟩ : Addr).add j = ⟨g, j, none⟩ := by unfold Addr.add; split <;> simp_all
  rw [hadd, cell_of_row w g j _ t fr hg]
  simp [cs8, hu]
end
end Go.Proofs.YtgpfognglpfmoaaGreatDoor
end
section
/-
  DERIVED: THE SHELF's CONTRACTS AT THIS DUMP, IN PLAIN WORDS (tools/lay-plain.mjs' form; numbers turned for this seat): THE SAME DECLARATIONS: 'import', 'namespace', 'open', 'def', 'theorem' AND NOTHING ELSE. Each laying: the table of numbers ('.._ren') and one theorem, a field a fact of the dump's own or the kernel's comparison; each contract: ONE APPLICATION.
-/
namespace Go.Proofs
open Go.Shelf
def Tryz.lays126_ren : Go.Shelf.Ren := ⟨fun | 126 => 187 | n => n, fun | 5 => 5 | 3 => 3 | 9 => 9 | n => n, fun | n => n⟩
theorem Tryz.lays126 : Go.Proofs.Lays.n126 Tryz.prog Tryz.lays126_ren := {
  mixed := by kernel_rfl
  f126 := Tryz.func187.trans (congrArg some (by kernel_rfl))
  t3 := Tryz.underlying3
  a3 := Tryz.isAgg3
  z3 := Tryz.sizeOf3
  v3 := Tryz.zeroValue3
  t5 := Tryz.underlying5
  a5 := Tryz.isAgg5
  z5 := Tryz.sizeOf5
  v5 := Tryz.zeroValue5
  t9 := Tryz.underlying9
  a9 := Tryz.isAgg9
  z9 := Tryz.sizeOf9
  v9 := Tryz.zeroValue9 }
/-- bits.Len8: "Len8 returns the minimum number of bits required to represent x; the result is 0 for x == 0.": IT RETURNS 'Lib.bitLen x'; the world is as it was. ('h0', 'h1': x is a uint8.) (LAID: no walk: one application.) -/
theorem Tryz.bits_Len8 (x : Int) (w : World) (h0 : 0 ≤ x) (h1 : x ≤ 255) :
    Calls Tryz.prog 187 #[.int .u8 x] w fun e w' => e = .returned (.int .i64 (Lib.bitLen x.toNat)) ∧ w' = w := Any.bits_Len8 Tryz.lays126 x w h0 h1
def Tryz.lays131_ren : Go.Shelf.Ren := ⟨fun | 131 => 184 | 126 => 187 | n => n, fun | 5 => 5 | 3 => 3 | 9 => 9 | n => n, fun | n => n⟩
theorem Tryz.lays131 : Go.Proofs.Lays.n131 Tryz.prog Tryz.lays131_ren := {
  mixed := by kernel_rfl
  f126 := Tryz.func187.trans (congrArg some (by kernel_rfl))
  f131 := Tryz.func184.trans (congrArg some (by kernel_rfl))
  t3 := Tryz.underlying3
  a3 := Tryz.isAgg3
  z3 := Tryz.sizeOf3
  v3 := Tryz.zeroValue3
  t5 := Tryz.underlying5
  a5 := Tryz.isAgg5
  z5 := Tryz.sizeOf5
  v5 := Tryz.zeroValue5
  t9 := Tryz.underlying9
  a9 := Tryz.isAgg9
  z9 := Tryz.sizeOf9
  v9 := Tryz.zeroValue9 }
/-- bits.LeadingZeros8: "LeadingZeros8 returns the number of leading zero bits in x; the result is 8 for x == 0.": IT RETURNS '8 - Lib.bitLen x'; the world is as it was. ITS CALLEE bits.Len8 IS MET BY ITS OWN CONTRACT OFF THE SHELF (lay that first): ENTERED IN PLACE it sends the kernel out of memory. (LAID: no walk: one application.) -/
theorem Tryz.bits_LeadingZeros8 (x : Int) (w : World) (h0 : 0 ≤ x) (h1 : x ≤ 255) :
    Calls Tryz.prog 184 #[.int .u8 x] w fun e w' => e = .returned (.int .i64 (8 - (Lib.bitLen x.toNat : Int))) ∧ w' = w := Any.bits_LeadingZeros8 Tryz.lays131 x w h0 h1
def Tryz.lays129_ren : Go.Shelf.Ren := ⟨fun | 129 => 142 | n => n, fun | 53 => 40 | 3 => 3 | 4 => 4 | 46 => 168 | 5 => 5 | 9 => 9 | n => n, fun | n => n⟩
theorem Tryz.lays129 : Go.Proofs.Lays.n129 Tryz.prog Tryz.lays129_ren := {
  mixed := by kernel_rfl
  f129 := Tryz.func142.trans (congrArg some (by kernel_rfl))
  t3 := Tryz.underlying3
  a3 := Tryz.isAgg3
  z3 := Tryz.sizeOf3
  v3 := Tryz.zeroValue3
  t4 := Tryz.underlying4
  a4 := Tryz.isAgg4
  z4 := Tryz.sizeOf4
  v4 := Tryz.zeroValue4
  t5 := Tryz.underlying5
  a5 := Tryz.isAgg5
  z5 := Tryz.sizeOf5
  v5 := Tryz.zeroValue5
  t9 := Tryz.underlying9
  a9 := Tryz.isAgg9
  z9 := Tryz.sizeOf9
  v9 := Tryz.zeroValue9
  t46 := Tryz.underlying168
  a46 := Tryz.isAgg168
  z46 := Tryz.sizeOf168
  v46 := Tryz.zeroValue168
  t53 := Tryz.underlying40
  a53 := Tryz.isAgg40
  z53 := Tryz.sizeOf40
  v53 := Tryz.zeroValue40 }
/-- bits.Len64: "Len64 returns the minimum number of bits required to represent x; the result is 0 for x == 0.": IT RETURNS 'Lib.bitLen x'; the world is as it was. ('h0', 'h1': x is a uint64.) (LAID: no walk: one application.) -/
theorem Tryz.bits_Len64 (x : Int) (w : World) (h0 : 0 ≤ x) (h1 : x ≤ 18446744073709551615) :
    Calls Tryz.prog 142 #[.int .u64 x] w fun e w' => e = .returned (.int .i64 (Lib.bitLen x.toNat)) ∧ w' = w := Any.bits_Len64 Tryz.lays129 x w h0 h1
def Tryz.lays264_ren : Go.Shelf.Ren := ⟨fun | 264 => 170 | n => n, fun | 53 => 40 | 46 => 168 | n => n, fun | n => n⟩
theorem Tryz.lays264 : Go.Proofs.Lays.n264 Tryz.prog Tryz.lays264_ren := {
  mixed := by kernel_rfl
  f264 := Tryz.func170.trans (congrArg some (by kernel_rfl))
  t46 := Tryz.underlying168
  a46 := Tryz.isAgg168
  z46 := Tryz.sizeOf168
  v46 := Tryz.zeroValue168
  t53 := Tryz.underlying40
  a53 := Tryz.isAgg40
  z53 := Tryz.sizeOf40
  v53 := Tryz.zeroValue40 }
open Go.RowKit Go.Lib in
theorem Tryz.bits_Mul64 (x y : Nat) (hx : x < 18446744073709551616) (hy : y < 18446744073709551616) (w : World) :
    Calls Tryz.prog 170 #[.int .u64 x, .int .u64 y] w fun e w' => e = .returned (.tuple #[.int .u64 ((x * y / 18446744073709551616 : Nat) : Int), .int .u64 ((x * y % 18446744073709551616 : Nat) : Int)]) ∧ w' = w := Any.bits_Mul64 Tryz.lays264 x y hx hy w
end Go.Proofs
end
section
/- The small functions of octet: sizes, leads. -/
namespace Go.Proofs.YtgpfognglpfmoaaGreatDoor
open Go.RowKit

theorem bitLen_le64 (n : Nat) (h : n < 18446744073709551616) : Lib.bitLen n ≤ 64 := Lib.bitLen_le n 64 (by omega) (by omega)

def numSize (n : Nat) : Nat := min (max ((Lib.bitLen n + 6) / 7) 1) 9

theorem Oret_int {k : IntKind} {a b : Int} (h : a = b) : Ending.returned (.int k a) = .returned (.int k b) := by rw [h]

set_option maxHeartbeats 400000 in
theorem wordSize_any (n : Int) (w : World) :
    Calls Tryz.prog 129 #[.int .i64 n] w fun e w' => e = .returned (.int .i64 (min (max n 1) 8)) ∧ w = w' := by
  go_enter Tryz.func129, Tryz.ntmps129
  go_wp2
  go_ret
  exact ⟨rfl, rfl⟩

set_option maxHeartbeats 400000 in
theorem numberSize_any (n : Int) (w : World) (h0 : 0 ≤ n) (h1 : n ≤ 18446744073709551615) :
    Calls Tryz.prog 119 #[.int .u64 n] w fun e w' => e = .returned (.int .i64 (numSize n.toNat)) ∧ w = w' := by
  have hb := bitLen_le64 n.toNat (by omega)
  go_enter Tryz.func119, Tryz.ntmps119
  go_wp2_with (go_at_call 142; refine (Tryz.bits_Len64 _ _ (by omega) (by omega)).mono ?_; rintro e w' ⟨rfl, rfl⟩)
  go_ret
  exact ⟨Oret_int (by unfold numSize; omega), rfl⟩

def leadOf (k : Nat) : Nat := 255 - 255 / 2 ^ min (k - 1) 8

theorem lead_bits : ∀ m : Fin 9, bits BinOp.xor IntKind.u8 IntKind.u8.max (255 / 2 ^ m.val) = ((255 - 255 / 2 ^ m.val : Nat) : Int) := by decide +kernel

set_option maxHeartbeats 400000 in
theorem lead_any (n : Int) (w : World) (h0 : -9223372036854775807 ≤ n) (h1 : n ≤ 9223372036854775807) :
    Calls Tryz.prog 141 #[.int .i64 n] w fun e w' => e = .returned (.int .u8 (leadOf n.toNat)) ∧ w = w' := by
  have hm : (0 : Int) ≤ max (n - 1) 0 := by omega
  go_enter Tryz.func141, Tryz.ntmps141
  go_wp2
  go_ret
  refine ⟨Oret_int ?_, rfl⟩
  have h := lead_bits ⟨min (n.toNat - 1) 8, by omega⟩
  rw [show (max (n - 1) 0).toNat = n.toNat - 1 from by omega]
  exact h
end Go.Proofs.YtgpfognglpfmoaaGreatDoor
end

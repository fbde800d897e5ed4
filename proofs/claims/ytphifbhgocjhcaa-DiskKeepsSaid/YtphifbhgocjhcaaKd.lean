/- Laws for DiskKeeps' walk: three rows made in any order, a row of strings copied over another. -/
import Derived.Test.YtphifbhgocjhcaaSt
import Derived.Test.YtphifbhgocjhcaaRi
import Derived.Test.YtphifbhgocjhcaaSc
namespace Go.Proofs.Ytphifbhgocjhcaa
set_option linter.unusedSimpArgs false
set_option linter.unusedVariables false
open Go.RowKit Go.Maps

/-- The ways through a region meet behind it. -/
theorem region_meet3 {P : Program} {c : Code} {a : Act} {w : World} {Q : Exit → Act → World → Prop} (f : Nat → Nat → Nat → Act → Act) (S : Nat → Nat → Nat → World → Prop)
    (h1 : c.wp P (fun e a' w' => e = .normal ∧ ∃ g1 g2 g3, a' = f g1 g2 g3 a ∧ S g1 g2 g3 w') a w) (h2 : ∀ g1 g2 g3 w', S g1 g2 g3 w' → Q .normal (f g1 g2 g3 a) w') : c.wp P Q a w :=
  Code.wp_mono (by rintro e a' w' ⟨rfl, g1, g2, g3, rfl, h⟩; exact h2 _ _ _ _ h) h1

/-- Three rows lie at g1, g2, g3. -/
def Three (w : World) (N g1 g2 g3 : Nat) (W : World) : Prop :=
  Sl W g1 (List.replicate N []) ∧ Sl W g2 (List.replicate N []) ∧ Bo W g3 (List.replicate N false) ∧ (w.heap.size ≤ g1 ∧ w.heap.size ≤ g2 ∧ w.heap.size ≤ g3) ∧ (g1 ≠ g2 ∧ g1 ≠ g3 ∧ g2 ≠ g3) ∧ Below w.heap.size w W
section
variable (w : World) (N : Nat) (a b c : Obj)
theorem three_at {g1 g2 g3 : Nat} (h1 : (((w.drew.alloc a).alloc b).alloc c).heap[g1]? = some (.cells ((List.replicate N ([] : List UInt8)).map fun x => Value.string (str x)).toArray 9 (0, 0)))
    (h2 : (((w.drew.alloc a).alloc b).alloc c).heap[g2]? = some (.cells ((List.replicate N ([] : List UInt8)).map fun x => Value.string (str x)).toArray 9 (0, 0)))
    (h3 : (((w.drew.alloc a).alloc b).alloc c).heap[g3]? = some (.cells ((List.replicate N false).map Value.bool).toArray 4 (0, 0)))
    (hl : w.heap.size ≤ g1 ∧ w.heap.size ≤ g2 ∧ w.heap.size ≤ g3) (hd : g1 ≠ g2 ∧ g1 ≠ g3 ∧ g2 ≠ g3) : Three w N g1 g2 g3 (((w.drew.alloc a).alloc b).alloc c) :=
  ⟨h1, h2, h3, hl, hd, undrewN (bl_alloc (bl_alloc (bl_alloc (bl0 w.drew) _) _) _)⟩
end

/-- copy of a whole row of strings. -/
theorem wpList_copy_str {w : World} {ops : Array Oper} {rest : List Oper} {o : Oper} {a : Act} {Q : Exit → Act → World → Prop} (hgd : o.guard = none) (d s : Operand) (ho : o.op = .call { callee := .builtin .copy, args := #[d, s], argTypes := #[55, 55] })
    {g g' n : Nat} {L L' : List (List UInt8)} (h : Sl w g L) (h' : Sl w g' L') (hl : L.length = n) (hl' : L'.length = n) (hd : a.eval d = .slice (some ⟨g, 0, none⟩) n n) (hs : a.eval s = .slice (some ⟨g', 0, none⟩) n n)
    (hK : ∀ w', Sl w' g L' → Kp (· = g) w w' → wpList Try.prog ops Q rest (a.put o.dst (goInt n)) w') : wpList Try.prog ops Q (o :: rest) a w := by
  obtain ⟨i0, hi0, _, hz1, _⟩ := info_parts info_str
  have hlc : (L'.map fun x => Value.string (str x)).length = n := by simp [hl']
  have hrun := run_copy_cells (P := Try.prog) w 55 55 o.type 9 g 0 n n ⟨g', 0, none⟩ n n (L'.map fun x => Value.string (str x)) Try.underlying55 (by rw [hi0]; simp [hz1]) (by rw [hlc]; simp)
    (fun j v hv => by
      simp only [List.getElem?_map, Option.map_eq_some_iff] at hv
      obtain ⟨u, hu, rfl⟩ := hv
      have := h'.cell hu
      by_cases h0 : j = 0
      · subst h0
        simpa [Addr.add] using this
      · simpa [Addr.add, h0] using this) (fun j hj => by
      rw [hlc, ← hl] at hj
      obtain ⟨u, hu⟩ : ∃ u, L[j]? = some u := ⟨_, List.getElem?_eq_getElem hj⟩
      have := h.cell hu
      simp [this]) (fun j hj => h.frozen _) (fun v hv => by
      simp only [List.mem_map] at hv
      obtain ⟨u, _, rfl⟩ := hv
      rfl)
  obtain ⟨r1, r2⟩ := h.over L' (by rw [hl, hl'])
  refine wpList_plain hgd fun K hK' => ?_
  unfold Oper.wp execOp
  simp only [ho, resolve, invoke, builtin, Sem.run_bind, Sem.run_pure, Result.andThen_ok, List.map_toArray, List.map_cons, List.map_nil, hd, hs, hrun, hlc]
  exact hK' _ _ (hK _ r1 r2)

/-- A string, a bool stored into its row. -/
theorem wp_store_str {w : World} {g i : Nat} {L : List (List UInt8)} {x : List UInt8} {o : Oper} {a : Act} {K : Act → World → Prop} {Q : Exit → Act → World → Prop} (d s : Operand) (ho : o.op = .store 9 d s) (h : Sl w g L) (hi : i < L.length)
    (hd : a.eval d = .pointer (some ⟨g, i, none⟩)) (hs : a.eval s = .string (str x)) (hK : K (a.put o.dst undef) (w.setCell ⟨g, i, none⟩ (.string (str x)))) : o.wp Try.prog a w K Q := by
  have hc := h.cell (List.getElem?_eq_getElem hi)
  have hf := h.frozen i
  unfold Oper.wp execOp
  simp only [ho, hd, hs]
  simp [Instr.storeAt, Instr.sureAddr, storeVar, storeCells, Try.sizeOf9, hc, hf, go_sem]
  exact hK
theorem wp_store_bool {w : World} {g i : Nat} {L : List Bool} {x : Bool} {o : Oper} {a : Act} {K : Act → World → Prop} {Q : Exit → Act → World → Prop} (d s : Operand) (ho : o.op = .store 4 d s) (h : Bo w g L) (hi : i < L.length)
    (hd : a.eval d = .pointer (some ⟨g, i, none⟩)) (hs : a.eval s = .bool x) (hK : K (a.put o.dst undef) (w.setCell ⟨g, i, none⟩ (.bool x))) : o.wp Try.prog a w K Q := by
  have hc := h.cell (List.getElem?_eq_getElem hi)
  have hf := h.frozen i
  unfold Oper.wp execOp
  simp only [ho, hd, hs]
  simp [Instr.storeAt, Instr.sureAddr, storeVar, storeCells, Try.sizeOf4, hc, hf, go_sem]
  exact hK
theorem wpList_store_str {w : World} {g i : Nat} {L : List (List UInt8)} {x : List UInt8} {ops : Array Oper} {rest : List Oper} {o : Oper} {a : Act} {Q : Exit → Act → World → Prop} (hgd : o.guard = none) (d s : Operand) (ho : o.op = .store 9 d s) (h : Sl w g L) (hi : i < L.length)
    (hd : a.eval d = .pointer (some ⟨g, i, none⟩)) (hs : a.eval s = .string (str x)) (hK : wpList Try.prog ops Q rest (a.put o.dst undef) (w.setCell ⟨g, i, none⟩ (.string (str x)))) : wpList Try.prog ops Q (o :: rest) a w :=
  wpList_plain hgd fun _ hK' => wp_store_str d s ho h hi hd hs (hK' _ _ hK)
theorem Sl.kp {w w' : World} {may : Nat → Prop} {g : Nat} {L : List (List UInt8)} (h : Sl w g L) (hk : Kp may w w') (hm : ¬ may g) : Sl w' g L := h.of (hk.block g h.lt hm)
theorem Bo.kp {w w' : World} {may : Nat → Prop} {g : Nat} {L : List Bool} (h : Bo w g L) (hk : Kp may w w') (hm : ¬ may g) : Bo w' g L := h.of (hk.block g h.lt hm)
theorem Sl.old {w w' : World} {g : Nat} {L : List (List UInt8)} (h : Sl w g L) (hb : Below w.heap.size w w') : Sl w' g L := h.of (hb.block g h.lt)
theorem Bo.old {w w' : World} {g : Nat} {L : List Bool} (h : Bo w g L) (hb : Below w.heap.size w w') : Bo w' g L := h.of (hb.block g h.lt)
/-- A fresh row of bools. -/
theorem Bo.new (w : World) (n : Nat) : Bo (w.alloc (.cells ((List.replicate n false).map Value.bool).toArray 4)) w.heap.size (List.replicate n false) := heap_alloc_new w _
/-- A row of one byte, as a string. -/
theorem run_strZ {w : World} {g : Nat} {Z : List UInt8} (hz : Z.length = 256) (h : Row w g Z) : (convert 27 9 (.slice (some ⟨g, 0, none⟩) 256 256)).run Try.prog w = .ok (.string (str Z)) w := by
  have := run_str h.rd
  rw [hz] at this
  exact this
theorem row_z {Z : List UInt8} (hZ : Z = List.replicate 256 0) (W : World) : Calls Try.prog 10 #[.int .u8 0] W fun e w' => e = .returned (.slice (some ⟨W.heap.size, 0, none⟩) 256 256) ∧ Row w' W.heap.size Z ∧ Below W.heap.size W w' := by
  subst hZ
  exact row_any W 0

/-- What a write of the right length writes, in a block of its own. -/
theorem kp_appb1 {w w' : World} {may : Nat → Prop} {X : Obj} (h : Below w.heap.size w w') (hm : may w.heap.size) (hs0 : w.heap.size < w'.heap.size) : Kp may (w.alloc X).drew w' := by
  refine ⟨h.os, h.tape, h.output, by show (w.alloc X).heap.size ≤ _; rw [size_alloc_one]; exact hs0, fun k hk hn => ?_⟩
  have hk : k < (w.alloc X).heap.size := hk
  rw [size_alloc_one] at hk
  have hlt : k < w.heap.size := by
    rcases Nat.lt_or_ge k w.heap.size with h1 | h1
    · exact h1
    · obtain rfl : k = w.heap.size := by omega
      exact absurd hm hn
  exact (h.block k hlt).trans (Below.heap_alloc w X k hlt).symm
theorem Ow.kp {w w' : World} {base : Nat} {v : Value} {l : List UInt8} {may : Nat → Prop} (h : Ow w base v l) (hk : Kp may w w') (hm : ∀ k, may k → k < base) : Ow w' base v l := by
  obtain ⟨h1, h2⟩ := h
  refine ⟨h1, ?_⟩
  rcases h2 with h2 | ⟨g, cap, cur, e, hb, hg, hr⟩
  · exact .inl h2
  · exact .inr ⟨g, cap, cur, e, hb, (hk.block g (Array.getElem?_eq_some_iff.1 hg).1 (fun hq => by have := hm g hq; omega)).trans hg, hr⟩
theorem run_str_ow {w : World} {base n c : Nat} {A : Option Addr} {l : List UInt8} (h : Ow w base (.slice A n c) l) : (convert 27 9 (.slice A n c)).run Try.prog w = .ok (.string (str l)) w := by
  obtain ⟨A', c', e, hr⟩ := h.rd
  rw [e]
  exact run_str hr
theorem wrote_len (b : UInt8) : (wrote b).length = 256 := set_len256 b
set_option maxRecDepth 100000 in
theorem bytes_row (w : World) (k at_ : Int) (b : UInt8) (keep : List Bool) (A : Option Addr) (c : Nat) : Calls Try.prog 25 #[.agg #[.int .i64 k, .int .i64 at_, .int .u8 (b.toNat : Int), .bool false, .slice A keep.length c]] w fun e w' => e = .returned (.slice (some ⟨w.heap.size + 1, 0, none⟩) 256 256) ∧ Row w' (w.heap.size + 1) (wrote b) ∧ Below w.heap.size w w' := by
  have HX : ∀ j v, (#[.int .i64 k, .int .i64 at_, .int .u8 (b.toNat : Int), .bool false, .slice A keep.length c] : Array Value)[j]? = some v → (w.alloc (.cells #[.int .i64 k, .int .i64 at_, .int .u8 (b.toNat : Int), .bool false, .slice A keep.length c] 46)).cell? ⟨w.heap.size, j, none⟩ = some v := by
    intro j v hv
    rw [cell_of_row _ w.heap.size j _ 46 (0, 0) (heap_alloc_new w _)]
    exact hv
  have HX := Lib.hid HX
  have HS := Lib.hid (b8_succ b)
  have hb : b.toNat < 256 := b.toNat_lt
  have HBe : Hid (∀ w2, Below (w.heap.size + 1) (w.alloc (.cells #[.int .i64 k, .int .i64 at_, .int .u8 (b.toNat : Int), .bool false, .slice A keep.length c] 46)) w2 → Below w.heap.size w w2) := Lib.hid fun w2 h => ((Below.refl _ w).alloc (Nat.le_refl _) _).trans (h.mono (by omega))
  have HRow : Hid (∀ W : World, Calls Try.prog 10 #[.int .u8 (b.toNat : Int)] W fun e w' => e = .returned (.slice (some ⟨W.heap.size, 0, none⟩) 256 256) ∧ Row w' W.heap.size (List.replicate 256 b) ∧ Below W.heap.size W w') := Lib.hid (fun W => row_any W b)
  have HG := Lib.hid (get256 b)
  go_enter Try.func25, Try.ntmps25
  go_wp2_with (go_at_call 10; refine (HRow.out _).mono ?_; rintro e w2 ⟨rfl, hr2, hb2⟩; simp only [size_alloc_one] at hr2 hb2; have k2 : w2.cell? ⟨w.heap.size, 2, none⟩ = some (.int .u8 (b.toNat : Int)) := (hb2.cell (by simp)).trans (HX.out 2 _ rfl); have k3 : w2.cell? ⟨w.heap.size, 3, none⟩ = some (.bool false) := (hb2.cell (by simp)).trans (HX.out 3 _ rfl); have k4 := hr2.cell HG.out; have k5 := hr2.frozen b.toNat; have HR2 := Lib.hid hr2; have HB2 := Lib.hid (HBe.out _ hb2); clear hr2 hb2)
  go_ret
  have hR : Row _ _ (wrote b) := HR2.out.set b.toNat (b + 1)
  rw [HS.out] at hR
  exact ⟨rfl, hR, bl_set HB2.out (by omega) _ _⟩
end Go.Proofs.Ytphifbhgocjhcaa

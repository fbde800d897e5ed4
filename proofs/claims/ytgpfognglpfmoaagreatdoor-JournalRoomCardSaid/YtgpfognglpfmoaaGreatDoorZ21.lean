/- Texts of this claim, one behind the other: JJr, JRd, JHd. -/
import Derived.Test.YtgpfognglpfmoaaGreatDoorZ16
import Derived.Test.YtgpfognglpfmoaaGreatDoorZ17
import Derived.Test.YtgpfognglpfmoaaGreatDoorZ20
set_option linter.unusedSimpArgs false
set_option linter.unusedVariables false
section
/- A journal's object; made, room; variables of one cell in drawn regions. -/
namespace Go.Proofs.YtgpfognglpfmoaaGreatDoor
set_option maxRecDepth 8192
set_option linter.unusedSimpArgs false
set_option linter.unusedVariables false
open Go.RowKit

/-- A new variable of one cell. -/
theorem wp_alloc1 {o : Oper} {a : Act} {w : World} {K : Act → World → Prop} {Q : Exit → Act → World → Prop} (T : TypeId) (ho : o.op = .alloc T) {k : IntKind} (n : Int) (hz : ∀ w, (zeroValue T).run Tryz.prog w = .ok (.int k n) w)
    (h : K (a.put o.dst (.pointer (some ⟨w.heap.size, 0, none⟩))) (w.alloc (.cells [.int k n].toArray T))) : o.wp Tryz.prog a w K Q := by
  unfold Oper.wp execOp
  simp only [ho, Sem.run_bind, hz, Result.andThen_ok, Sem.run_pure, go_sem]
  exact h
theorem setCell_one {w : World} {g : Nat} {u : Value} (hg : Bk w g [u]) (v : Value) : w.setCell ⟨g, 0, none⟩ v = w.setRow g [v].toArray := by
  obtain ⟨t, hg⟩ := hg
  have hlt := (Array.getElem?_eq_some_iff.1 hg).1
  have he := (Array.getElem?_eq_some_iff.1 hg).2
  have : (w.heap.modify g fun o => match o with | .cells cs t fr => .cells (cs.setIfInBounds 0 v) t fr | o => o) = (w.heap.modify g fun o => match o with | .cells _ t fr => .cells [v].toArray t fr | o => o) := by
    apply Array.ext
    · simp
    · intro i h1 h2
      rw [Array.getElem_modify, Array.getElem_modify]
      by_cases hi : g = i
      · subst hi
        simp [he]
      · rw [if_neg hi, if_neg hi]
  unfold World.setCell World.setRow
  exact congrArg (fun h => ({ w with heap := h } : World)) this
/-- A store into a variable of one cell. -/
theorem wp_store1 {o : Oper} {a : Act} {w : World} {K : Act → World → Prop} {Q : Exit → Act → World → Prop} (ty : TypeId) (x y : Operand) (ho : o.op = .store ty x y)
    (g : Nat) (hx : a.eval x = .pointer (some ⟨g, 0, none⟩)) {k : IntKind} (n : Int) (u : Value) (hy : a.eval y = .int k n) (hg : Bk w g [u]) (hs : ∀ w, (sizeOf ty).run Tryz.prog w = .ok 1 w)
    (h : K (a.put o.dst undef) (w.setRow g [.int k n].toArray)) : o.wp Tryz.prog a w K Q := by
  have hc : w.cell? ⟨g, 0, none⟩ = some u := hg.cell rfl
  have hf := hg.frozen 0
  rw [← setCell_one hg (.int k n)] at h
  unfold Oper.wp execOp
  simp only [ho, hx, hy]
  simp [Instr.storeAt, Instr.sureAddr, storeVar, storeCells, hs, hc, hf, go_sem]
  exact h

/-- A journal's cells: its disk, its area, its log, how many records were there at the last sync. -/
def jc (p area L syn : Nat) : List Value := [ptr p, .int .i64 (area : Int), pt0 L, .int .i64 (syn : Int)]
section
variable {w : World} {J p area L syn : Nat}
theorem made_j (h : Bk w J (jc p area L syn)) : Calls Tryz.prog 45 #[pt0 J] w fun e w' => e = .returned (.bool true) ∧ w' = w := by
  have c2 : w.cell? ⟨J, 2, none⟩ = some (pt0 L) := h.cell rfl
  clear h
  go_enter Tryz.func45, Tryz.ntmps45
  go_wp2
  go_ret
  exact ⟨rfl, rfl⟩
theorem made_j_nil (w : World) : Calls Tryz.prog 45 #[.pointer none] w fun e w' => e = .returned (.bool false) ∧ w' = w := by
  go_enter Tryz.func45, Tryz.ntmps45
  go_wp2
  go_ret
  exact ⟨rfl, rfl⟩
theorem room_j (h : Bk w J (jc p area L syn)) (ha : area ≤ 256) : Calls Tryz.prog 58 #[pt0 J] w fun e w' => e = .returned (.int .i64 ((area * 256 : Nat) : Int)) ∧ w' = w := by
  have c1 : w.cell? ⟨J, 1, none⟩ = some (.int .i64 (area : Int)) := h.cell rfl
  clear h
  go_enter Tryz.func58, Tryz.ntmps58
  go_wp2
  go_ret
  exact ⟨Oret_int (by omega), rfl⟩
end
theorem firstSector_bl (E : Nat) (hE : E ≤ 9223372036854775807) (a : Nat) (ha : a ≤ 256) (w : World) : Calls Tryz.prog 92 #[.int .u64 (E : Int), .int .i64 (a : Int)] w fun e w' => e = .returned (.int .i64 ((2 + E % 2 * a : Nat) : Int)) ∧ Below w.heap.size w w' :=
  (firstSector_any E hE a ha w).mono fun e w' ⟨he, hw⟩ => ⟨he, by rw [hw]; exact bl0 w⟩

/-- The bytes that are read of a sectors, from sector f on. -/
def rdS (B : List UInt8) (C : Ca) (f : Nat) : Nat → List UInt8
  | 0 => []
  | a + 1 => rdS B C f a ++ look B C (f + a)
theorem rdS_length {B : List UInt8} {C : Ca} (hC : ∀ x, some x ∈ C → x.length = 256) (hB : B.length = 256 * C.length) (f : Nat) : ∀ a, f + a ≤ C.length → (rdS B C f a).length = a * 256
  | 0, _ => rfl
  | a + 1, h => by
    rw [rdS, List.length_append, rdS_length hC hB f a (by omega), look_len hC (i := f + a) (by omega)]
    omega
end Go.Proofs.YtgpfognglpfmoaaGreatDoor
end
section
/- A journal: read. -/
namespace Go.Proofs.YtgpfognglpfmoaaGreatDoor
set_option maxRecDepth 8192
set_option linter.unusedSimpArgs false
set_option linter.unusedVariables false
open Go.RowKit Go.Shelf

attribute [local go_sem] Oper.semAt_some

theorem keepsFrom_kp {may : Nat → Prop} {B : Nat} {W W' : World} (h : Kp may W W') (hm : ∀ x, may x → x < B) : KeepsFrom B W W' :=
  ⟨h.size, fun k o hk ho _ => (h.block k (Array.getElem?_eq_some_iff.1 ho).1 (fun e => by have := hm k e; omega)).trans ho⟩
theorem Rd.cells8 {w : World} {top n c : Nat} {ad : Addr} {l : List UInt8} (h : Rd w top (some ad) n c l) : ∀ j u, (cs8 l)[j]? = some u → w.cell? (ad.add j) = some u := fun j u hj => by
  have hlt := (List.getElem?_eq_some_iff.1 hj).1
  rw [cs8_length, h.len] at hlt
  obtain ⟨a2, e, _, hc⟩ := h.2.2 (by omega)
  injection e with e
  subst e
  simp only [cs8, List.getElem?_map, Option.map_eq_some_iff] at hj
  obtain ⟨x, hx, rfl⟩ := hj
  exact hc j x hx
/-- A piece of noughts is filled. -/
theorem fill_next {B : List UInt8} {C : Ca} {f k N : Nat} (hC : ∀ x, some x ∈ C → x.length = 256) (hB : B.length = 256 * C.length) (hfk : f + k < C.length) (hN : (k + 1) * 256 ≤ N) :
    ((cs8 (rdS B C f k ++ List.replicate (N - k * 256) 0)).toArray.toList.take (k * 256) ++ cs8 (look B C (f + k)) ++ (cs8 (rdS B C f k ++ List.replicate (N - k * 256) 0)).toArray.toList.drop (k * 256 + 256)).toArray =
      (cs8 (rdS B C f (k + 1) ++ List.replicate (N - (k + 1) * 256) 0)).toArray := by
  have hl : (cs8 (rdS B C f k)).length = k * 256 := by rw [cs8_length, rdS_length hC hB f k (by omega)]
  congr 1
  rw [List.toList_toArray, cs8_append, List.take_left' hl, List.drop_append, hl, List.drop_eq_nil_of_le (by omega), List.nil_append, rdS, cs8_append, cs8_append, List.append_assoc, List.append_assoc]
  congr 2
  rw [cs8, cs8, List.map_replicate, List.map_replicate, List.drop_replicate]
  congr 1
  omega

section
variable {w : World} {J p s m area L syn E : Nat} {B : List UInt8} {C : Ca} {v : Value} {lr n : Int} {ch : List UInt8}
set_option maxHeartbeats 3200000 in
theorem read_j (hj : Bk w J (jc p area L syn)) (hl : Bk w L (lg (E : Int) v lr n ch)) (hd : Dk w p s m B C) (hE : E ≤ 9223372036854775807) (ha1 : 1 ≤ area) (ha : area ≤ 256) (hs : 2 + E % 2 * area + area ≤ C.length) :
    Calls Tryz.prog 61 #[pt0 J] w fun e w' => ∃ R, e = .returned (.slice (some ⟨R, 0, none⟩) (area * 256) (area * 256)) ∧ w.heap.size ≤ R ∧ Row w' R (rdS B C (2 + E % 2 * area) area) ∧ Below w.heap.size w w' := by
  have HF := Lib.hid (fun W => firstSector_bl E hE area ha W)
  generalize hf : 2 + E % 2 * area = f at *
  clear hf
  have HJ0 := Lib.hid hj
  have hb1 := bl_alloc (bl0 w) (.cells #[pt0 J] 26)
  have HRM := Lib.hid (room_j (hj.old (.cells #[pt0 J] 26)) ha)
  have hmk := run_make8 (w.alloc (.cells #[pt0 J] 26)) (area * 256) (by omega)
  have c0 : (w.alloc (.cells #[pt0 J] 26)).cell? ⟨w.heap.size, 0, none⟩ = some (pt0 J) := (Bk.new w [pt0 J] 26).cell rfl
  have hb2 := bl_alloc hb1 (.cells (cs8 (List.replicate (area * 256) 0)).toArray 5)
  have H01 := Lib.hid ((Bk.new w [pt0 J] 26).old (.cells (cs8 (List.replicate (area * 256) 0)).toArray 5))
  have HJ1 := Lib.hid (hj.keep hb2)
  have HL1 := Lib.hid (hl.keep hb2)
  have HD1 := Lib.hid (hd.old hb2)
  have HR1 : Hid (Row ((w.alloc (.cells #[pt0 J] 26)).alloc (.cells (cs8 (List.replicate (area * 256) 0)).toArray 5)) (w.heap.size + 1) (List.replicate (area * 256) 0)) := Lib.hid (by
    have := heap_alloc_new (w.alloc (.cells #[pt0 J] 26)) (.cells (cs8 (List.replicate (area * 256) 0)).toArray 5)
    rwa [show (w.alloc (.cells #[pt0 J] 26)).heap.size = w.heap.size + 1 from by simp] at this)
  have HB1 := Lib.hid hb2
  have HPL := Lib.hid (show p < w.heap.size ∧ s < w.heap.size ∧ m < w.heap.size ∧ J < w.heap.size from ⟨hd.plt, hd.slt, hd.mlt, hj.lt⟩)
  have HCC := Lib.hid hd.hC
  have hC16 := hd.h1
  have HBB := Lib.hid hd.hB
  rw [show (w.alloc (.cells #[pt0 J] 26)).heap.size = w.heap.size + 1 from by simp] at hmk
  clear hj hl hd hb1 hb2
  generalize hN : area * 256 = N at *
  have HN := Lib.hid hN
  clear hN
  refine (callsIn_wide (n := 8)).1 ?_
  refine callsIn_of_wp_marks Tryz.func61 rfl trivial ?_ rfl
  simp only [Tryz.ntmps61, List.size_toArray, List.length_cons, List.length_nil, Nat.reduceAdd, Nat.reduceSub, Array.replicate_succ, Array.replicate_zero, List.push_toArray, List.append_toArray, List.nil_append, List.cons_append]
  refine wpIn_wide.2 ?_
  generalize hZ : (cs8 (List.replicate N 0)).toArray = Z at *
  go_wp2_with (go_at_call 58; refine HRM.out.mono ?_; rintro e w' ⟨rfl, rfl⟩)
  clear hmk c0 HRM
  generalize hb0 : w.heap.size = b0 at *
  have HB0 := Lib.hid hb0
  clear hb0
  generalize (w.alloc (.cells #[pt0 J] 26)).alloc (.cells Z 5) = w1 at *
  clear hZ
  refine region_meetQ (fun a0 a' w' => ∃ q, a' = puts a0 [(11, pt0 J), (12, pt0 J), (13, .pointer (some ⟨J, 2, none⟩)), (14, pt0 L), (15, pt0 L), (16, pt0 L), (17, .int .u64 (E : Int)), (18, pt0 J), (19, pt0 J), (20, .pointer (some ⟨J, 1, none⟩)), (21, .int .i64 (area : Int)), (22, .int .i64 (f : Int)), (4, .pointer (some ⟨q, 0, none⟩))] ∧ Hid (w1.heap.size ≤ q) ∧ Hid (Bk w' q [.int .i64 (f : Int)]) ∧ Hid (Below w1.heap.size w1 w')) ?_ ?_
  · have hR := Sb.stays w1.heap.size
    refine reg_start (Sb w1.heap.size) follows_mixed ?_
    have H0 := Lib.hid H01.out.drew
    have HJ := Lib.hid HJ1.out.drew
    have HL := Lib.hid HL1.out.drew
    have Hlt := Lib.hid H01.out.lt
    have HltJ := Lib.hid HJ1.out.lt
    have HltL := Lib.hid HL1.out.lt
    have HB := Lib.hid (Below.refl w1.heap.size w1).drew
    generalize w1.drew = u0 at H0 HJ HL HB ⊢
    refine reg_take (v := pt0 J) hR 0 rfl (by kernel_rfl) (by kernel_rfl) (by kernel_rfl) (fun _ _ _ h => by cases h.1) (by rfl) ?_ ?_
    · intro W hW; exact exec_load_cell 26 _ rfl Tryz.isAgg26 rfl ((H0.out.below hW Hlt.out).cell rfl)
    try simp only [Act.put, List.getElem_toArray, List.getElem_cons_succ, List.getElem_cons_zero, List.setIfInBounds_toArray, List.set_cons_zero, List.set_cons_succ]
    refine reg_take (v := pt0 J) hR 1 rfl (by kernel_rfl) (by kernel_rfl) (by kernel_rfl) (fun _ _ _ h => by cases h.1) (by rfl) ?_ ?_
    · intro W hW; go_simp; try with_reducible rfl
    try simp only [Act.put, List.getElem_toArray, List.getElem_cons_succ, List.getElem_cons_zero, List.setIfInBounds_toArray, List.set_cons_zero, List.set_cons_succ]
    refine reg_take (v := .pointer (some ⟨J, 2, none⟩)) hR 2 rfl (by kernel_rfl) (by kernel_rfl) (by kernel_rfl) (fun _ _ _ h => by cases h.1) (by rfl) ?_ ?_
    · intro W hW; go_simp; try with_reducible rfl
    try simp only [Act.put, List.getElem_toArray, List.getElem_cons_succ, List.getElem_cons_zero, List.setIfInBounds_toArray, List.set_cons_zero, List.set_cons_succ]
    refine reg_take (v := pt0 L) hR 3 rfl (by kernel_rfl) (by kernel_rfl) (by kernel_rfl) (fun _ _ _ h => by cases h.1) (by rfl) ?_ ?_
    · intro W hW; exact exec_load_cell 81 _ rfl Tryz.isAgg81 rfl ((HJ.out.below hW HltJ.out).cell rfl)
    try simp only [Act.put, List.getElem_toArray, List.getElem_cons_succ, List.getElem_cons_zero, List.setIfInBounds_toArray, List.set_cons_zero, List.set_cons_succ]
    refine reg_take (v := pt0 L) hR 4 rfl (by kernel_rfl) (by kernel_rfl) (by kernel_rfl) (fun _ _ _ h => by cases h.1) (by rfl) ?_ ?_
    · intro W hW; go_simp; try with_reducible rfl
    try simp only [Act.put, List.getElem_toArray, List.getElem_cons_succ, List.getElem_cons_zero, List.setIfInBounds_toArray, List.set_cons_zero, List.set_cons_succ]
    refine reg_take (v := pt0 L) hR 5 rfl (by kernel_rfl) (by kernel_rfl) (by kernel_rfl) (fun _ _ _ h => by cases h.1) (by rfl) ?_ ?_
    · intro W hW; go_simp; try with_reducible rfl
    try simp only [Act.put, List.getElem_toArray, List.getElem_cons_succ, List.getElem_cons_zero, List.setIfInBounds_toArray, List.set_cons_zero, List.set_cons_succ]
    refine reg_take (v := .int .u64 (E : Int)) hR 6 rfl (by kernel_rfl) (by kernel_rfl) (by kernel_rfl) (fun _ _ _ h => by cases h.1) (by rfl) ?_ ?_
    · intro W hW; exact exec_load_cell 40 _ rfl Tryz.isAgg40 rfl ((HL.out.below hW HltL.out).cell rfl)
    try simp only [Act.put, List.getElem_toArray, List.getElem_cons_succ, List.getElem_cons_zero, List.setIfInBounds_toArray, List.set_cons_zero, List.set_cons_succ]
    refine reg_take (v := pt0 J) hR 7 rfl (by kernel_rfl) (by kernel_rfl) (by kernel_rfl) (fun _ _ _ h => by cases h.1) (by rfl) ?_ ?_
    · intro W hW; exact exec_load_cell 26 _ rfl Tryz.isAgg26 rfl ((H0.out.below hW Hlt.out).cell rfl)
    try simp only [Act.put, List.getElem_toArray, List.getElem_cons_succ, List.getElem_cons_zero, List.setIfInBounds_toArray, List.set_cons_zero, List.set_cons_succ]
    refine reg_take (v := pt0 J) hR 8 rfl (by kernel_rfl) (by kernel_rfl) (by kernel_rfl) (fun _ _ _ h => by cases h.1) (by rfl) ?_ ?_
    · intro W hW; go_simp; try with_reducible rfl
    try simp only [Act.put, List.getElem_toArray, List.getElem_cons_succ, List.getElem_cons_zero, List.setIfInBounds_toArray, List.set_cons_zero, List.set_cons_succ]
    refine reg_take (v := .pointer (some ⟨J, 1, none⟩)) hR 9 rfl (by kernel_rfl) (by kernel_rfl) (by kernel_rfl) (fun _ _ _ h => by cases h.1) (by rfl) ?_ ?_
    · intro W hW; go_simp; try with_reducible rfl
    try simp only [Act.put, List.getElem_toArray, List.getElem_cons_succ, List.getElem_cons_zero, List.setIfInBounds_toArray, List.set_cons_zero, List.set_cons_succ]
    refine reg_take (v := .int .i64 (area : Int)) hR 10 rfl (by kernel_rfl) (by kernel_rfl) (by kernel_rfl) (fun _ _ _ h => by cases h.1) (by rfl) ?_ ?_
    · intro W hW; exact exec_load_cell 3 _ rfl Tryz.isAgg3 rfl ((HJ.out.below hW HltJ.out).cell rfl)
    try simp only [Act.put, List.getElem_toArray, List.getElem_cons_succ, List.getElem_cons_zero, List.setIfInBounds_toArray, List.set_cons_zero, List.set_cons_succ]
    refine reg_fork (rs := [11, 12]) hR (by kernel_rfl) (by simp) ?_
    intro i hi; simp only [List.mem_cons, List.not_mem_nil, or_false] at hi
    rcases hi with rfl | rfl
    · refine ⟨_, rfl, fun K hK => ?_⟩
      try simp only [Act.put, List.getElem_toArray, List.getElem_cons_succ, List.getElem_cons_zero, List.setIfInBounds_toArray, List.set_cons_zero, List.set_cons_succ]
      rw [if_pos (by rfl)]
      go_simp
      refine (HF.out u0).mono ?_; rintro e u1 ⟨rfl, hb⟩
      refine hK.out _ _ (show Below _ _ _ from hb.mono HB.out.size) ?_
      clear hK K
      have HB := Lib.hid (HB.out.trans (hb.mono HB.out.size))
      clear hb
      try simp only [Act.put, List.getElem_toArray, List.getElem_cons_succ, List.getElem_cons_zero, List.setIfInBounds_toArray, List.set_cons_zero, List.set_cons_succ]
      refine reg_step hR 12 (by kernel_rfl) rfl fun K hK => ?_
      try simp only [Act.put, List.getElem_toArray, List.getElem_cons_succ, List.getElem_cons_zero, List.setIfInBounds_toArray, List.set_cons_zero, List.set_cons_succ]
      rw [if_pos (by rfl)]
      refine wp_alloc1 3 rfl (0) Tryz.zeroValue3 ?_
      refine hK.out _ _ ((Below.refl _ _).alloc HB.out.size _) ?_
      clear hK K
      have HGq := Lib.hid (Bk.new u1 [.int .i64 0] 3)
      have HTq := Lib.hid (show w1.heap.size ≤ u1.heap.size from HB.out.size)
      have HB := Lib.hid (HB.out.alloc HB.out.size (.cells [.int .i64 0].toArray 3))
      have HLq := Lib.hid (show u1.heap.size < (u1.alloc (.cells [.int .i64 0].toArray 3)).heap.size by simp)
      generalize hgw : u1.alloc (.cells [.int .i64 0].toArray 3) = u2 at HB HGq HLq ⊢
      clear hgw
      generalize hgw : u1.heap.size = q at HGq HTq HLq ⊢
      clear hgw
      try simp only [Act.put, List.getElem_toArray, List.getElem_cons_succ, List.getElem_cons_zero, List.setIfInBounds_toArray, List.set_cons_zero, List.set_cons_succ]
      refine reg_step hR 13 (by kernel_rfl) rfl fun K hK => ?_
      try simp only [Act.put, List.getElem_toArray, List.getElem_cons_succ, List.getElem_cons_zero, List.setIfInBounds_toArray, List.set_cons_zero, List.set_cons_succ]
      rw [if_pos (by rfl)]
      refine wp_store1 3 _ _ rfl q rfl ((f : Int)) (.int .i64 0) rfl HGq.out Tryz.sizeOf3 ?_
      refine hK.out _ _ (below_setRow (Below.refl _ _) HTq.out _) ?_
      clear hK K
      have HGq := Lib.hid (HGq.out.setRow ([.int .i64 (f : Int)] : List Value))
      have HB := Lib.hid (below_setRow HB.out HTq.out (([.int .i64 (f : Int)] : List Value)).toArray)
      generalize hgw : u2.setRow q (([.int .i64 (f : Int)] : List Value)).toArray = u3 at HB HGq ⊢
      clear hgw
      try simp only [Act.put, List.getElem_toArray, List.getElem_cons_succ, List.getElem_cons_zero, List.setIfInBounds_toArray, List.set_cons_zero, List.set_cons_succ]
      refine reg_done (by kernel_rfl) ?_ _
      refine ⟨rfl, q, ?_, HTq, HGq, HB⟩
      simp only [puts, List.foldl_cons, List.foldl_nil, Act.put, List.getElem_toArray, List.getElem_cons_succ, List.getElem_cons_zero, List.setIfInBounds_toArray, List.set_cons_zero, List.set_cons_succ]
    · refine ⟨_, rfl, fun K hK => ?_⟩
      try simp only [Act.put, List.getElem_toArray, List.getElem_cons_succ, List.getElem_cons_zero, List.setIfInBounds_toArray, List.set_cons_zero, List.set_cons_succ]
      rw [if_pos (by rfl)]
      refine wp_alloc1 3 rfl (0) Tryz.zeroValue3 ?_
      refine hK.out _ _ ((Below.refl _ _).alloc HB.out.size _) ?_
      clear hK K
      have HGq := Lib.hid (Bk.new u0 [.int .i64 0] 3)
      have HTq := Lib.hid (show w1.heap.size ≤ u0.heap.size from HB.out.size)
      have HB := Lib.hid (HB.out.alloc HB.out.size (.cells [.int .i64 0].toArray 3))
      have HLq := Lib.hid (show u0.heap.size < (u0.alloc (.cells [.int .i64 0].toArray 3)).heap.size by simp)
      generalize hgw : u0.alloc (.cells [.int .i64 0].toArray 3) = u1 at HB HGq HLq ⊢
      clear hgw
      generalize hgw : u0.heap.size = q at HGq HTq HLq ⊢
      clear hgw
      try simp only [Act.put, List.getElem_toArray, List.getElem_cons_succ, List.getElem_cons_zero, List.setIfInBounds_toArray, List.set_cons_zero, List.set_cons_succ]
      refine reg_step hR 11 (by kernel_rfl) rfl fun K hK => ?_
      try simp only [Act.put, List.getElem_toArray, List.getElem_cons_succ, List.getElem_cons_zero, List.setIfInBounds_toArray, List.set_cons_zero, List.set_cons_succ]
      rw [if_pos (by rfl)]
      go_simp
      refine (HF.out u1).mono ?_; rintro e u2 ⟨rfl, hb⟩
      refine hK.out _ _ (show Below _ _ _ from hb.mono HB.out.size) ?_
      clear hK K
      have HGq := Lib.hid (HGq.out.keep hb)
      have HB := Lib.hid (HB.out.trans (hb.mono HB.out.size))
      clear hb
      have HLq := Lib.hid (show q < u2.heap.size from HGq.out.lt)
      try simp only [Act.put, List.getElem_toArray, List.getElem_cons_succ, List.getElem_cons_zero, List.setIfInBounds_toArray, List.set_cons_zero, List.set_cons_succ]
      refine reg_step hR 13 (by kernel_rfl) rfl fun K hK => ?_
      try simp only [Act.put, List.getElem_toArray, List.getElem_cons_succ, List.getElem_cons_zero, List.setIfInBounds_toArray, List.set_cons_zero, List.set_cons_succ]
      rw [if_pos (by rfl)]
      refine wp_store1 3 _ _ rfl q rfl ((f : Int)) (.int .i64 0) rfl HGq.out Tryz.sizeOf3 ?_
      refine hK.out _ _ (below_setRow (Below.refl _ _) HTq.out _) ?_
      clear hK K
      have HGq := Lib.hid (HGq.out.setRow ([.int .i64 (f : Int)] : List Value))
      have HB := Lib.hid (below_setRow HB.out HTq.out (([.int .i64 (f : Int)] : List Value)).toArray)
      generalize hgw : u2.setRow q (([.int .i64 (f : Int)] : List Value)).toArray = u3 at HB HGq ⊢
      clear hgw
      try simp only [Act.put, List.getElem_toArray, List.getElem_cons_succ, List.getElem_cons_zero, List.setIfInBounds_toArray, List.set_cons_zero, List.set_cons_succ]
      refine reg_done (by kernel_rfl) ?_ _
      refine ⟨rfl, q, ?_, HTq, HGq, HB⟩
      simp only [puts, List.foldl_cons, List.foldl_nil, Act.put, List.getElem_toArray, List.getElem_cons_succ, List.getElem_cons_zero, List.setIfInBounds_toArray, List.set_cons_zero, List.set_cons_succ]
  · rintro a' w4 ⟨q, rfl, HTq, HGq, HBw⟩
    simp only [puts, List.foldl_cons, List.foldl_nil, Act.put, List.getElem_toArray, List.getElem_cons_succ, List.getElem_cons_zero, List.setIfInBounds_toArray, List.set_cons_zero, List.set_cons_succ]
    have hb0 := HB0.out
    subst hb0
    obtain ⟨ad, had⟩ : ∃ ad : Addr, ad = ⟨w.heap.size + 1, 0, none⟩ := ⟨_, rfl⟩
    have HAD := Lib.hid had
    clear had
    have hw1 := HR1.out.lt
    have HJ4 := Lib.hid (HJ1.out.keep HBw.out)
    have HD4 := Lib.hid (HD1.out.old HBw.out)
    have H04 := Lib.hid (H01.out.keep HBw.out)
    have HR4 : Hid (Row w4 (w.heap.size + 1) (List.replicate N 0)) := Lib.hid (HR1.out.of (HBw.out.block _ HR1.out.lt))
    have hb1 := HB1.out.size
    have HB4 := Lib.hid (HB1.out.trans (HBw.out.mono hb1))
    have hq := HTq.out
    clear HJ1 HD1 H01 HR1 HBw HL1 HB1 HTq
    go_wp2_with fail
    refine (chunk_call (some ⟨w.heap.size + 1, 0, none⟩) N N w4).mono ?_
    rintro e w5 ⟨rfl, rfl⟩
    have hbl := bl_alloc (bl_alloc (bl0 w4) (.cells #[.slice (some ⟨w.heap.size + 1, 0, none⟩) N N] 31)) (.cells #[.int .i64 256] 3)
    have HJ5 := Lib.hid (HJ4.out.keep hbl)
    have HD5 := Lib.hid (HD4.out.old hbl)
    have H05 := Lib.hid (H04.out.keep hbl)
    have HR5 : Hid (Row _ (w.heap.size + 1) (List.replicate N 0)) := Lib.hid (HR4.out.of (hbl.block _ HR4.out.lt))
    have HQ5 := Lib.hid (HGq.out.keep hbl)
    have HB5 := Lib.hid (HB4.out.trans (hbl.mono HB4.out.size))
    have HC1 := Lib.hid ((Bk.new w4 [.slice (some ⟨w.heap.size + 1, 0, none⟩) N N] 31).old (.cells #[.int .i64 256] 3))
    have HC2 : Hid (Bk ((w4.alloc (.cells #[.slice (some ⟨w.heap.size + 1, 0, none⟩) N N] 31)).alloc (.cells #[.int .i64 256] 3)) (w4.heap.size + 1) [.int .i64 256]) := Lib.hid (by
      have := Bk.new (w4.alloc (.cells #[.slice (some ⟨w.heap.size + 1, 0, none⟩) N N] 31)) [.int .i64 256] 3
      simpa using this)
    have HQW := Lib.hid (show w.heap.size + 1 < w4.heap.size from HR4.out.lt)
    have HGQ := Lib.hid HGq.out
    clear HJ4 HD4 H04 HR4 HGq HB4 hbl
    go_wp2_with fail
    generalize (w4.alloc (.cells #[.slice (some ⟨w.heap.size + 1, 0, none⟩) N N] 31)).alloc (.cells #[.int .i64 256] 3) = w5 at *
    refine (wpIn_wide (n := 8)).1 ?_
    refine range_chunk 5 (by omega) (b1 := w4.heap.size) (b2 := w4.heap.size + 1) (ad := ad) (q := area) (c := N) (by omega) (by rw [HN.out]; exact Nat.le_refl _) (by have := HN.out; omega) rfl (by rw [HN.out, HAD.out]; exact HC1.out) HC2.out
      (fun k W => Bk W q [.int .i64 ((f + k : Nat) : Int)] ∧ Row W (w.heap.size + 1) (rdS B C f k ++ List.replicate (N - k * 256) 0) ∧ Kp (fun x => x = q ∨ x = w.heap.size + 1) w5 W) ?_ ?_ ?assign ?body ?done
    · intro k W W' row ⟨h1, h2, h3⟩ hg hr
      have hn5 : ∀ x, x < w5.heap.size → row ≠ some x := fun x hx e => by have := (hr x e).1; omega
      refine ⟨h1.grow hg (hn5 q HQ5.out.lt), h2.of (hg.block _ h2.lt (fun e => hn5 _ HR5.out.lt e.symm)), ⟨hg.os.trans h3.os, hg.tape.trans h3.tape, hg.output.trans h3.output, Nat.le_trans h3.size hg.size, fun x hx hm => (hg.block x (Nat.lt_of_lt_of_le hx h3.size) (fun e => hn5 x hx e.symm)).trans (h3.block x hx hm)⟩⟩
    · exact ⟨HQ5.out, by simpa [rdS] using HR5.out, (Kp.stays _).refl _⟩
    case assign =>
      intro l k W K hK
      gi_wp2
      exact hK
    case body =>
      rintro l k W ⟨hk1, hk2, hk3⟩ hlt
      have hpl := HPL.out
      have hm1 : ∀ x, x < w.heap.size + 1 → ¬ (x = q ∨ x = w.heap.size + 1) := fun x hx e => by omega
      have HDW := Lib.hid (HD5.out.kp hk3 (hm1 p (by omega)) (hm1 s (by omega)) (hm1 m (by omega)))
      have c1 : W.cell? ⟨w.heap.size, 0, none⟩ = some (pt0 J) := (H05.out.kp hk3 (hm1 _ (by omega))).cell rfl
      have cJ : W.cell? ⟨J, 0, none⟩ = some (ptr p) := (HJ5.out.kp hk3 (hm1 _ (by omega))).cell rfl
      have cq : W.cell? ⟨q, 0, none⟩ = some (.int .i64 ((f + k : Nat) : Int)) := hk1.cell rfl
      have HQ := Lib.hid hk1
      have HR := Lib.hid hk2
      have HK := Lib.hid hk3
      have hfk : f + k < C.length := by omega
      have HRD := Lib.hid (read_ok HDW.out.drew (f + k) hfk)
      have hmix : Tryz.prog.follows .mixedOrders = true := follows_mixed
      clear hk1 hk2 hk3 hpl hm1
      gi_wp2
      gi_region_with_o ((refine ⟨trivial, ?_⟩; refine (CallsIn.inRound _ (callsIn_wide.2 HRD.out)).mono ?_; rintro e w7 ⟨rfl, hr7, hb7⟩; have HR7 := Lib.hid hr7; have HB7 := Lib.hid hb7; clear hr7 hb7))
      all_goals
        have hx := HR7.out.len
        have HRW7 := Lib.hid (HR.out.of (HB7.out.block _ HR.out.lt))
        have HQ7 := Lib.hid (HQ.out.drew.keep HB7.out)
        have hadd : ad.add (k * 256) = ⟨w.heap.size + 1, k * 256, none⟩ := by rw [HAD.out, Addr.add_mid, Nat.zero_add]
        have hcp := run_copy_row (P := Tryz.prog) w7 31 31 3 5 (w.heap.size + 1) (k * 256) 256 256 ⟨W.heap.size, 0, none⟩ 256 256 _ 5 (cs8 (look B C (f + k))) Tryz.underlying31 size5 HRW7.out (by rw [cs8_length, hx]; rfl) HR7.out.cells8 (by rw [cs8_length, hx, List.size_toArray, cs8_length, List.length_append, rdS_length HCC.out HBB.out f k (by omega), List.length_replicate]; have := HN.out; omega) (cs8_one _)
        rw [cs8_length, hx, fill_next HCC.out HBB.out hfk (by have := HN.out; omega), ← hadd] at hcp
        have HK7 := Lib.hid (show Kp (fun x => x = q ∨ x = w.heap.size + 1) W w7 from ⟨HB7.out.os, HB7.out.tape, HB7.out.output, HB7.out.size, fun i hi _ => HB7.out.block i hi⟩)
        clear hx hadd
        have hne : q ≠ w.heap.size + 1 := by omega
        have HQ8 := Lib.hid (HQ7.out.other hne (cs8 (rdS B C f (k + 1) ++ List.replicate (N - (k + 1) * 256) 0)).toArray)
        have HR8 : Hid (Row (w7.setRow (w.heap.size + 1) (cs8 (rdS B C f (k + 1) ++ List.replicate (N - (k + 1) * 256) 0)).toArray) (w.heap.size + 1) (rdS B C f (k + 1) ++ List.replicate (N - (k + 1) * 256) 0)) := Lib.hid (setRow_heap w7 (w.heap.size + 1) _ _ 5 (0, 0) HRW7.out)
        have HK8 := Lib.hid ((Kp.stays _).trans HK7.out (show Kp (fun x => x = q ∨ x = w.heap.size + 1) w7 _ from kp_setRow w7 (w.heap.size + 1) (cs8 (rdS B C f (k + 1) ++ List.replicate (N - (k + 1) * 256) 0)).toArray (.inr rfl)))
        generalize (cs8 (rdS B C f (k + 1) ++ List.replicate (N - (k + 1) * 256) 0)).toArray = Y at *
        have cq8 : (w7.setRow (w.heap.size + 1) Y).cell? ⟨q, 0, none⟩ = some (.int .i64 ((f + k : Nat) : Int)) := HQ8.out.cell rfl
        have fq8 : (w7.setRow (w.heap.size + 1) Y).frozen? ⟨q, 0, none⟩ = false := HQ8.out.frozen 0
        clear HQ7 HRW7 HR7 HB7 HK7 HRD c1 cJ cq
        gi_wp2
        have HK9 := Lib.hid ((Kp.stays _).trans HK8.out (show Kp (fun x => x = q ∨ x = w.heap.size + 1) _ _ from (Kp.of_only (Only.set (g := q) (w7.setRow (w.heap.size + 1) Y) 0 (.int .i64 ((f : Int) + (k : Int) + 1)))).mono (fun x e => .inl e)))
        refine ⟨keepsFrom_kp HK9.out (fun x e => ?_), ⟨HK9.out.block _ ?_ ?_, HK9.out.block _ ?_ ?_⟩, ?_, ?_, (Kp.stays _).trans HK.out HK9.out⟩
        · rcases e with rfl | rfl
          · exact HQ5.out.lt
          · exact HR5.out.lt
        · have := HC1.out.lt; have := HK.out.size; omega
        · rintro (e | e)
          · have := HGQ.out.lt; omega
          · have := HQW.out; omega
        · have := HC2.out.lt; have := HK.out.size; omega
        · rintro (e | e)
          · have := HGQ.out.lt; omega
          · have := HQW.out; omega
        · have := HQ8.out.setCell 0 (.int .i64 ((f : Int) + (k : Int) + 1))
          rw [show (f : Int) + ((k : Int) + 1) = (f : Int) + (k : Int) + 1 by omega]
          exact this
        · exact (set_other _ _ _ _ _ (Ne.symm hne)).trans HR8.out
    case done =>
      rintro D W hD ⟨hk1, hk2, hk3⟩ hDD
      have hR := hk2
      rw [show N - area * 256 = 0 by rw [HN.out]; omega, List.replicate_zero, List.append_nil] at hR
      have HR := Lib.hid hR
      have HKW := Lib.hid (show Below w.heap.size w W from HB5.out.trans ⟨hk3.os, hk3.tape, hk3.output, hk3.size, fun i hi => hk3.block i (by have := HB5.out.size; omega) (fun e => by omega)⟩)
      clear hk1 hk2 hk3 hR
      go_wp2
      refine ⟨by simp, .inl ⟨_, _, rfl, run_takeDeferred hDD, ?_⟩⟩
      have hg7 := grownBy_putObj' W D (.deferred none)
      have hRD : D ≠ w.heap.size + 1 := by have := HR5.out.lt; omega
      refine ⟨_, results_tmp rfl _ _ _, w.heap.size + 1, rfl, by omega, HR.out.of (hg7.block _ HR.out.lt (fun e => by injection e with e; omega)), ?_⟩
      exact HKW.out.trans ⟨hg7.os, hg7.tape, hg7.output, hg7.size, fun i hi => hg7.block i (by have := HKW.out.size; omega) (fun e => by injection e with e; have := HB5.out.size; omega)⟩
end
end Go.Proofs.YtgpfognglpfmoaaGreatDoor
end
section
/- A journal: padded, head. -/
namespace Go.Proofs.YtgpfognglpfmoaaGreatDoor
set_option maxRecDepth 8192
set_option linter.unusedSimpArgs false
set_option linter.unusedVariables false
open Go.RowKit

/-- Bytes with noughts behind them. -/
def pad (k : Nat) (l : List UInt8) : List UInt8 := l ++ List.replicate (k - l.length) 0
theorem pad_length {k : Nat} {l : List UInt8} (h : l.length ≤ k) : (pad k l).length = k := by rw [pad, List.length_append, List.length_replicate]; omega
/-- A head's bytes. -/
def headP (E a : Nat) : List UInt8 := OwordB E 8 ++ OwordB a 4
def headB (E a : Nat) : List UInt8 := pad 256 (headP E a ++ (sumS (headP E a)).take 8)
theorem headP_length (E a : Nat) : (headP E a).length = 12 := by simp [headP, OwordB]
theorem headT_length (E a : Nat) : (headP E a ++ (sumS (headP E a)).take 8).length = 20 := by rw [List.length_append, headP_length, List.length_take, sumS_length']; rfl
theorem headB_length (E a : Nat) : (headB E a).length = 256 := pad_length (by rw [headT_length]; omega)

/-- Bytes in a row of their own, of just this length. -/
def Rowed (w : World) (k : Nat) (l : List UInt8) (e : Ending) (w' : World) : Prop :=
  ∃ R, e = .returned (.slice (some ⟨R, 0, none⟩) k k) ∧ w.heap.size ≤ R ∧ Row w' R l ∧ Below w.heap.size w w'

set_option maxHeartbeats 800000 in
theorem padded_any {A : Option Addr} {n c : Nat} {l : List UInt8} (k : Nat) (w : World) (hr : Rd w w.heap.size A n c l) (hn : n ≤ k) (hk : k ≤ 65536) :
    Calls Tryz.prog 111 #[.slice A n c, .int .i64 (k : Int)] w (Rowed w k (pad k l)) := by
  have hl := hr.len
  have hmk := run_make8 w k (by omega)
  have hb := bl_alloc (bl0 w) (.cells (cs8 (List.replicate k 0)).toArray 5)
  have HN : Hid (Row (w.alloc (.cells (cs8 (List.replicate k 0)).toArray 5)) w.heap.size (List.replicate k 0)) := Lib.hid (heap_alloc_new w _)
  have HB := Lib.hid hb
  have hr1 := hr.below hb
  rcases Nat.eq_zero_or_pos n with h0 | h0
  · subst h0
    obtain rfl : l = [] := List.eq_nil_of_length_eq_zero hl
    have hc0 : ∀ d dLen dCap W, (Builtin.copy_ #[31, 31] 3 #[.slice d dLen dCap, .slice A 0 c]).run Tryz.prog W = .ok (goInt 0) W := fun d dLen dCap W =>
      run_copy_none W 31 31 3 5 d A dLen dCap 0 c Tryz.underlying31 size5 (by simp)
    have HP : Hid (pad k [] = List.replicate k 0) := Lib.hid (by simp [pad])
    clear hr hr1 hl hb
    generalize (cs8 (List.replicate k 0)).toArray = Z at *
    go_enter Tryz.func111, Tryz.ntmps111
    go_wp2
    go_ret
    refine ⟨w.heap.size, rfl, Nat.le_refl _, ?_, HB.out⟩
    rw [HP.out]
    exact HN.out
  · obtain ⟨ad, rfl, had, hcell⟩ := hr.2.2 h0
    have hcp := run_copy_row (P := Tryz.prog) (w.alloc (.cells (cs8 (List.replicate k 0)).toArray 5)) 31 31 3 5 w.heap.size 0 k k ad n c _ 5 (cs8 l) Tryz.underlying31 size5 HN.out (by rw [cs8_length, hl]; exact (Nat.min_eq_left hn).symm) hr1.cells8 (by rw [cs8_length, hl, List.size_toArray, cs8_length, List.length_replicate]; omega) (cs8_one l)
    have hnew : ((cs8 (List.replicate k (0 : UInt8))).toArray.toList.take 0 ++ cs8 l ++ (cs8 (List.replicate k (0 : UInt8))).toArray.toList.drop (0 + (cs8 l).length)).toArray = (cs8 (pad k l)).toArray := by
      congr 1
      rw [List.take_zero, List.nil_append, pad, cs8_append, List.toList_toArray, cs8_length, Nat.zero_add]
      congr 1
      rw [cs8, cs8, List.map_replicate, List.map_replicate, List.drop_replicate]
    rw [hnew, cs8_length, hl] at hcp
    have HR : Hid (Row ((w.alloc (.cells (cs8 (List.replicate k 0)).toArray 5)).setRow w.heap.size (cs8 (pad k l)).toArray) w.heap.size (pad k l)) := Lib.hid (setRow_heap _ w.heap.size _ _ 5 (0, 0) HN.out)
    have HB2 := Lib.hid (below_setRow hb (Nat.le_refl _) (cs8 (pad k l)).toArray)
    clear hr hr1 hl hb hcell hnew HN HB
    generalize (cs8 (pad k l)).toArray = Y at *
    generalize (cs8 (List.replicate k 0)).toArray = Z at *
    go_enter Tryz.func111, Tryz.ntmps111
    go_wp2
    go_ret
    exact ⟨w.heap.size, rfl, Nat.le_refl _, HR.out, HB2.out⟩

set_option maxHeartbeats 1600000 in
theorem head_any (E a : Nat) (hE : E ≤ 18446744073709551615) (ha : a ≤ 9223372036854775807) (w : World) :
    Calls Tryz.prog 112 #[.int .u64 (E : Int), .int .i64 (a : Int)] w (Rowed w 256 (headB E a)) := by
  have HU := Lib.hid (show [headP E a].flatten = headP E a by simp)
  have HPL := Lib.hid (headP_length E a)
  have HHB := Lib.hid (show headB E a = pad 256 (headP E a ++ (sumS (headP E a)).take 8) from rfl)
  have HTL := Lib.hid (headT_length E a)
  have HS := Lib.hid (show (cs8 (sumS (headP E a))).length = 32 by rw [cs8_length, sumS_length'])
  have HSL := Lib.hid (sumS_length' (headP E a))
  have HPP := Lib.hid (show headP E a = OwordB E 8 ++ OwordB a 4 from rfl)
  rw [HHB.out]
  clear HHB
  generalize headP E a = H at *
  generalize hS : sumS H = S at *
  have HSS := Lib.hid hS
  clear hS
  go_enter Tryz.func112, Tryz.ntmps112
  go_wp2_with fail
  refine (OWord_any (A := none) (k := 0) (c := 0) (l := []) (E : Int) 8 w (Rd.nil _ _ _ _) (by omega) (by omega) (by omega)).mono ?_; rintro e w1 ⟨v1, rfl, ho1, hb1⟩
  rw [show (min (max (8 : Int) 1) 8).toNat = 8 from rfl, List.nil_append, show ((E : Int)).toNat = E by omega] at ho1
  obtain ⟨A1, c1, rfl, hr1⟩ := ho1.rdN (n := 8) (by simp [OwordB])
  have HR1 := Lib.hid hr1
  have HB1 := Lib.hid hb1
  clear ho1 hb1 hr1
  go_wp2_with fail
  refine (OWord_any (a : Int) 4 w1 HR1.out (by omega) (by omega) (by omega)).mono ?_; rintro e w2 ⟨v2, rfl, ho2, hb2⟩
  rw [show (min (max (4 : Int) 1) 8).toNat = 4 from rfl, show ((a : Int)).toNat = a by omega, ← HPP.out] at ho2
  have HO2 := Lib.hid ho2
  have HB2 := Lib.hid (bl_call HB1.out hb2)
  have HS12 := Lib.hid hb2.size
  have HSZ := Lib.hid HB1.out.size
  clear hb2 HB1 HR1
  obtain ⟨A2, c2, rfl, hl2⟩ := ho2.sl HPL.out
  have HL2 := Lib.hid hl2
  clear ho2 hl2
  have HR3 := Lib.hid (Rl.of [H] [.slice A2 12 c2] rfl (fun j x hx => by
    rcases j with _ | j
    · simp only [List.getElem?_cons_zero, Option.some.injEq] at hx; subst hx; exact ⟨_, _, _, rfl, HL2.out⟩
    · simp at hx) 31)
  have HB3 := Lib.hid (bl_alloc HB2.out (.cells #[.slice A2 12 c2] 31))
  have HO3 := Lib.hid (HO2.out.alloc (.cells #[.slice A2 12 c2] 31))
  go_wp2_with fail
  refine (Sum_any _ HR3.out (by simp) (by rw [HU.out, HPL.out]; omega)).mono ?_; rintro e w4 ⟨rfl, hb4⟩
  rw [HU.out, HSS.out]
  have HO4 := Lib.hid (HO3.out.below hb4)
  have HB4 := Lib.hid (bl_call HB3.out hb4)
  have hs4 : w2.heap.size ≤ w4.heap.size := by have := hb4.size; rw [World.size_alloc] at this; omega
  clear hb4 HO3 HB3 HR3 HL2 HO2 HB2
  have HZ := Lib.hid (Bk.new w4 z36 59)
  have HQ := Lib.hid ((Bk.new w4 z36 59).setRow (cs8 S))
  have hb5 : Below w4.heap.size w4 ((w4.alloc (.cells z36.toArray 59)).setRow w4.heap.size (cs8 S).toArray) := bl_setRow (bl_alloc (bl0 w4) _) (Nat.le_refl _) _
  have HO5 := Lib.hid (HO4.out.below hb5)
  have HB5 := Lib.hid (bl_call HB4.out hb5)
  clear hb5
  have hq5 := HQ.out.lt
  have hRd : Rd ((w4.alloc (.cells z36.toArray 59)).setRow w4.heap.size (cs8 S).toArray) ((w4.alloc (.cells z36.toArray 59)).setRow w4.heap.size (cs8 S).toArray).heap.size (some ⟨w4.heap.size, 0, none⟩) 8 32 (S.take 8) := by
    obtain ⟨t, hq⟩ := HQ.out
    have := Rd.of_block (l := S) (top := ((w4.alloc (.cells z36.toArray 59)).setRow w4.heap.size (cs8 S).toArray).heap.size) hq hq5
    rw [HSL.out] at this
    exact this.take_ (by omega)
  have HRd := Lib.hid hRd
  clear hRd
  have h12 := HPL.out
  have hbs : w1.heap.size ≤ ((w4.alloc (.cells z36.toArray 59)).setRow w4.heap.size (cs8 S).toArray).heap.size := by have := HS12.out; omega
  go_wp2_with (first | (refine wpList_alloc_z rfl 59 rfl z36 zero36 ?_) | (refine wpList_store_bk rfl 59 _ _ rfl w4.heap.size rfl (cs8 S) z36 rfl HZ.out (by rw [HS.out]; exact info36) (by rw [HS.out]; exact len_z36) (cs8_all _) ?_) | (at_builtin; refine wpList_app (xs := H) (base := w1.heap.size) rfl _ _ rfl rfl HO5.out rfl HRd.out (by omega) hbs ?_; intro v6 w6 ho6 hg6 hv6; refine Hid.out ?_))
  refine Lib.hid ?_
  clear HZ HQ HO4 HB4
  obtain ⟨A6, c6, rfl, hr6⟩ := ho6.rdN HTL.out
  have HR6 := Lib.hid hr6
  have HB6 : Hid (Below w.heap.size w w6) := Lib.hid (HB5.out.trans ⟨hg6.os, hg6.tape, hg6.output, hg6.size, fun i hi => hg6.block i (by have := HB5.out.size; omega) (fun e => by have := (World.ownsRow.lt HO5.out i e.symm).1; have := HSZ.out; omega)⟩)
  clear ho6 hg6 hv6 hr6 HO5 HRd HB5
  go_wp2_with fail
  refine (padded_any 256 w6 HR6.out (by omega) (by omega)).mono ?_; rintro e w7 ⟨R, rfl, hR, hrow, hb7⟩
  have HB7 := Lib.hid (bl_call HB6.out hb7)
  have HRW := Lib.hid hrow
  have hs6 := HB6.out.size
  clear hb7 hrow
  go_wp2
  go_ret
  exact ⟨R, rfl, by omega, HRW.out, HB7.out⟩
end Go.Proofs.YtgpfognglpfmoaaGreatDoor
end

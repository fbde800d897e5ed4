/- Texts of this claim, one behind the other: Fm, Pa. -/
import Derived.Test.YtgpfognglpfmoaaGreatDoorZ13
import Derived.Test.YtgpfognglpfmoaaGreatDoorZ11
set_option linter.unusedSimpArgs false
set_option linter.unusedVariables false
section
/- Lists of records: are they few, are they the same. -/
namespace Go.Proofs.YtgpfognglpfmoaaGreatDoor
set_option maxRecDepth 100000
set_option linter.unusedSimpArgs false
set_option linter.unusedVariables false
open Go.RowKit

theorem cell2 {w : World} {ad : Addr} {v0 v1 : Value} {k : Nat} (c0 : w.cell? (ad.add k) = some v0) (c1 : w.cell? ⟨(ad.add k).block, (ad.add k).off + 1, none⟩ = some v1) : ∀ j v, ([v0, v1] : List Value)[j]? = some v → w.cell? ((ad.add k).add j) = some v := by
  intro j v hv
  have hn : (ad.add k).add 1 = ⟨(ad.add k).block, (ad.add k).off + 1, none⟩ := by generalize ad.add k = b; unfold Addr.add; simp
  rcases j with _ | _ | j
  · obtain rfl : v0 = v := by simpa using hv
    rw [add_add]
    exact c0
  · obtain rfl : v1 = v := by simpa using hv
    rw [hn]
    exact c1
  · simp at hv
theorem cell_lt {w : World} {ad : Addr} {v : Value} (h : w.cell? (ad.add 0) = some v) : ad.block < w.heap.size := by
  have := World.block_lt_of_cell? w _ h
  rwa [add_block] at this
theorem cells_keep {w w' : World} {ad : Addr} {cs : List Value} (h : ∀ j v, cs[j]? = some v → w.cell? (ad.add j) = some v) (hl : ad.block < w.heap.size) (hb : Below w.heap.size w w') : ∀ j v, cs[j]? = some v → w'.cell? (ad.add j) = some v :=
  fun j v hv => (hb.cell (by rw [add_block]; exact hl)).trans (h j v hv)
/-- Are lists of records, alone, the same. -/
theorem take_same {l l2 : List Rv} {i : Nat} {x y : Rv} (h : (l.take i).map Rv.r = (l2.take i).map Rv.r) (hx : l[i]? = some x) (hy : l2[i]? = some y) (he : x.k = y.k ∧ x.d = y.d) : (l.take (i + 1)).map Rv.r = (l2.take (i + 1)).map Rv.r := by
  rw [List.take_add_one, List.take_add_one, hx, hy, List.map_append, List.map_append, h]
  congr 1
  simp [Rv.r, he.1, he.2]
set_option maxHeartbeats 1600000 in
theorem Records_any (w : World) {n c n2 c2 : Nat} {A A2 : Option Addr} {l l2 : List Rv} (h : Rs w w.heap.size A n c l) (h2 : Rs w w.heap.size A2 n2 c2 l2) (hn4 : n ≤ 1073741824) :
    Calls Tryz.prog 32 #[.slice A n c, .slice A2 n2 c2] w fun e w' => e = .returned (.bool (decide (l.map Rv.r = l2.map Rv.r))) ∧ Below w.heap.size w w' := by
  have HA := Lib.hid h
  have HA2 := Lib.hid h2
  have hlen := Lib.hid h.1
  have hlen2 := Lib.hid h2.1
  clear h h2
  by_cases hn : n = n2
  · subst hn
    go_enter Tryz.func32, Tryz.ntmps32
    go_wp2
    go_loopw [5] (fun v wr => ∃ i : Nat, i ≤ n ∧ v = .int .i64 (i : Int) ∧ Hid ((l.take i).map Rv.r = (l2.take i).map Rv.r) ∧ Hid (Below w.heap.size w wr)) (fun v _ => n - (RowKit.intOf v).toNat)
    case atStart => exact ⟨0, by omega, rfl, Lib.hid (by simp), Lib.hid (bl0 w)⟩
    case round =>
      obtain ⟨i, hin, rfl, HF, HB⟩ := hrel
      have hL := hlen.out
      have hL2 := hlen2.out
      by_cases hlt : i < n
      · obtain ⟨ad, x, rfl, hx, hm, ho, c0, c1⟩ := (HA.out.lift HB.out).at_ hlt
        obtain ⟨ad2, x2, rfl, hx2, hm2, ho2, d0, d1⟩ := (HA2.out.lift HB.out).at_ hlt
        have HX := Lib.hid hx
        have HM := Lib.hid hm
        have HO := Lib.hid ho
        have HX2 := Lib.hid hx2
        have HM2 := Lib.hid hm2
        have HO2 := Lib.hid ho2
        have HQ1 := Lib.hid (cell2 c0 c1)
        have HQ2 := Lib.hid (cell2 d0 d1)
        clear hx hm ho hx2 hm2 ho2 c0 c1 d0 d1
        go_wp2
        have hR := Old.stays
        refine reg_start Old follows_mixed ?_
        have HQ1' := Lib.hid (show ∀ j v, ([.int .u8 (x.k.toNat : Int), .slice x.A x.d.length x.c] : List Value)[j]? = some v → wr.drew.cell? ((ad.add (i * 2)).add j) = some v from HQ1.out)
        have HQ2' := Lib.hid (show ∀ j v, ([.int .u8 (x2.k.toNat : Int), .slice x2.A x2.d.length x2.c] : List Value)[j]? = some v → wr.drew.cell? ((ad2.add (i * 2)).add j) = some v from HQ2.out)
        have HBD := Lib.hid (bl_call HB.out (Below.refl _ wr).drew)
        have HO' := Lib.hid (Rv.ok.below HO.out (Below.refl _ wr).drew)
        have HO2' := Lib.hid (Rv.ok.below HO2.out (Below.refl _ wr).drew)
        have HT1 := Lib.hid (show (ad.add (i * 2)).block < wr.drew.heap.size from cell_lt (HQ1.out 0 _ rfl))
        have HT2 := Lib.hid (show (ad2.add (i * 2)).block < wr.drew.heap.size from cell_lt (HQ2.out 0 _ rfl))
        clear HQ1 HQ2 HO HO2
        have hsz : wr.drew.heap.size = wr.heap.size := rfl
        rw [← hsz] at HO' HO2'
        generalize wr.drew = w1 at HQ1' HQ2' HBD HO' HO2' HT1 HT2 hsz ⊢
        refine reg_take (v := .slice (some ad) n c) hR 0 rfl (by kernel_rfl) (by kernel_rfl) (by kernel_rfl) (fun _ _ _ h => h) (by rfl) ?_ ?_
        · intro W hW; go_simp; try with_reducible rfl
        try simp only [Act.put, List.getElem_toArray, List.getElem_cons_succ, List.getElem_cons_zero, List.setIfInBounds_toArray, List.set_cons_zero, List.set_cons_succ]
        refine reg_take (v := .int .i64 (i : Int)) hR 1 rfl (by kernel_rfl) (by kernel_rfl) (by kernel_rfl) (fun _ _ _ h => h) (by rfl) ?_ ?_
        · intro W hW; go_simp; try with_reducible rfl
        try simp only [Act.put, List.getElem_toArray, List.getElem_cons_succ, List.getElem_cons_zero, List.setIfInBounds_toArray, List.set_cons_zero, List.set_cons_succ]
        refine reg_take (v := .pointer (some (ad.add (i * 2)))) hR 2 rfl (by kernel_rfl) (by kernel_rfl) (by kernel_rfl) (fun _ _ _ h => h) (by rfl) ?_ ?_
        · intro W hW; go_simp; try with_reducible rfl
        try simp only [Act.put, List.getElem_toArray, List.getElem_cons_succ, List.getElem_cons_zero, List.setIfInBounds_toArray, List.set_cons_zero, List.set_cons_succ]
        refine reg_take (v := .agg #[.int .u8 (x.k.toNat : Int), .slice x.A x.d.length x.c]) hR 3 rfl (by kernel_rfl) (by kernel_rfl) (by kernel_rfl) (fun _ _ _ h => h) (by rfl) ?_ ?_
        · intro W hW; exact exec_load_at 33 _ rfl (ad.add (i * 2)) rfl [.int .u8 (x.k.toNat : Int), .slice x.A x.d.length x.c] _ (cells_keep HQ1'.out HT1.out hW) Tryz.underlying33 rfl info31
        try simp only [Act.put, List.getElem_toArray, List.getElem_cons_succ, List.getElem_cons_zero, List.setIfInBounds_toArray, List.set_cons_zero, List.set_cons_succ]
        refine reg_take (v := .slice (some ad2) n c2) hR 4 rfl (by kernel_rfl) (by kernel_rfl) (by kernel_rfl) (fun _ _ _ h => h) (by rfl) ?_ ?_
        · intro W hW; go_simp; try with_reducible rfl
        try simp only [Act.put, List.getElem_toArray, List.getElem_cons_succ, List.getElem_cons_zero, List.setIfInBounds_toArray, List.set_cons_zero, List.set_cons_succ]
        refine reg_take (v := .int .i64 (i : Int)) hR 5 rfl (by kernel_rfl) (by kernel_rfl) (by kernel_rfl) (fun _ _ _ h => h) (by rfl) ?_ ?_
        · intro W hW; go_simp; try with_reducible rfl
        try simp only [Act.put, List.getElem_toArray, List.getElem_cons_succ, List.getElem_cons_zero, List.setIfInBounds_toArray, List.set_cons_zero, List.set_cons_succ]
        refine reg_take (v := .pointer (some (ad2.add (i * 2)))) hR 6 rfl (by kernel_rfl) (by kernel_rfl) (by kernel_rfl) (fun _ _ _ h => h) (by rfl) ?_ ?_
        · intro W hW; go_simp; try with_reducible rfl
        try simp only [Act.put, List.getElem_toArray, List.getElem_cons_succ, List.getElem_cons_zero, List.setIfInBounds_toArray, List.set_cons_zero, List.set_cons_succ]
        refine reg_take (v := .agg #[.int .u8 (x2.k.toNat : Int), .slice x2.A x2.d.length x2.c]) hR 7 rfl (by kernel_rfl) (by kernel_rfl) (by kernel_rfl) (fun _ _ _ h => h) (by rfl) ?_ ?_
        · intro W hW; exact exec_load_at 33 _ rfl (ad2.add (i * 2)) rfl [.int .u8 (x2.k.toNat : Int), .slice x2.A x2.d.length x2.c] _ (cells_keep HQ2'.out HT2.out hW) Tryz.underlying33 rfl info31
        try simp only [Act.put, List.getElem_toArray, List.getElem_cons_succ, List.getElem_cons_zero, List.setIfInBounds_toArray, List.set_cons_zero, List.set_cons_succ]
        by_cases he : x.k = x2.k ∧ x.d = x2.d
        · have HE := Lib.hid he
          clear he
          refine reg_step hR 8 (by kernel_rfl) rfl fun K hK => ?_
          try simp only [Act.put, List.getElem_toArray, List.getElem_cons_succ, List.getElem_cons_zero, List.setIfInBounds_toArray, List.set_cons_zero, List.set_cons_succ]
          go_simp
          refine (Rec_yes w1 HO'.out HO2'.out HE.out).mono ?_; rintro e w2 ⟨rfl, hb⟩
          refine hK.out _ _ hb ?_
          have HB2 := Lib.hid (bl_call HBD.out hb)
          clear hb
          clear hK K
          try simp only [Act.put, List.getElem_toArray, List.getElem_cons_succ, List.getElem_cons_zero, List.setIfInBounds_toArray, List.set_cons_zero, List.set_cons_succ]
          refine reg_take (v := .bool false) hR 9 rfl (by kernel_rfl) (by kernel_rfl) (by kernel_rfl) (fun _ _ _ h => h) (by rfl) ?_ ?_
          · intro W hW; go_simp; try with_reducible rfl
          try simp only [Act.put, List.getElem_toArray, List.getElem_cons_succ, List.getElem_cons_zero, List.setIfInBounds_toArray, List.set_cons_zero, List.set_cons_succ]
          refine reg_done (by kernel_rfl) ?_ _
          go_wp2
          go_roundw
          case rel => exact ⟨i + 1, by omega, by go_num, Lib.hid (take_same HF.out HX.out HX2.out HE.out), HB2⟩
          case measure => simp [RowKit.intOf]; omega
        · have HE := Lib.hid he
          clear he
          refine reg_step hR 8 (by kernel_rfl) rfl fun K hK => ?_
          try simp only [Act.put, List.getElem_toArray, List.getElem_cons_succ, List.getElem_cons_zero, List.setIfInBounds_toArray, List.set_cons_zero, List.set_cons_succ]
          go_simp
          refine (Rec_no w1 HO'.out HO2'.out HE.out).mono ?_; rintro e w2 ⟨rfl, hb⟩
          refine hK.out _ _ hb ?_
          have HB2 := Lib.hid (bl_call HBD.out hb)
          clear hb
          clear hK K
          try simp only [Act.put, List.getElem_toArray, List.getElem_cons_succ, List.getElem_cons_zero, List.setIfInBounds_toArray, List.set_cons_zero, List.set_cons_succ]
          refine reg_take (v := .bool true) hR 9 rfl (by kernel_rfl) (by kernel_rfl) (by kernel_rfl) (fun _ _ _ h => h) (by rfl) ?_ ?_
          · intro W hW; go_simp; try with_reducible rfl
          try simp only [Act.put, List.getElem_toArray, List.getElem_cons_succ, List.getElem_cons_zero, List.setIfInBounds_toArray, List.set_cons_zero, List.set_cons_succ]
          refine reg_done (by kernel_rfl) ?_ _
          go_wp2
          go_ret
          refine ⟨?_, HB2.out⟩
          rw [show decide (l.map Rv.r = l2.map Rv.r) = false from decide_eq_false (fun h => HE.out (by
            have h3 := congrArg (fun t => t[i]?) h
            simp only [List.getElem?_map, HX.out, HX2.out, Option.map_some] at h3
            have h4 := Option.some.inj h3
            exact ⟨congrArg Prod.fst h4, congrArg Prod.snd h4⟩))]
          rfl
      · obtain rfl : i = n := by omega
        go_wp2
        go_ret
        refine ⟨?_, HB.out⟩
        have hf := HF.out
        rw [List.take_of_length_le (by omega), List.take_of_length_le (by omega)] at hf
        rw [show decide (l.map Rv.r = l2.map Rv.r) = true from decide_eq_true hf]; rfl
  · go_enter Tryz.func32, Tryz.ntmps32
    go_wp2
    go_ret
    exact ⟨by rw [show decide (l.map Rv.r = l2.map Rv.r) = false from decide_eq_false (fun h => hn (by have := congrArg List.length h; rw [List.length_map, List.length_map] at this; have := hlen.out; have := hlen2.out; omega))]; rfl, bl0 w⟩
end Go.Proofs.YtgpfognglpfmoaaGreatDoor
end
section
/- Regions that draw their order: what they leave, told as what they put; calls whose answers are told in one form. -/
namespace Go.Proofs.YtgpfognglpfmoaaGreatDoor
set_option maxRecDepth 100000
set_option linter.unusedSimpArgs false
set_option linter.unusedVariables false
open Go.RowKit

section
variable {P : Program} {ops : Array Oper} {Q : Exit → Act → World → Prop} {R : World → World → Prop}
/-- Some are ready: each way. -/
theorem reg_fork (hR : Stays R) {rs : List Nat} {fuel : Nat} {listed : Array Bool} {a : Act} {w : World} (hr : Region.ready .any ops listed = rs) (hne : rs ≠ [])
    (h : ∀ i, i ∈ rs → ∃ o, ops[i]? = some o ∧ ∀ K : Act → World → Prop, Shut (∀ a' w', R w w' → wpAnyH P .any ops Q (R w') fuel (listed.setIfInBounds i true) a' w' → K a' w') →
      if Region.wanted o (yielded ops a.tmps) = true then Oper.wp P o a w K Q else K (a.put o.dst undef) w) : wpAnyH P .any ops Q (R w) (fuel + 1) listed a w := by
  refine wpAnyH_all hr hne fun j hj => ?_
  obtain ⟨o, ho, h1⟩ := h j hj
  have h1 := h1 (fun a' w' => R w w' ∧ wpAnyH P .any ops Q (R w) fuel (listed.setIfInBounds j true) a' w') (fun a' w' hw hh => ⟨hw, held_weaken (fun W hW => hR.trans hw hW) _ _ _ _ hh⟩)
  unfold wpOp
  simp only [ho]
  split
  · rename_i hw; rw [if_pos hw] at h1; exact .inl h1
  · rename_i hw; rw [if_neg hw] at h1; exact h1
/-- Values put, one after another. -/
def puts (a : Act) (l : List (Nat × Value)) : Act := l.foldl (fun a x => a.put (some x.1) x.2) a
theorem region_meetQ {c : Code} {a : Act} {w : World} (S : Act → Act → World → Prop) (h1 : c.wp P (fun e a' w' => e = .normal ∧ S a a' w') a w) (h2 : ∀ a' w', S a a' w' → Q .normal a' w') : c.wp P Q a w :=
  Code.wp_mono (by rintro e a' w' ⟨rfl, h⟩; exact h2 a' w' h) h1
end

/-- Block g is none of the records'. -/
def Off (g top : Nat) (A : Option Addr) (l : List Rv) : Prop := (∀ ad, A = some ad → ad.block < top → g ≠ ad.block) ∧ ∀ x ∈ l, ∀ ad, x.A = some ad → ad.block < top → g ≠ ad.block
theorem Off.new {g top : Nat} {A : Option Addr} {l : List Rv} (h : top ≤ g) : Off g top A l := ⟨fun ad _ h1 => by omega, fun x _ ad _ h1 => by omega⟩
theorem RsNew.off {g top base : Nat} {A : Option Addr} {l : List Rv} (h : RsNew base A l) (hg : g < base) : Off g top A l := ⟨fun ad e _ => by have := h.1 ad e; omega, fun x hx ad e _ => by have := h.2 x hx ad e; omega⟩
/-- Records, where a block is written that is none of theirs. -/
theorem Rs.grown {w w' : World} {top n c : Nat} {A : Option Addr} {l : List Rv} {g : Nat} (h : Rs w top A n c l) (ht : top ≤ w.heap.size) (hg : w.grownBy w' (some g)) (hf : Off g top A l) : Rs w' top A n c l := by
  have hb : ∀ b, b < top → g ≠ b → w'.heap[b]? = w.heap[b]? := fun b h1 h2 => hg.block b (by omega) (fun e => by injection e with e; exact h2 e.symm)
  refine ⟨h.1, h.2.1, fun x hx => ?_, fun hn => ?_⟩
  · have hx1 := h.2.2.1 x hx
    refine ⟨hx1.1, hx1.2.1, fun hd => ?_⟩
    obtain ⟨ad, e, ht, hc⟩ := hx1.2.2 hd
    exact ⟨ad, e, ht, fun j u hu => (World.cell?_of_block (by rw [add_block]; exact hb _ ht (hf.2 x hx ad e ht))).trans (hc j u hu)⟩
  · obtain ⟨ad, e, ht, hc⟩ := h.2.2.2 hn
    exact ⟨ad, e, ht, fun j x hx i v hv => (World.cell?_of_block (by rw [add_block]; exact hb _ ht (hf.1 ad e ht))).trans (hc j x hx i v hv)⟩
/-- The records from the k-th on. -/
def rest2 (A : Option Addr) (c k : Nat) : Option Addr := if c = k then A else A.map (·.add (k * 2))
theorem Rs.drop_ {w : World} {top n c : Nat} {A : Option Addr} {l : List Rv} (h : Rs w top A n c l) {k : Nat} (hk : k ≤ n) : Rs w top (rest2 A c k) (n - k) (c - k) (l.drop k) := by
  refine ⟨by rw [List.length_drop, h.1], by have := h.2.1; omega, fun x hx => h.2.2.1 x (List.mem_of_mem_drop hx), fun hn => ?_⟩
  obtain ⟨ad, rfl, hb, hcell⟩ := h.2.2.2 (by omega)
  have := h.2.1
  refine ⟨ad.add (k * 2), by rw [rest2, if_neg (by omega)]; rfl, by rw [add_block]; exact hb, fun j x hx i v hv => ?_⟩
  rw [List.getElem?_drop] at hx
  have := hcell (k + j) x hx i v hv
  rw [add_add]
  rwa [show k * 2 + (j * 2 + i) = (k + j) * 2 + i by omega]
theorem Rs.take_ {w : World} {top n c : Nat} {A : Option Addr} {l : List Rv} (h : Rs w top A n c l) {k : Nat} (hk : k ≤ n) : Rs w top A k c (l.take k) := by
  refine ⟨by rw [List.length_take, h.1]; omega, by have := h.2.1; omega, fun x hx => h.2.2.1 x (List.mem_of_mem_take hx), fun hn => ?_⟩
  obtain ⟨ad, rfl, hb, hcell⟩ := h.2.2.2 (by omega)
  refine ⟨ad, rfl, hb, fun j x hx i v hv => hcell j x ?_ i v hv⟩
  rw [List.getElem?_take] at hx
  split at hx
  · exact hx
  · cases hx
theorem exec_slice39_lo {o : Oper} {a : Act} {w : World} (x y : Operand) (ho : o.op = .slice 37 x (some y) none none) {A : Option Addr} {n c k : Nat} {i : Int} (hx : a.eval x = .slice A n c) (hy : a.eval y = .int .i64 i) (hk : k ≤ n) (hi : i = k) :
    (execOp a.eval o).run Tryz.prog w = .ok (.value (.slice (rest2 A c k) (n - k) (c - k))) w := by
  subst hi
  have h1 : (k : Int) ≤ (n : Int) := by omega
  unfold execOp
  simp only [ho, hx, hy, Option.map_some, Option.map_none]
  simp [Instr.sliceAt, Instr.slice, run_underlying Tryz.underlying37, Instr.sliceBounds, run_sliceBound, h1, Tryz.sizeOf33, rest2, go_sem]
theorem exec_slice39_hi {o : Oper} {a : Act} {w : World} (x y : Operand) (ho : o.op = .slice 37 x none (some y) none) {A : Option Addr} {n c h : Nat} {i : Int} (hx : a.eval x = .slice A n c) (hy : a.eval y = .int .i64 i) (hh : h ≤ c) (hi : i = h) :
    (execOp a.eval o).run Tryz.prog w = .ok (.value (.slice A h c)) w := by
  subst hi
  have h1 : (h : Int) ≤ (c : Int) := by omega
  unfold execOp
  simp only [ho, hx, hy, Option.map_some, Option.map_none]
  simp [Instr.sliceAt, Instr.slice, run_underlying Tryz.underlying37, Instr.sliceBounds, run_sliceBound, h1, Tryz.sizeOf33, go_sem]
theorem wpList_exec {ops : Array Oper} {rest : List Oper} {op : Oper} {a : Act} {w : World} {Q : Exit → Act → World → Prop} (hgd : op.guard = none) (v : Value) (hx : (execOp a.eval op).run Tryz.prog w = .ok (.value v) w)
    (h : wpList Tryz.prog ops Q rest (a.put op.dst v) w) : wpList Tryz.prog ops Q (op :: rest) a w :=
  wpList_plain hgd fun _ hK => by
    unfold Oper.wp
    rw [hx]
    exact hK _ _ h

theorem Records_yes (w : World) {n c n2 c2 : Nat} {A A2 : Option Addr} {l l2 : List Rv} (h : Rs w w.heap.size A n c l) (h2 : Rs w w.heap.size A2 n2 c2 l2) (hn4 : n ≤ 1073741824) (he : l.map Rv.r = l2.map Rv.r) :
    Calls Tryz.prog 32 #[.slice A n c, .slice A2 n2 c2] w fun e w' => e = .returned (.bool true) ∧ Below w.heap.size w w' := by
  refine (Records_any w h h2 hn4).mono ?_
  rintro e w' ⟨rfl, hb⟩
  rw [decide_eq_true he]
  exact ⟨rfl, hb⟩
theorem recsB_take (C : List UInt8) (rs : List (UInt8 × List UInt8)) (i : Nat) : recsB C rs = recsB C (rs.take i) ++ recsB (endR C (rs.take i)) (rs.drop i) := by
  rw [← recsB_append, List.take_append_drop]
theorem endR_take (C : List UInt8) (rs : List (UInt8 × List UInt8)) (i : Nat) : endR C rs = endR (endR C (rs.take i)) (rs.drop i) := by
  rw [← endR_append, List.take_append_drop]
theorem rs_at {rs : List (UInt8 × List UInt8)} {i : Nat} (h : i < rs.length) : rs.drop i = rs[i] :: rs.drop (i + 1) := List.drop_eq_getElem_cons h
theorem recs_step (C : List UInt8) (rs : List (UInt8 × List UInt8)) (i : Nat) (h : i < rs.length) :
    recsB C (rs.take (i + 1)) = recsB C (rs.take i) ++ recB (endR C (rs.take i)) rs[i].1 rs[i].2 ∧ endR C (rs.take (i + 1)) = nextR (endR C (rs.take i)) rs[i].1 rs[i].2 := by
  have ht : rs.take (i + 1) = rs.take i ++ [rs[i]] := by rw [List.take_add_one, List.getElem?_eq_getElem h]; rfl
  rw [ht, recsB_append, endR_append]
  exact ⟨by simp [recsB], by simp [endR]⟩
end Go.Proofs.YtgpfognglpfmoaaGreatDoor
end

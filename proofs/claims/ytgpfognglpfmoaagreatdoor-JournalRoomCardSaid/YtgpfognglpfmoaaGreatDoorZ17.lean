/- A log: add. -/
import Derived.Test.YtgpfognglpfmoaaGreatDoorZ16
set_option linter.unusedSimpArgs false
set_option linter.unusedVariables false
namespace Go.Proofs.YtgpfognglpfmoaaGreatDoor
set_option maxRecDepth 8192
set_option linter.unusedSimpArgs false
set_option linter.unusedVariables false
open Go.RowKit

section
variable {w w' : World} {base g E : Nat} {rs : List (UInt8 × List UInt8)} {v : Value}
set_option maxHeartbeats 3200000 in
theorem add_any (h : Lg w base g E rs v) {A : Option Addr} {n c : Nat} (k : UInt8) (d : List UInt8) (hr : Rd w w.heap.size A n c d) (hv : Vr k d) (hl : (recsB (fstC E) rs).length ≤ 1048576) (hb : base ≤ w.heap.size) :
    Calls Tryz.prog 50 #[pt0 g, .agg #[.int .u8 (k.toNat : Int), .slice A n c]] w fun e w' => e = .returned (.tuple #[]) ∧ Same_ w base g E (rs ++ [(k, d)]) v w' := by
  obtain ⟨lr, hbk⟩ := h.bk
  have hS := endR_len E rs
  have HS8 := Lib.hid (show (cs8 (endR (fstC E) rs)).length = 32 by rw [cs8_length, hS])
  have hd := hr.len
  have hd2 := hv.2
  have HBY := Lib.hid (fun (W : World) (h : Rd W W.heap.size A n c d) => Bytes_good W hS h hv.1 (by omega))
  have HS28 := Lib.hid (show (cs8 (nextR (endR (fstC E) rs) k d)).length = 32 by rw [cs8_length, nextR_length])
  have HR2 := Lib.hid (show recsB (fstC E) (rs ++ [(k, d)]) = recsB (fstC E) rs ++ recB (endR (fstC E) rs) k d by rw [recsB_append]; simp [recsB])
  have HE2 := Lib.hid (show endR (fstC E) (rs ++ [(k, d)]) = nextR (endR (fstC E) rs) k d by rw [endR_append]; rfl)
  have hrl : (recB (endR (fstC E) rs) k d).length ≤ 8210 := by
    rw [recB_length]
    have := numSize_bd d.length
    omega
  have hr0 : 1 ≤ (recB (endR (fstC E) rs) k d).length := by rw [recB_length]; omega
  have HH := Lib.hid h
  have hb1 := bl_alloc (bl0 w) (.cells #[.int .u8 (k.toNat : Int), .slice A n c] 33)
  have HB1 := Lib.hid hb1
  have HG1 := Lib.hid (hbk.old (.cells #[.int .u8 (k.toNat : Int), .slice A n c] 33))
  have HX1 := Lib.hid (Bk.new w [.int .u8 (k.toNat : Int), .slice A n c] 33)
  have HR1 := Lib.hid (hr.top hb1)
  have hgl := h.lt
  clear h hr hbk hb1
  generalize hSS : endR (fstC E) rs = S at *
  generalize hS2 : nextR S k d = S2 at *
  generalize hRR : recB S k d = R2 at *
  have HSS := Lib.hid hSS
  clear hSS hS2 hRR
  go_enter Tryz.func50, Tryz.ntmps50
  go_wp2_with fail
  generalize hb3 : w.heap.size = b3 at *
  have HB3 := Lib.hid hb3
  have Hlt3 := Lib.hid HX1.out.lt
  have Hltg := Lib.hid HG1.out.lt
  have hb3g : g < b3 := by omega
  clear hb3
  generalize w.alloc (.cells #[.int .u8 (k.toNat : Int), .slice A n c] 33) = w1 at *
  refine region_meetQ (fun a0 a' w' => ∃ q v2, a' = puts a0 [(8, pt0 g), (9, .pointer (some ⟨g, 0, none⟩)), (10, .pointer (some ⟨g, 5, none⟩)), (11, .agg (cs8 S).toArray), (12, .agg #[.int .u8 (k.toNat : Int), .slice A n c]), (13, .tuple #[v2, .agg (cs8 S2).toArray, .int .i64 0]), (7, .tuple #[v2, .agg (cs8 S2).toArray, .int .i64 0]), (14, v2), (15, .agg (cs8 S2).toArray), (16, .int .i64 0), (5, .pointer (some ⟨q, 0, none⟩)), (4, v2), (6, .int .i64 0)] ∧ Hid (w1.heap.size ≤ q) ∧ Hid (Bk w' q (cs8 S2)) ∧ Hid (Ow w' w1.heap.size v2 R2) ∧ Hid (Value.ownBlock v2 ≠ some q) ∧ Hid (Below w1.heap.size w1 w')) ?_ ?_
  · have hR := Sb.stays w1.heap.size
    refine reg_start (Sb w1.heap.size) follows_mixed ?_
    have HG := Lib.hid HG1.out.drew
    have HX3 := Lib.hid HX1.out.drew
    have HB := Lib.hid (Below.refl w1.heap.size w1).drew
    clear HG1 HX1
    generalize w1.drew = u0 at HG HX3 HB ⊢
    refine reg_take (v := pt0 g) hR 0 rfl (by kernel_rfl) (by kernel_rfl) (by kernel_rfl) (fun _ _ _ h => by cases h.1) (by rfl) ?_ ?_
    · intro W hW; go_simp; try with_reducible rfl
    try simp only [Act.put, List.getElem_toArray, List.getElem_cons_succ, List.getElem_cons_zero, List.setIfInBounds_toArray, List.set_cons_zero, List.set_cons_succ]
    refine reg_take (v := .pointer (some ⟨g, 0, none⟩)) hR 1 rfl (by kernel_rfl) (by kernel_rfl) (by kernel_rfl) (fun _ _ _ h => by cases h.1) (by rfl) ?_ ?_
    · intro W hW; go_simp; try with_reducible rfl
    try simp only [Act.put, List.getElem_toArray, List.getElem_cons_succ, List.getElem_cons_zero, List.setIfInBounds_toArray, List.set_cons_zero, List.set_cons_succ]
    refine reg_take (v := .pointer (some ⟨g, 5, none⟩)) hR 2 rfl (by kernel_rfl) (by kernel_rfl) (by kernel_rfl) (fun _ _ _ h => by cases h.1) (by rfl) ?_ ?_
    · intro W hW; go_simp; try with_reducible rfl
    try simp only [Act.put, List.getElem_toArray, List.getElem_cons_succ, List.getElem_cons_zero, List.setIfInBounds_toArray, List.set_cons_zero, List.set_cons_succ]
    refine reg_take (v := .agg (cs8 S).toArray) hR 3 rfl (by kernel_rfl) (by kernel_rfl) (by kernel_rfl) (fun _ _ _ h => by cases h.1) (by rfl) ?_ ?_
    · intro W hW; exact exec_load_at 59 _ rfl ⟨g, 5, none⟩ rfl (cs8 S) _ ((HG.out.below hW Hltg.out).range (lg_chain _ _ _ _ _)) Tryz.underlying59 rfl (by rw [HS8.out]; exact info36)
    try simp only [Act.put, List.getElem_toArray, List.getElem_cons_succ, List.getElem_cons_zero, List.setIfInBounds_toArray, List.set_cons_zero, List.set_cons_succ]
    refine reg_take (v := .agg #[.int .u8 (k.toNat : Int), .slice A n c]) hR 4 rfl (by kernel_rfl) (by kernel_rfl) (by kernel_rfl) (fun _ _ _ h => by cases h.1) (by rfl) ?_ ?_
    · intro W hW; exact exec_load_at 33 _ rfl ⟨b3, 0, none⟩ rfl [.int .u8 (k.toNat : Int), .slice A n c] _ (HX3.out.below hW Hlt3.out).at_ Tryz.underlying33 rfl info31
    try simp only [Act.put, List.getElem_toArray, List.getElem_cons_succ, List.getElem_cons_zero, List.setIfInBounds_toArray, List.set_cons_zero, List.set_cons_succ]
    refine reg_fork (rs := [5, 10]) hR (by kernel_rfl) (by simp) ?_
    intro i hi; simp only [List.mem_cons, List.not_mem_nil, or_false] at hi
    rcases hi with rfl | rfl
    · refine ⟨_, rfl, fun K hK => ?_⟩
      try simp only [Act.put, List.getElem_toArray, List.getElem_cons_succ, List.getElem_cons_zero, List.setIfInBounds_toArray, List.set_cons_zero, List.set_cons_succ]
      rw [if_pos (by rfl)]
      go_simp
      refine (HBY.out u0 ((HR1.out.below HB.out).more HB.out.size)).mono ?_; rintro e u1 ⟨v2, rfl, ho, hb⟩
      refine hK.out _ _ (show Below _ _ _ from hb.mono HB.out.size) ?_
      clear hK K
      have HO := Lib.hid (Ow.lower ho HB.out.size)
      clear ho
      have HB := Lib.hid (HB.out.trans (hb.mono HB.out.size))
      clear hb
      try simp only [Act.put, List.getElem_toArray, List.getElem_cons_succ, List.getElem_cons_zero, List.setIfInBounds_toArray, List.set_cons_zero, List.set_cons_succ]
      refine reg_take (v := .tuple #[v2, .agg (cs8 S2).toArray, .int .i64 0]) hR 6 rfl (by kernel_rfl) (by kernel_rfl) (by kernel_rfl) (fun _ _ _ h => by cases h.1) (by rfl) ?_ ?_
      · intro W hW; go_simp; try with_reducible rfl
      try simp only [Act.put, List.getElem_toArray, List.getElem_cons_succ, List.getElem_cons_zero, List.setIfInBounds_toArray, List.set_cons_zero, List.set_cons_succ]
      refine reg_take (v := v2) hR 7 rfl (by kernel_rfl) (by kernel_rfl) (by kernel_rfl) (fun _ _ _ h => by cases h.1) (by rfl) ?_ ?_
      · intro W hW; go_simp; try with_reducible rfl
      try simp only [Act.put, List.getElem_toArray, List.getElem_cons_succ, List.getElem_cons_zero, List.setIfInBounds_toArray, List.set_cons_zero, List.set_cons_succ]
      refine reg_take (v := .agg (cs8 S2).toArray) hR 8 rfl (by kernel_rfl) (by kernel_rfl) (by kernel_rfl) (fun _ _ _ h => by cases h.1) (by rfl) ?_ ?_
      · intro W hW; go_simp; try with_reducible rfl
      try simp only [Act.put, List.getElem_toArray, List.getElem_cons_succ, List.getElem_cons_zero, List.setIfInBounds_toArray, List.set_cons_zero, List.set_cons_succ]
      refine reg_take (v := .int .i64 0) hR 9 rfl (by kernel_rfl) (by kernel_rfl) (by kernel_rfl) (fun _ _ _ h => by cases h.1) (by rfl) ?_ ?_
      · intro W hW; go_simp; try with_reducible rfl
      try simp only [Act.put, List.getElem_toArray, List.getElem_cons_succ, List.getElem_cons_zero, List.setIfInBounds_toArray, List.set_cons_zero, List.set_cons_succ]
      refine reg_step hR 10 (by kernel_rfl) rfl fun K hK => ?_
      try simp only [Act.put, List.getElem_toArray, List.getElem_cons_succ, List.getElem_cons_zero, List.setIfInBounds_toArray, List.set_cons_zero, List.set_cons_succ]
      rw [if_pos (by rfl)]
      refine wp_alloc_z 59 rfl z36 zero36 ?_
      refine hK.out _ _ ((Below.refl _ _).alloc HB.out.size _) ?_
      clear hK K
      have HGq := Lib.hid (Bk.new u1 z36 59)
      have HNq := Lib.hid (show Value.ownBlock (v2) ≠ some u1.heap.size from fun e => by have h1 := (World.ownsRow.lt HO.out _ e).2; omega)
      have HO := Lib.hid (Ow.alloc HO.out (.cells z36.toArray 59))
      have HTq := Lib.hid (show w1.heap.size ≤ u1.heap.size from HB.out.size)
      have HB := Lib.hid (HB.out.alloc HB.out.size (.cells z36.toArray 59))
      have HLq := Lib.hid (show u1.heap.size < (u1.alloc (.cells z36.toArray 59)).heap.size by simp)
      generalize hgw : u1.alloc (.cells z36.toArray 59) = u2 at HB HGq HO HLq ⊢
      clear hgw
      generalize hgw : u1.heap.size = q at HGq HTq HLq HNq ⊢
      clear hgw
      try simp only [Act.put, List.getElem_toArray, List.getElem_cons_succ, List.getElem_cons_zero, List.setIfInBounds_toArray, List.set_cons_zero, List.set_cons_succ]
      refine reg_take (v := v2) hR 11 rfl (by kernel_rfl) (by kernel_rfl) (by kernel_rfl) (fun _ _ _ h => by cases h.1) (by rfl) ?_ ?_
      · intro W hW; go_simp; try with_reducible rfl
      try simp only [Act.put, List.getElem_toArray, List.getElem_cons_succ, List.getElem_cons_zero, List.setIfInBounds_toArray, List.set_cons_zero, List.set_cons_succ]
      refine reg_step hR 12 (by kernel_rfl) rfl fun K hK => ?_
      try simp only [Act.put, List.getElem_toArray, List.getElem_cons_succ, List.getElem_cons_zero, List.setIfInBounds_toArray, List.set_cons_zero, List.set_cons_succ]
      rw [if_pos (by rfl)]
      refine wp_store_bk 59 _ _ rfl q rfl (cs8 S2) z36 rfl HGq.out (by rw [HS28.out]; exact info36) (by rw [HS28.out]; exact len_z36) (cs8_all _) ?_
      refine hK.out _ _ (below_setRow (Below.refl _ _) HTq.out _) ?_
      clear hK K
      have HGq := Lib.hid (HGq.out.setRow (cs8 S2))
      have HO := Lib.hid (World.ownsRow.kept HO.out (grown_setRow u2 q ((cs8 S2)).toArray) (.inr HNq.out))
      have HB := Lib.hid (below_setRow HB.out HTq.out ((cs8 S2)).toArray)
      generalize hgw : u2.setRow q ((cs8 S2)).toArray = u3 at HB HGq HO ⊢
      clear hgw
      try simp only [Act.put, List.getElem_toArray, List.getElem_cons_succ, List.getElem_cons_zero, List.setIfInBounds_toArray, List.set_cons_zero, List.set_cons_succ]
      refine reg_take (v := .int .i64 0) hR 13 rfl (by kernel_rfl) (by kernel_rfl) (by kernel_rfl) (fun _ _ _ h => by cases h.1) (by rfl) ?_ ?_
      · intro W hW; go_simp; try with_reducible rfl
      try simp only [Act.put, List.getElem_toArray, List.getElem_cons_succ, List.getElem_cons_zero, List.setIfInBounds_toArray, List.set_cons_zero, List.set_cons_succ]
      refine reg_done (by kernel_rfl) ?_ _
      refine ⟨rfl, q, v2, ?_, HTq, HGq, HO, HNq, HB⟩
      simp only [puts, List.foldl_cons, List.foldl_nil, Act.put, List.getElem_toArray, List.getElem_cons_succ, List.getElem_cons_zero, List.setIfInBounds_toArray, List.set_cons_zero, List.set_cons_succ]
    · refine ⟨_, rfl, fun K hK => ?_⟩
      try simp only [Act.put, List.getElem_toArray, List.getElem_cons_succ, List.getElem_cons_zero, List.setIfInBounds_toArray, List.set_cons_zero, List.set_cons_succ]
      rw [if_pos (by rfl)]
      refine wp_alloc_z 59 rfl z36 zero36 ?_
      refine hK.out _ _ ((Below.refl _ _).alloc HB.out.size _) ?_
      clear hK K
      have HGq := Lib.hid (Bk.new u0 z36 59)
      have HTq := Lib.hid (show w1.heap.size ≤ u0.heap.size from HB.out.size)
      have HB := Lib.hid (HB.out.alloc HB.out.size (.cells z36.toArray 59))
      have HLq := Lib.hid (show u0.heap.size < (u0.alloc (.cells z36.toArray 59)).heap.size by simp)
      generalize hgw : u0.alloc (.cells z36.toArray 59) = u1 at HB HGq HLq ⊢
      clear hgw
      generalize hgw : u0.heap.size = q at HGq HTq HLq ⊢
      clear hgw
      try simp only [Act.put, List.getElem_toArray, List.getElem_cons_succ, List.getElem_cons_zero, List.setIfInBounds_toArray, List.set_cons_zero, List.set_cons_succ]
      refine reg_step hR 5 (by kernel_rfl) rfl fun K hK => ?_
      try simp only [Act.put, List.getElem_toArray, List.getElem_cons_succ, List.getElem_cons_zero, List.setIfInBounds_toArray, List.set_cons_zero, List.set_cons_succ]
      rw [if_pos (by rfl)]
      go_simp
      refine (HBY.out u1 ((HR1.out.below HB.out).more HB.out.size)).mono ?_; rintro e u2 ⟨v2, rfl, ho, hb⟩
      refine hK.out _ _ (show Below _ _ _ from hb.mono HB.out.size) ?_
      clear hK K
      have HGq := Lib.hid (HGq.out.keep hb)
      have HNq := Lib.hid (show Value.ownBlock (v2) ≠ some q from fun e => by have h1 := (World.ownsRow.lt ho _ e).1; have h2 := HLq.out; omega)
      have HO := Lib.hid (Ow.lower ho HB.out.size)
      clear ho
      have HB := Lib.hid (HB.out.trans (hb.mono HB.out.size))
      clear hb
      have HLq := Lib.hid (show q < u2.heap.size from HGq.out.lt)
      try simp only [Act.put, List.getElem_toArray, List.getElem_cons_succ, List.getElem_cons_zero, List.setIfInBounds_toArray, List.set_cons_zero, List.set_cons_succ]
      refine reg_take (v := .tuple #[v2, .agg (cs8 S2).toArray, .int .i64 0]) hR 6 rfl (by kernel_rfl) (by kernel_rfl) (by kernel_rfl) (fun _ _ _ h => by cases h.1) (by rfl) ?_ ?_
      · intro W hW; go_simp; try with_reducible rfl
      try simp only [Act.put, List.getElem_toArray, List.getElem_cons_succ, List.getElem_cons_zero, List.setIfInBounds_toArray, List.set_cons_zero, List.set_cons_succ]
      refine reg_take (v := v2) hR 7 rfl (by kernel_rfl) (by kernel_rfl) (by kernel_rfl) (fun _ _ _ h => by cases h.1) (by rfl) ?_ ?_
      · intro W hW; go_simp; try with_reducible rfl
      try simp only [Act.put, List.getElem_toArray, List.getElem_cons_succ, List.getElem_cons_zero, List.setIfInBounds_toArray, List.set_cons_zero, List.set_cons_succ]
      refine reg_take (v := .agg (cs8 S2).toArray) hR 8 rfl (by kernel_rfl) (by kernel_rfl) (by kernel_rfl) (fun _ _ _ h => by cases h.1) (by rfl) ?_ ?_
      · intro W hW; go_simp; try with_reducible rfl
      try simp only [Act.put, List.getElem_toArray, List.getElem_cons_succ, List.getElem_cons_zero, List.setIfInBounds_toArray, List.set_cons_zero, List.set_cons_succ]
      refine reg_take (v := .int .i64 0) hR 9 rfl (by kernel_rfl) (by kernel_rfl) (by kernel_rfl) (fun _ _ _ h => by cases h.1) (by rfl) ?_ ?_
      · intro W hW; go_simp; try with_reducible rfl
      try simp only [Act.put, List.getElem_toArray, List.getElem_cons_succ, List.getElem_cons_zero, List.setIfInBounds_toArray, List.set_cons_zero, List.set_cons_succ]
      refine reg_take (v := v2) hR 11 rfl (by kernel_rfl) (by kernel_rfl) (by kernel_rfl) (fun _ _ _ h => by cases h.1) (by rfl) ?_ ?_
      · intro W hW; go_simp; try with_reducible rfl
      try simp only [Act.put, List.getElem_toArray, List.getElem_cons_succ, List.getElem_cons_zero, List.setIfInBounds_toArray, List.set_cons_zero, List.set_cons_succ]
      refine reg_step hR 12 (by kernel_rfl) rfl fun K hK => ?_
      try simp only [Act.put, List.getElem_toArray, List.getElem_cons_succ, List.getElem_cons_zero, List.setIfInBounds_toArray, List.set_cons_zero, List.set_cons_succ]
      rw [if_pos (by rfl)]
      refine wp_store_bk 59 _ _ rfl q rfl (cs8 S2) z36 rfl HGq.out (by rw [HS28.out]; exact info36) (by rw [HS28.out]; exact len_z36) (cs8_all _) ?_
      refine hK.out _ _ (below_setRow (Below.refl _ _) HTq.out _) ?_
      clear hK K
      have HGq := Lib.hid (HGq.out.setRow (cs8 S2))
      have HO := Lib.hid (World.ownsRow.kept HO.out (grown_setRow u2 q ((cs8 S2)).toArray) (.inr HNq.out))
      have HB := Lib.hid (below_setRow HB.out HTq.out ((cs8 S2)).toArray)
      generalize hgw : u2.setRow q ((cs8 S2)).toArray = u3 at HB HGq HO ⊢
      clear hgw
      try simp only [Act.put, List.getElem_toArray, List.getElem_cons_succ, List.getElem_cons_zero, List.setIfInBounds_toArray, List.set_cons_zero, List.set_cons_succ]
      refine reg_take (v := .int .i64 0) hR 13 rfl (by kernel_rfl) (by kernel_rfl) (by kernel_rfl) (fun _ _ _ h => by cases h.1) (by rfl) ?_ ?_
      · intro W hW; go_simp; try with_reducible rfl
      try simp only [Act.put, List.getElem_toArray, List.getElem_cons_succ, List.getElem_cons_zero, List.setIfInBounds_toArray, List.set_cons_zero, List.set_cons_succ]
      refine reg_done (by kernel_rfl) ?_ _
      refine ⟨rfl, q, v2, ?_, HTq, HGq, HO, HNq, HB⟩
      simp only [puts, List.foldl_cons, List.foldl_nil, Act.put, List.getElem_toArray, List.getElem_cons_succ, List.getElem_cons_zero, List.setIfInBounds_toArray, List.set_cons_zero, List.set_cons_succ]
  · rintro a' w4 ⟨q, v2, rfl, HTq, HGq, HO, HNq, HBw⟩
    simp only [puts, List.foldl_cons, List.foldl_nil, Act.put, List.getElem_toArray, List.getElem_cons_succ, List.getElem_cons_zero, List.setIfInBounds_toArray, List.set_cons_zero, List.set_cons_succ]
    have hb3 := HB3.out
    subst hb3
    obtain ⟨A2, c2, rfl, hr2, htop⟩ := HO.out.rdTop
    have hbw : Below w.heap.size w w4 := bl_call HB1.out HBw.out
    have HL4 := Lib.hid (HH.out.old hbw)
    have HG4 := Lib.hid (HG1.out.keep HBw.out)
    have hsz1 := HB1.out.size
    have hsz4 := hbw.size
    have HQ4 := Lib.hid HGq.out
    have hqv : ¬ may g v q := by
      have h1 := HTq.out
      rintro (e | e)
      · omega
      · have := HH.out.vlt q e
        omega
    have HW := Lib.hid (BWrite_any HG4.out HL4.out.row HL4.out.ne HL4.out.nil hr2 (fun ad e => ⟨by have := htop ad e; omega, fun e2 => by have := htop ad e; have := HH.out.vlt _ e2; omega⟩) (by omega) (by omega) HL4.out.hg)
    have HB4 := Lib.hid hbw
    clear hr2 htop hbw HO HNq HBw HGq HG1 HX1 HL4 HBY HR1 HB1 hsz1 hsz4
    go_wp2_with fail
    refine HW.out.mono ?_
    rintro e W4 ⟨v4, rfl, hbk4, how4, hne4, hnil4, hv4, hk4⟩
    have HQ5 := Lib.hid (HQ4.out.kp hk4 hqv)
    have hqg : q ≠ g := fun e => hqv (.inl e)
    have HG5 := Lib.hid hbk4
    have hnn : rs.length ≤ 1073741824 := by
      have := recs_len2 (fstC E) rs
      omega
    have HO5 := Lib.hid how4
    have HN5 := Lib.hid hne4
    have HK5 := Lib.hid (show Kp (may g v) w W4 from (Kp.of_old (may := may g v) HB4.out).via hk4 (fun j _ h => h))
    have HV5 := Lib.hid (show v4.ownBlock = v.ownBlock ∨ ∃ k, v4.ownBlock = some k ∧ w.heap.size ≤ k from hv4.imp id fun ⟨k, e, h⟩ => ⟨k, e, by have := HB4.out.size; omega⟩)
    clear hbk4 how4 hne4 hnil4 hv4 hk4 HW HQ4 HG4 HB4
    have c4 : W4.cell? ⟨g, 4, none⟩ = some (.int .i64 (rs.length : Int)) := HG5.out.cell rfl
    have f4 : W4.frozen? ⟨g, 4, none⟩ = false := HG5.out.frozen 4
    have HG6 := Lib.hid (HG5.out.setCell 4 (.int .i64 ((rs.length : Int) + 1)))
    have HQ6 := Lib.hid (HQ5.out.setCell_ne hqg 4 (.int .i64 ((rs.length : Int) + 1)))
    have hth : (W4.setCell ⟨g, 4, none⟩ (.int .i64 ((rs.length : Int) + 1))).there g 5 (cs8 S2).toArray.size := by
      rw [List.size_toArray, HS28.out]
      refine HG6.out.there ?_
      simp [lg, HS8.out]
    have HTH := Lib.hid hth
    clear hth
    go_wp2_with (first | (refine wpList_load_at rfl 59 _ rfl ⟨q, 0, none⟩ rfl (cs8 S2) _ HQ6.out.at_ Tryz.underlying59 rfl (by rw [HS28.out]; exact info36) ?_) | (refine wpList_store_mid rfl 59 _ _ rfl g 5 (cs8 S2).toArray rfl rfl HTH.out (by rw [List.size_toArray, HS28.out]; exact info36) (cs8_all _) ?_))
    go_end0
    obtain ⟨r1, r2⟩ := lg_last HG5.out HS8.out HS28.out ((rs.length : Int) + 1)
    refine ⟨rfl, v4, ⟨⟨0, ?_⟩, ?_, HN5.out, fun e => ?_, HH.out.hg⟩, HV5.out, (Kp.stays _).trans HK5.out (r2.mono (fun k e => .inl e))⟩
    · rw [HE2.out, List.length_append, List.length_singleton, Int.natCast_add]
      exact r1
    · rw [HR2.out]
      exact HO5.out.kpF r2 (fun k e e2 => HN5.out (by rw [e, e2]))
    · rw [HR2.out] at e
      have := congrArg List.length e
      rw [List.length_append, List.length_nil] at this
      omega
end
end Go.Proofs.YtgpfognglpfmoaaGreatDoor

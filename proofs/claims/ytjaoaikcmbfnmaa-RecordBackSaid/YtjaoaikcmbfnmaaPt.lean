/- RecordParts: the walk. -/
import Derived.Test.YtjaoaikcmbfnmaaPa
namespace Go.Proofs.Ytjaoaikcmbfnmaa
set_option maxRecDepth 100000
set_option linter.unusedSimpArgs false
set_option linter.unusedVariables false
open Go.RowKit

theorem rec_all (k : Int) (A : Option Addr) (n c : Nat) : ([.int .u8 k, .slice A n c] : List Value).toArray.all (·.oneCell') = true := by rw [Array.all_eq_true_iff_forall_mem]; intro u hu; exact rec_cells1 k A n c u (by simpa using hu)
theorem info_z36 : (Try.prog.info? 23).map (·.size) = some z36.length := by kernel_rfl
theorem Light_yes (w : World) {top n c : Nat} {A : Option Addr} {l : List Rv} (h : Rs w top A n c l) (hf : few l) : Calls Try.prog 16 #[.slice A n c, .int .i64 40, .int .i64 9000] w fun e w' => e = .returned (.bool true) ∧ w' = w := by
  refine (Light_any w h).mono ?_
  rintro e w' ⟨rfl, rfl⟩
  rw [decide_eq_true hf]
  exact ⟨rfl, rfl⟩
theorem Light_no (w : World) {top n c : Nat} {A : Option Addr} {l : List Rv} (h : Rs w top A n c l) (hf : ¬ few l) : Calls Try.prog 16 #[.slice A n c, .int .i64 40, .int .i64 9000] w fun e w' => e = .returned (.bool false) ∧ w' = w := by
  refine (Light_any w h).mono ?_
  rintro e w' ⟨rfl, rfl⟩
  rw [decide_eq_false hf]
  exact ⟨rfl, rfl⟩

/-- What lies while records are put one behind the other: the chain at the start, the one reached, the bytes. -/
structure Pi (w wr : World) (g8 : Nat) (C S bs : List UInt8) (v7 : Value) : Prop where
  bel : Below w.heap.size w wr
  c4 : Bk wr w.heap.size (cs8 C)
  c8 : Bk wr g8 (cs8 S)
  lt : w.heap.size < g8
  len : S.length = 32
  own : Ow wr (g8 + 1) v7 bs
section
variable {w wr wr' : World} {g8 : Nat} {C S bs : List UInt8} {v7 : Value}
theorem Pi.keep (h : Pi w wr g8 C S bs v7) (hb : Below wr.heap.size wr wr') : Pi w wr' g8 C S bs v7 := ⟨bl_call h.bel hb, h.c4.keep hb, h.c8.keep hb, h.lt, h.len, h.own.below hb⟩
theorem Pi.lt8 (h : Pi w wr g8 C S bs v7) : g8 < wr.heap.size := h.c8.lt
theorem Pi.ge (h : Pi w wr g8 C S bs v7) : ∀ k, v7.ownBlock = some k → g8 + 1 ≤ k ∧ k < wr.heap.size := fun k e => World.ownsRow.lt h.own k e
theorem Pi.app (h : Pi w wr g8 C S bs v7) {v' : Value} {bs' : List UInt8} (hg : wr.grownBy wr' v7.ownBlock) (ho : Ow wr' (g8 + 1) v' bs') : Pi w wr' g8 C S bs' v' := by
  have h8 := h.lt8
  have hlt := h.lt
  have hge := h.ge
  have hne : ∀ k, k ≤ g8 → v7.ownBlock ≠ some k := fun k hk e => by have := (hge k e).1; omega
  exact ⟨h.bel.trans ⟨hg.os, hg.tape, hg.output, hg.size, fun i hi => hg.block i (by have := h.bel.size; omega) (fun e => hne i (by omega) e.symm)⟩, h.c4.grow hg (hne _ (by omega)), h.c8.grow hg (hne _ (by omega)), hlt, h.len, ho⟩
theorem Pi.set (h : Pi w wr g8 C S bs v7) {S' : List UInt8} (hS : S'.length = 32) : Pi w (wr.setRow g8 (cs8 S').toArray) g8 C S' bs v7 := by
  have hlt := h.lt
  exact ⟨below_setRow h.bel (by omega) _, h.c4.other (by omega) _, h.c8.setRow (cs8 S'), hlt, hS, World.ownsRow.kept h.own (grown_setRow wr g8 (cs8 S').toArray) (.inr fun e => by have := (h.ge _ e).1; omega)⟩
end

theorem recs_len_ : ∀ (C : List UInt8) (rs : List (UInt8 × List UInt8)), rs.length ≤ (recsB C rs).length
  | _, [] => Nat.zero_le _
  | C, r :: t => by
    have ih := recs_len_ (nextR C r.1 r.2) t
    rw [recsB, List.length_append, recB_length, List.length_cons]
    omega
/-- What lies while records are read on: the chain behind the last one, the bytes, all records; below block T. -/
structure V2 (w W : World) (T g15 : Nat) (E raw : List UInt8) (A13 : Option Addr) (m c13 : Nat) (A14 : Option Addr) (n14 c14 : Nat) (l14 : List Rv) : Prop where
  bel : Below w.heap.size w W
  c15 : Bk W g15 (cs8 E)
  lt15 : g15 < T
  raw : Rd W T A13 m c13 raw
  all : Rs W T A14 n14 c14 l14
  size : T ≤ W.heap.size
  low : w.heap.size < T
section
variable {w W W' : World} {T g15 m c13 n14 c14 : Nat} {E raw : List UInt8} {A13 A14 : Option Addr} {l14 : List Rv}
theorem V2.keep (h : V2 w W T g15 E raw A13 m c13 A14 n14 c14 l14) (hb : Below T W W') : V2 w W' T g15 E raw A13 m c13 A14 n14 c14 l14 :=
  ⟨h.bel.trans (hb.mono (by have := h.low; omega)), h.c15.below hb h.lt15, h.lt15, h.raw.below hb, h.all.below hb, Nat.le_trans h.size hb.size, h.low⟩
theorem V2.call (h : V2 w W T g15 E raw A13 m c13 A14 n14 c14 l14) (hb : Below W.heap.size W W') : V2 w W' T g15 E raw A13 m c13 A14 n14 c14 l14 := h.keep (hb.mono h.size)
theorem V2.rd (h : V2 w W T g15 E raw A13 m c13 A14 n14 c14 l14) {k : Nat} (hk : k ≤ m) : Rd W W.heap.size (restAt A13 c13 k) (m - k) (c13 - k) (raw.drop k) := (h.raw.more h.size).drop_ hk
end

set_option maxHeartbeats 3200000 in
theorem Parts_any (A0 A2 : Option Addr) (n0 c0 n2 c2 : Nat) (l0 : List Rv) (l1 l2 : List UInt8) (w : World) (hr : Rs w w.heap.size A0 n0 c0 l0) (hC : l1.length = 32) (hd : Rd w w.heap.size A2 n2 c2 l2) :
    Calls Try.prog 6 #[.slice A0 n0 c0, .agg (cs8 l1).toArray, .slice A2 n2 c2] w fun e w' => e = .returned (.bool true) ∧ Below w.heap.size w w' := by
  have HA := Lib.hid hr
  have HD := Lib.hid hd
  have HC := Lib.hid hC
  have hlen := Lib.hid hr.1
  have hlen2 := Lib.hid hd.1
  have HC8 := Lib.hid (show (cs8 l1).length = 32 by rw [cs8_length, hC])
  have hb := bl_alloc (bl0 w) (.cells (cs8 l1).toArray 23)
  have HB := Lib.hid hb
  have H4 := Lib.hid (Bk.new w (cs8 l1) 23)
  clear hr hd hb
  go_enter Try.func6, Try.ntmps6
  go_wp2_with fail
  generalize w.alloc (.cells (cs8 l1).toArray 23) = w1 at HB H4 ⊢
  refine (lives_any w1).mono ?_; rintro e w2 ⟨rfl, hb⟩
  have HB2 := Lib.hid (bl_call HB.out hb)
  have H42 := Lib.hid (H4.out.keep hb)
  clear HB H4 hb
  by_cases hf : few l0
  case neg =>
    have HF := Lib.hid hf
    clear hf
    go_wp2_with fail
    refine (Light_no w2 (HA.out.below HB2.out) HF.out).mono ?_; rintro e w3 ⟨rfl, rfl⟩
    go_wp2_with fail
    go_ret
    exact ⟨rfl, HB2.out⟩
  have HF := Lib.hid hf
  have hn0 : n0 ≤ 40 := by have := hlen.out; have := hf.1; omega
  clear hf
  go_wp2_with fail
  refine (Light_yes w2 (HA.out.below HB2.out) HF.out).mono ?_; rintro e w3 ⟨rfl, rfl⟩
  rename World => w2
  by_cases h9 : 9000 < n2
  case pos =>
    go_wp2_with fail
    go_ret
    exact ⟨rfl, HB2.out⟩
  have hI0 : Pi w ((w2.alloc (.cells z36.toArray 23)).setRow w2.heap.size (cs8 l1).toArray) w2.heap.size l1 l1 [] (.slice none 0 0) := by
    have hlt := H42.out.lt
    have hb : Below w2.heap.size w2 ((w2.alloc (.cells z36.toArray 23)).setRow w2.heap.size (cs8 l1).toArray) := bl_setRow (bl_alloc (bl0 w2) _) (Nat.le_refl _) _
    exact ⟨bl_call HB2.out hb, H42.out.keep hb, (Bk.new w2 z36 23).setRow (cs8 l1), hlt, HC.out, World.ownsRow_nil _ _ _ _⟩
  have HI0 := Lib.hid hI0
  clear hI0
  go_wp2_with (first | (refine wpList_alloc_z rfl 23 rfl z36 zero36 ?_) | (refine wpList_store_bk rfl 23 _ _ rfl w2.heap.size rfl (cs8 l1) z36 rfl (Bk.new w2 z36 23) (by rw [HC8.out]; exact info36) (by rw [HC8.out]; exact len_z36) (cs8_all _) ?_) | (refine wpList_load_at rfl 23 _ rfl ⟨w.heap.size, 0, none⟩ rfl (cs8 l1) _ H42.out.at_ Try.underlying23 rfl (by rw [HC8.out]; exact info36) ?_))
  clear HB2 H42
  generalize (w2.alloc (.cells z36.toArray 23)).setRow w2.heap.size (cs8 l1).toArray = w3 at HI0 ⊢
  generalize w2.heap.size = g8 at HI0 ⊢
  go_loopw [7, 9] (fun v7 v9 wr => ∃ (i : Nat) (S bs : List UInt8), i ≤ n0 ∧ v9 = .int .i64 (i : Int) ∧ Hid (bs.length ≤ i * 8210) ∧ Hid (Pi w wr g8 l1 S bs v7)) (fun _ v9 _ => n0 - (RowKit.intOf v9).toNat)
  case atStart => exact ⟨0, l1, [], by omega, rfl, Lib.hid (Nat.zero_le _), HI0⟩
  case round =>
    obtain ⟨i, S, bs, hin, rfl, HLB, HI⟩ := hrel
    by_cases hlt : i < n0
    · obtain ⟨ad, x, rfl, hx, hm, ho, e0, e1⟩ := (HA.out.below HI.out.bel).at_ hlt
      have HQ0 := Lib.hid (cell2 e0 e1)
      have HX := Lib.hid ((Rd.more ho HI.out.bel.size : Rd wr wr.heap.size x.A x.d.length x.c x.d))
      have HT1 := Lib.hid (show (ad.add (i * 2)).block < wr.heap.size from cell_lt (HQ0.out 0 _ rfl))
      have HS32 := Lib.hid HI.out.len
      have HS8 := Lib.hid (show (cs8 S).length = 32 by rw [cs8_length, HS32.out])
      clear hx hm ho e0 e1
      go_wp2
      refine region_meetQ (fun a0 a' w' => ∃ g v S2 R2 err, a' = puts a0 [(48, .agg (cs8 S).toArray), (49, .slice (some ad) n0 c0), (50, .int .i64 (i : Int)), (51, .pointer (some (ad.add (i * 2)))), (52, .agg #[.int .u8 (x.k.toNat : Int), .slice x.A x.d.length x.c]), (53, .tuple #[v, .agg (cs8 S2).toArray, .int .i64 err]), (47, .tuple #[v, .agg (cs8 S2).toArray, .int .i64 err]), (54, v), (55, .agg (cs8 S2).toArray), (56, .int .i64 err), (11, .pointer (some ⟨g, 0, none⟩)), (10, v), (12, .int .i64 err)] ∧ Hid (BP S x.k x.d S2 R2 err) ∧ Hid (wr.heap.size ≤ g) ∧ Hid (Bk w' g (cs8 S2)) ∧ Hid (Ow w' wr.heap.size v R2) ∧ Hid (Value.ownBlock v ≠ some g) ∧ Hid (Below wr.heap.size wr w')) ?_ ?_
      · have hR := Sb.stays wr.heap.size
        refine reg_start (Sb wr.heap.size) follows_mixed ?_
        have HS := Lib.hid HI.out.c8.drew
        have Hlt8 := Lib.hid HI.out.lt8
        have HB0 := Lib.hid (Below.refl wr.heap.size wr)
        have HB := Lib.hid (Below.refl wr.heap.size wr).drew
        have HQ1 := Lib.hid (show ∀ j v, ([.int .u8 (x.k.toNat : Int), .slice x.A x.d.length x.c] : List Value)[j]? = some v → wr.drew.cell? ((ad.add (i * 2)).add j) = some v from HQ0.out)
        generalize wr.drew = u0 at HS HB HQ1 ⊢
        refine reg_take (v := .agg (cs8 S).toArray) hR 0 rfl (by kernel_rfl) (by kernel_rfl) (by kernel_rfl) (fun _ _ _ h => by cases h.1) (by rfl) ?_ ?_
        · intro W hW; exact exec_load_at 23 _ rfl ⟨g8, 0, none⟩ rfl (cs8 S) _ (HS.out.below hW Hlt8.out).at_ Try.underlying23 rfl (by rw [HS8.out]; exact info36)
        try simp only [Act.put, List.getElem_toArray, List.getElem_cons_succ, List.getElem_cons_zero, List.setIfInBounds_toArray, List.set_cons_zero, List.set_cons_succ]
        refine reg_take (v := .slice (some ad) n0 c0) hR 1 rfl (by kernel_rfl) (by kernel_rfl) (by kernel_rfl) (fun _ _ _ h => by cases h.1) (by rfl) ?_ ?_
        · intro W hW; go_simp; try with_reducible rfl
        try simp only [Act.put, List.getElem_toArray, List.getElem_cons_succ, List.getElem_cons_zero, List.setIfInBounds_toArray, List.set_cons_zero, List.set_cons_succ]
        refine reg_take (v := .int .i64 (i : Int)) hR 2 rfl (by kernel_rfl) (by kernel_rfl) (by kernel_rfl) (fun _ _ _ h => by cases h.1) (by rfl) ?_ ?_
        · intro W hW; go_simp; try with_reducible rfl
        try simp only [Act.put, List.getElem_toArray, List.getElem_cons_succ, List.getElem_cons_zero, List.setIfInBounds_toArray, List.set_cons_zero, List.set_cons_succ]
        refine reg_take (v := .pointer (some (ad.add (i * 2)))) hR 3 rfl (by kernel_rfl) (by kernel_rfl) (by kernel_rfl) (fun _ _ _ h => by cases h.1) (by rfl) ?_ ?_
        · intro W hW; go_simp; try with_reducible rfl
        try simp only [Act.put, List.getElem_toArray, List.getElem_cons_succ, List.getElem_cons_zero, List.setIfInBounds_toArray, List.set_cons_zero, List.set_cons_succ]
        refine reg_take (v := .agg #[.int .u8 (x.k.toNat : Int), .slice x.A x.d.length x.c]) hR 4 rfl (by kernel_rfl) (by kernel_rfl) (by kernel_rfl) (fun _ _ _ h => by cases h.1) (by rfl) ?_ ?_
        · intro W hW; exact exec_load_at 31 _ rfl (ad.add (i * 2)) rfl [.int .u8 (x.k.toNat : Int), .slice x.A x.d.length x.c] _ (fun j v hv => (hW.cell (by rw [add_block]; exact HT1.out)).trans (HQ1.out j v hv)) Try.underlying31 rfl info31
        try simp only [Act.put, List.getElem_toArray, List.getElem_cons_succ, List.getElem_cons_zero, List.setIfInBounds_toArray, List.set_cons_zero, List.set_cons_succ]
        refine reg_fork (rs := [5, 10]) hR (by kernel_rfl) (by simp) ?_
        intro i hi; simp only [List.mem_cons, List.not_mem_nil, or_false] at hi
        rcases hi with rfl | rfl
        · refine ⟨_, rfl, fun K hK => ?_⟩
          try simp only [Act.put, List.getElem_toArray, List.getElem_cons_succ, List.getElem_cons_zero, List.setIfInBounds_toArray, List.set_cons_zero, List.set_cons_succ]
          rw [if_pos (by rfl)]
          go_simp
          refine (Bytes_any u0 HS32.out (((HX.out.below (HB0.out)).below HB.out).more HB.out.size)).mono ?_; rintro e u1 ⟨v, S2, R2, err, rfl, hbp, ho, hb⟩
          refine hK.out _ _ (show Below _ _ _ from hb.mono HB.out.size) ?_
          clear hK K
          have HBP := Lib.hid hbp
          have HS28 := Lib.hid (show (cs8 S2).length = 32 by rw [cs8_length, hbp.len.1])
          clear hbp
          have HO := Lib.hid (Ow.lower ho HB.out.size)
          clear ho
          have HB := Lib.hid (HB.out.trans (hb.mono HB.out.size))
          clear hb
          try simp only [Act.put, List.getElem_toArray, List.getElem_cons_succ, List.getElem_cons_zero, List.setIfInBounds_toArray, List.set_cons_zero, List.set_cons_succ]
          refine reg_take (v := .tuple #[v, .agg (cs8 S2).toArray, .int .i64 err]) hR 6 rfl (by kernel_rfl) (by kernel_rfl) (by kernel_rfl) (fun _ _ _ h => by cases h.1) (by rfl) ?_ ?_
          · intro W hW; go_simp; try with_reducible rfl
          try simp only [Act.put, List.getElem_toArray, List.getElem_cons_succ, List.getElem_cons_zero, List.setIfInBounds_toArray, List.set_cons_zero, List.set_cons_succ]
          refine reg_take (v := v) hR 7 rfl (by kernel_rfl) (by kernel_rfl) (by kernel_rfl) (fun _ _ _ h => by cases h.1) (by rfl) ?_ ?_
          · intro W hW; go_simp; try with_reducible rfl
          try simp only [Act.put, List.getElem_toArray, List.getElem_cons_succ, List.getElem_cons_zero, List.setIfInBounds_toArray, List.set_cons_zero, List.set_cons_succ]
          refine reg_take (v := .agg (cs8 S2).toArray) hR 8 rfl (by kernel_rfl) (by kernel_rfl) (by kernel_rfl) (fun _ _ _ h => by cases h.1) (by rfl) ?_ ?_
          · intro W hW; go_simp; try with_reducible rfl
          try simp only [Act.put, List.getElem_toArray, List.getElem_cons_succ, List.getElem_cons_zero, List.setIfInBounds_toArray, List.set_cons_zero, List.set_cons_succ]
          refine reg_take (v := .int .i64 err) hR 9 rfl (by kernel_rfl) (by kernel_rfl) (by kernel_rfl) (fun _ _ _ h => by cases h.1) (by rfl) ?_ ?_
          · intro W hW; go_simp; try with_reducible rfl
          try simp only [Act.put, List.getElem_toArray, List.getElem_cons_succ, List.getElem_cons_zero, List.setIfInBounds_toArray, List.set_cons_zero, List.set_cons_succ]
          refine reg_step hR 10 (by kernel_rfl) rfl fun K hK => ?_
          try simp only [Act.put, List.getElem_toArray, List.getElem_cons_succ, List.getElem_cons_zero, List.setIfInBounds_toArray, List.set_cons_zero, List.set_cons_succ]
          rw [if_pos (by rfl)]
          refine wp_alloc_z 23 rfl z36 zero36 ?_
          refine hK.out _ _ ((Below.refl _ _).alloc HB.out.size _) ?_
          clear hK K
          have HGg := Lib.hid (Bk.new u1 z36 23)
          have HNg := Lib.hid (show Value.ownBlock (v) ≠ some u1.heap.size from fun e => by have h1 := (World.ownsRow.lt HO.out _ e).2; omega)
          have HO := Lib.hid (Ow.alloc HO.out (.cells z36.toArray 23))
          have HTg := Lib.hid (show wr.heap.size ≤ u1.heap.size from HB.out.size)
          have HB := Lib.hid (HB.out.alloc HB.out.size (.cells z36.toArray 23))
          have HLg := Lib.hid (show u1.heap.size < (u1.alloc (.cells z36.toArray 23)).heap.size by simp)
          generalize hgw : u1.alloc (.cells z36.toArray 23) = u2 at HB HGg HO HLg ⊢
          clear hgw
          generalize hgw : u1.heap.size = g at HGg HTg HLg HNg ⊢
          clear hgw
          try simp only [Act.put, List.getElem_toArray, List.getElem_cons_succ, List.getElem_cons_zero, List.setIfInBounds_toArray, List.set_cons_zero, List.set_cons_succ]
          refine reg_take (v := v) hR 11 rfl (by kernel_rfl) (by kernel_rfl) (by kernel_rfl) (fun _ _ _ h => by cases h.1) (by rfl) ?_ ?_
          · intro W hW; go_simp; try with_reducible rfl
          try simp only [Act.put, List.getElem_toArray, List.getElem_cons_succ, List.getElem_cons_zero, List.setIfInBounds_toArray, List.set_cons_zero, List.set_cons_succ]
          refine reg_step hR 12 (by kernel_rfl) rfl fun K hK => ?_
          try simp only [Act.put, List.getElem_toArray, List.getElem_cons_succ, List.getElem_cons_zero, List.setIfInBounds_toArray, List.set_cons_zero, List.set_cons_succ]
          rw [if_pos (by rfl)]
          refine wp_store_bk 23 _ _ rfl g rfl (cs8 S2) z36 rfl HGg.out (by rw [HS28.out]; exact info36) (by rw [HS28.out]; exact len_z36) (cs8_all _) ?_
          refine hK.out _ _ (below_setRow (Below.refl _ _) HTg.out _) ?_
          clear hK K
          have HGg := Lib.hid (HGg.out.setRow (cs8 S2))
          have HO := Lib.hid (World.ownsRow.kept HO.out (grown_setRow u2 g ((cs8 S2)).toArray) (.inr HNg.out))
          have HB := Lib.hid (below_setRow HB.out HTg.out ((cs8 S2)).toArray)
          generalize hgw : u2.setRow g ((cs8 S2)).toArray = u3 at HB HGg HO ⊢
          clear hgw
          try simp only [Act.put, List.getElem_toArray, List.getElem_cons_succ, List.getElem_cons_zero, List.setIfInBounds_toArray, List.set_cons_zero, List.set_cons_succ]
          refine reg_take (v := .int .i64 err) hR 13 rfl (by kernel_rfl) (by kernel_rfl) (by kernel_rfl) (fun _ _ _ h => by cases h.1) (by rfl) ?_ ?_
          · intro W hW; go_simp; try with_reducible rfl
          try simp only [Act.put, List.getElem_toArray, List.getElem_cons_succ, List.getElem_cons_zero, List.setIfInBounds_toArray, List.set_cons_zero, List.set_cons_succ]
          refine reg_done (by kernel_rfl) ?_ _
          refine ⟨rfl, g, v, S2, R2, err, ?_, HBP, HTg, HGg, HO, HNg, HB⟩
          simp only [puts, List.foldl_cons, List.foldl_nil, Act.put, List.getElem_toArray, List.getElem_cons_succ, List.getElem_cons_zero, List.setIfInBounds_toArray, List.set_cons_zero, List.set_cons_succ]
        · refine ⟨_, rfl, fun K hK => ?_⟩
          try simp only [Act.put, List.getElem_toArray, List.getElem_cons_succ, List.getElem_cons_zero, List.setIfInBounds_toArray, List.set_cons_zero, List.set_cons_succ]
          rw [if_pos (by rfl)]
          refine wp_alloc_z 23 rfl z36 zero36 ?_
          refine hK.out _ _ ((Below.refl _ _).alloc HB.out.size _) ?_
          clear hK K
          have HGg := Lib.hid (Bk.new u0 z36 23)
          have HTg := Lib.hid (show wr.heap.size ≤ u0.heap.size from HB.out.size)
          have HB := Lib.hid (HB.out.alloc HB.out.size (.cells z36.toArray 23))
          have HLg := Lib.hid (show u0.heap.size < (u0.alloc (.cells z36.toArray 23)).heap.size by simp)
          generalize hgw : u0.alloc (.cells z36.toArray 23) = u1 at HB HGg HLg ⊢
          clear hgw
          generalize hgw : u0.heap.size = g at HGg HTg HLg ⊢
          clear hgw
          try simp only [Act.put, List.getElem_toArray, List.getElem_cons_succ, List.getElem_cons_zero, List.setIfInBounds_toArray, List.set_cons_zero, List.set_cons_succ]
          refine reg_step hR 5 (by kernel_rfl) rfl fun K hK => ?_
          try simp only [Act.put, List.getElem_toArray, List.getElem_cons_succ, List.getElem_cons_zero, List.setIfInBounds_toArray, List.set_cons_zero, List.set_cons_succ]
          rw [if_pos (by rfl)]
          go_simp
          refine (Bytes_any u1 HS32.out (((HX.out.below (HB0.out)).below HB.out).more HB.out.size)).mono ?_; rintro e u2 ⟨v, S2, R2, err, rfl, hbp, ho, hb⟩
          refine hK.out _ _ (show Below _ _ _ from hb.mono HB.out.size) ?_
          clear hK K
          have HBP := Lib.hid hbp
          have HS28 := Lib.hid (show (cs8 S2).length = 32 by rw [cs8_length, hbp.len.1])
          clear hbp
          have HGg := Lib.hid (HGg.out.keep hb)
          have HNg := Lib.hid (show Value.ownBlock (v) ≠ some g from fun e => by have h1 := (World.ownsRow.lt ho _ e).1; have h2 := HLg.out; omega)
          have HO := Lib.hid (Ow.lower ho HB.out.size)
          clear ho
          have HB := Lib.hid (HB.out.trans (hb.mono HB.out.size))
          clear hb
          have HLg := Lib.hid (show g < u2.heap.size from HGg.out.lt)
          try simp only [Act.put, List.getElem_toArray, List.getElem_cons_succ, List.getElem_cons_zero, List.setIfInBounds_toArray, List.set_cons_zero, List.set_cons_succ]
          refine reg_take (v := .tuple #[v, .agg (cs8 S2).toArray, .int .i64 err]) hR 6 rfl (by kernel_rfl) (by kernel_rfl) (by kernel_rfl) (fun _ _ _ h => by cases h.1) (by rfl) ?_ ?_
          · intro W hW; go_simp; try with_reducible rfl
          try simp only [Act.put, List.getElem_toArray, List.getElem_cons_succ, List.getElem_cons_zero, List.setIfInBounds_toArray, List.set_cons_zero, List.set_cons_succ]
          refine reg_take (v := v) hR 7 rfl (by kernel_rfl) (by kernel_rfl) (by kernel_rfl) (fun _ _ _ h => by cases h.1) (by rfl) ?_ ?_
          · intro W hW; go_simp; try with_reducible rfl
          try simp only [Act.put, List.getElem_toArray, List.getElem_cons_succ, List.getElem_cons_zero, List.setIfInBounds_toArray, List.set_cons_zero, List.set_cons_succ]
          refine reg_take (v := .agg (cs8 S2).toArray) hR 8 rfl (by kernel_rfl) (by kernel_rfl) (by kernel_rfl) (fun _ _ _ h => by cases h.1) (by rfl) ?_ ?_
          · intro W hW; go_simp; try with_reducible rfl
          try simp only [Act.put, List.getElem_toArray, List.getElem_cons_succ, List.getElem_cons_zero, List.setIfInBounds_toArray, List.set_cons_zero, List.set_cons_succ]
          refine reg_take (v := .int .i64 err) hR 9 rfl (by kernel_rfl) (by kernel_rfl) (by kernel_rfl) (fun _ _ _ h => by cases h.1) (by rfl) ?_ ?_
          · intro W hW; go_simp; try with_reducible rfl
          try simp only [Act.put, List.getElem_toArray, List.getElem_cons_succ, List.getElem_cons_zero, List.setIfInBounds_toArray, List.set_cons_zero, List.set_cons_succ]
          refine reg_take (v := v) hR 11 rfl (by kernel_rfl) (by kernel_rfl) (by kernel_rfl) (fun _ _ _ h => by cases h.1) (by rfl) ?_ ?_
          · intro W hW; go_simp; try with_reducible rfl
          try simp only [Act.put, List.getElem_toArray, List.getElem_cons_succ, List.getElem_cons_zero, List.setIfInBounds_toArray, List.set_cons_zero, List.set_cons_succ]
          refine reg_step hR 12 (by kernel_rfl) rfl fun K hK => ?_
          try simp only [Act.put, List.getElem_toArray, List.getElem_cons_succ, List.getElem_cons_zero, List.setIfInBounds_toArray, List.set_cons_zero, List.set_cons_succ]
          rw [if_pos (by rfl)]
          refine wp_store_bk 23 _ _ rfl g rfl (cs8 S2) z36 rfl HGg.out (by rw [HS28.out]; exact info36) (by rw [HS28.out]; exact len_z36) (cs8_all _) ?_
          refine hK.out _ _ (below_setRow (Below.refl _ _) HTg.out _) ?_
          clear hK K
          have HGg := Lib.hid (HGg.out.setRow (cs8 S2))
          have HO := Lib.hid (World.ownsRow.kept HO.out (grown_setRow u2 g ((cs8 S2)).toArray) (.inr HNg.out))
          have HB := Lib.hid (below_setRow HB.out HTg.out ((cs8 S2)).toArray)
          generalize hgw : u2.setRow g ((cs8 S2)).toArray = u3 at HB HGg HO ⊢
          clear hgw
          try simp only [Act.put, List.getElem_toArray, List.getElem_cons_succ, List.getElem_cons_zero, List.setIfInBounds_toArray, List.set_cons_zero, List.set_cons_succ]
          refine reg_take (v := .int .i64 err) hR 13 rfl (by kernel_rfl) (by kernel_rfl) (by kernel_rfl) (fun _ _ _ h => by cases h.1) (by rfl) ?_ ?_
          · intro W hW; go_simp; try with_reducible rfl
          try simp only [Act.put, List.getElem_toArray, List.getElem_cons_succ, List.getElem_cons_zero, List.setIfInBounds_toArray, List.set_cons_zero, List.set_cons_succ]
          refine reg_done (by kernel_rfl) ?_ _
          refine ⟨rfl, g, v, S2, R2, err, ?_, HBP, HTg, HGg, HO, HNg, HB⟩
          simp only [puts, List.foldl_cons, List.foldl_nil, Act.put, List.getElem_toArray, List.getElem_cons_succ, List.getElem_cons_zero, List.setIfInBounds_toArray, List.set_cons_zero, List.set_cons_succ]
      · rintro a' w4 ⟨g, v, S2, R2, err, rfl, HBP, HTg, HGg, HO, HNg, HB⟩
        simp only [puts, List.foldl_cons, List.foldl_nil, Act.put, List.getElem_toArray, List.getElem_cons_succ, List.getElem_cons_zero, List.setIfInBounds_toArray, List.set_cons_zero, List.set_cons_succ]
        have HI4 := Lib.hid (HI.out.keep HB.out)
        have HS232 := Lib.hid HBP.out.len.1
        have HS28 := Lib.hid (show (cs8 S2).length = 32 by rw [cs8_length, HS232.out])
        have HR2 := Lib.hid HBP.out.len.2
        have hge := HI.out.lt8
        have HGT := Lib.hid (show g8 < g from Nat.lt_of_lt_of_le hge HTg.out)
        have herr : err = 0 ∨ err = 2 := by
          rcases HBP.out with h | h
          · exact .inl h.2.2.2
          · exact .inr h.2.2.2
        have HVG := Lib.hid (show u7.ownBlock ≠ some g from fun e => by have h1 := (HI.out.ge _ e).2; have h2 := HTg.out; omega)
        obtain ⟨A5, c5, rfl, hrd⟩ := HO.out.rd
        have HRD := Lib.hid hrd
        clear HI HBP HTg hge HX HT1 HQ0 HB HO HNg hrd
        rcases herr with rfl | rfl
        · go_wp2
          have hR := Kp.stays (fun k => k = g8 ∨ u7.ownBlock = some k)
          refine reg_start (Kp (fun k => k = g8 ∨ u7.ownBlock = some k)) follows_mixed ?_
          have HI5 := Lib.hid (HI4.out.keep (Below.refl _ w4).drew)
          have HG5 := Lib.hid HGg.out.drew
          have HRD5 := Lib.hid (HRD.out.below (Below.refl _ w4).drew)
          clear HI4 HGg HRD
          generalize w4.drew = w5 at HI5 HG5 HRD5 ⊢
          refine reg_take (v := u7) hR 0 rfl (by kernel_rfl) (by kernel_rfl) (by kernel_rfl) (fun _ _ _ h => h) (by rfl) ?_ ?_
          · intro W hW; go_simp; try with_reducible rfl
          try simp only [Act.put, List.getElem_toArray, List.getElem_cons_succ, List.getElem_cons_zero, List.setIfInBounds_toArray, List.set_cons_zero, List.set_cons_succ]
          refine reg_take (v := .slice A5 R2.length c5) hR 1 rfl (by kernel_rfl) (by kernel_rfl) (by kernel_rfl) (fun _ _ _ h => h) (by rfl) ?_ ?_
          · intro W hW; go_simp; try with_reducible rfl
          try simp only [Act.put, List.getElem_toArray, List.getElem_cons_succ, List.getElem_cons_zero, List.setIfInBounds_toArray, List.set_cons_zero, List.set_cons_succ]
          refine reg_take (v := .agg (cs8 S2).toArray) hR 3 rfl (by kernel_rfl) (by kernel_rfl) (by kernel_rfl) (fun _ _ _ h => h) (by rfl) ?_ ?_
          · intro W hW; exact exec_load_at 23 _ rfl ⟨g, 0, none⟩ rfl (cs8 S2) _ (HG5.out.kp hW (not_or.2 ⟨by have := HGT.out; omega, HVG.out⟩)).at_ Try.underlying23 rfl (by rw [HS28.out]; exact info36)
          try simp only [Act.put, List.getElem_toArray, List.getElem_cons_succ, List.getElem_cons_zero, List.setIfInBounds_toArray, List.set_cons_zero, List.set_cons_succ]
          refine reg_step hR 2 (by kernel_rfl) rfl fun K hK => ?_
          try simp only [Act.put, List.getElem_toArray, List.getElem_cons_succ, List.getElem_cons_zero, List.setIfInBounds_toArray, List.set_cons_zero, List.set_cons_succ]
          rw [if_pos (by rfl)]
          refine wp_app2 _ _ rfl rfl HI5.out.own rfl HRD5.out (by have := HLB.out; have := HR2.out; have : i * 8210 ≤ 40 * 8210 := Nat.mul_le_mul_right _ (by omega); omega) (by have := HI5.out.lt8; omega) ?_
          intro v' w6 ho6 hg6 _
          refine hK.out _ _ (kp_grown hg6 (fun k e => .inr e)) ?_
          have HI6 := Lib.hid (HI5.out.app hg6 ho6)
          clear hg6 ho6 HI5
          clear hK K
          try simp only [Act.put, List.getElem_toArray, List.getElem_cons_succ, List.getElem_cons_zero, List.setIfInBounds_toArray, List.set_cons_zero, List.set_cons_succ]
          refine reg_take (v := v') hR 4 rfl (by kernel_rfl) (by kernel_rfl) (by kernel_rfl) (fun _ _ _ h => h) (by rfl) ?_ ?_
          · intro W hW; go_simp; try with_reducible rfl
          try simp only [Act.put, List.getElem_toArray, List.getElem_cons_succ, List.getElem_cons_zero, List.setIfInBounds_toArray, List.set_cons_zero, List.set_cons_succ]
          refine reg_step hR 5 (by kernel_rfl) rfl fun K hK => ?_
          try simp only [Act.put, List.getElem_toArray, List.getElem_cons_succ, List.getElem_cons_zero, List.setIfInBounds_toArray, List.set_cons_zero, List.set_cons_succ]
          rw [if_pos (by rfl)]
          refine wp_store_bk 23 _ _ rfl g8 rfl (cs8 S2) (cs8 S) rfl HI6.out.c8 (by rw [HS28.out]; exact info36) (by rw [HS28.out, HS8.out]) (cs8_all _) ?_
          refine hK.out _ _ (kp_setRow _ _ _ (.inl rfl)) ?_
          have HI7 := Lib.hid (HI6.out.set HS232.out)
          clear HI6
          generalize w6.setRow g8 (cs8 S2).toArray = w7 at HI7 ⊢
          clear hK K
          try simp only [Act.put, List.getElem_toArray, List.getElem_cons_succ, List.getElem_cons_zero, List.setIfInBounds_toArray, List.set_cons_zero, List.set_cons_succ]
          refine reg_done (by kernel_rfl) ?_ _
          go_wp2
          go_roundw
          case rel => exact ⟨i + 1, S2, bs ++ R2, by omega, by go_num, Lib.hid (by have := HLB.out; have := HR2.out; rw [List.length_append]; omega), HI7⟩
          case measure => simp [RowKit.intOf]; omega
        · go_wp2
          go_roundw
          case rel => exact ⟨i + 1, S, bs, by omega, by go_num, Lib.hid (by have := HLB.out; omega), HI4⟩
          case measure => simp [RowKit.intOf]; omega
    · obtain rfl : i = n0 := by omega
      go_wp2_with (first | (refine wpList_app rfl _ _ rfl rfl HI.out.own rfl (HD.out.below HI.out.bel) (by have := HLB.out; have : i * 8210 ≤ 40 * 8210 := Nat.mul_le_mul_right _ (by omega); omega) (by have := HI.out.lt8; omega) ?_; intro v13 w13 ho13 hg13 _; have HI13 := Lib.hid (HI.out.app hg13 ho13); clear hg13 ho13) | (refine wpList_load_at rfl 23 _ rfl ⟨w.heap.size, 0, none⟩ rfl (cs8 l1) _ HI13.out.c4.at_ Try.underlying23 rfl (by rw [HC8.out]; exact info36) ?_))
      obtain ⟨A13, c13, rfl, hrd⟩ := HI13.out.own.rd
      have HRD := Lib.hid hrd
      have HM : Hid ((bs ++ l2).length ≤ 400000) := Lib.hid (by have := HLB.out; have := hlen2.out; have : i * 8210 ≤ 40 * 8210 := Nat.mul_le_mul_right _ (by omega); rw [List.length_append]; omega)
      clear hrd HLB HI
      generalize bs ++ l2 = raw at HRD HM HI13 ⊢
      obtain ⟨m, hm⟩ : ∃ m, raw.length = m := ⟨_, rfl⟩
      rw [hm] at HRD HM ⊢
      have hmm := HM.out
      refine (All_ex w13 HC.out HRD.out (by omega)).mono ?_
      rintro e w14 ⟨rs, tail, hbt, hvs, hst, A14, n14, c14, l14, rfl, hmap, hrs, -, hb⟩
      have HBT := Lib.hid hbt
      have HVS := Lib.hid hvs
      have HST := Lib.hid hst
      have HMAP := Lib.hid hmap
      have HE8 := Lib.hid (show (cs8 (endR l1 rs)).length = 32 by rw [cs8_length, endR_length l1 HC.out])
      have hn14 : rs.length = n14 := by rw [← hmap, List.length_map]; exact hrs.1
      have HN14 := Lib.hid hn14
      obtain ⟨sz, hsz⟩ : ∃ sz, (recsB l1 rs).length = sz := ⟨_, rfl⟩
      have HSZ14 := Lib.hid hsz
      rw [hsz]
      clear hsz
      have hn14m : n14 ≤ m := by rw [← hn14, ← hm, hbt, List.length_append]; have := recs_len_ l1 rs; omega
      have HB14 := Lib.hid (bl_call HI13.out.bel hb)
      have H414 := Lib.hid (HI13.out.c4.keep hb)
      have HRD14 := Lib.hid ((HRD.out.below hb).more hb.size)
      have HRS14 := Lib.hid hrs
      clear hbt hvs hst hmap hrs hb HI13 HRD hn14
      have HX15 := Lib.hid ((Bk.new w14 z36 23).setRow (cs8 (endR l1 rs)))
      have hb15 : Below w14.heap.size w14 ((w14.alloc (.cells z36.toArray 23)).setRow w14.heap.size (cs8 (endR l1 rs)).toArray) := bl_setRow (bl_alloc (bl0 w14) _) (Nat.le_refl _) _
      have HB15 := Lib.hid (bl_call HB14.out hb15)
      have H415 := Lib.hid (H414.out.keep hb15)
      have HRD15 := Lib.hid ((HRD14.out.below hb15).more hb15.size)
      have HRS15 := Lib.hid (HRS14.out.lift hb15)
      clear hb15 HRD14 HRS14
      go_wp2_with (first | (refine wpList_alloc_z rfl 23 rfl z36 zero36 ?_) | (refine wpList_store_bk rfl 23 _ _ rfl w14.heap.size rfl (cs8 (endR l1 rs)) z36 rfl (Bk.new w14 z36 23) (by rw [HE8.out]; exact info36) (by rw [HE8.out]; exact len_z36) (cs8_all _) ?_))
      clear HB14 H414
      generalize (w14.alloc (.cells z36.toArray 23)).setRow w14.heap.size (cs8 (endR l1 rs)).toArray = w15 at HX15 HB15 H415 HRD15 HRS15 ⊢
      generalize w14.heap.size = g15 at HX15 ⊢
      -- region 15
      have hR := Sb.stays w15.heap.size
      refine reg_start (Sb w15.heap.size) follows_mixed ?_
      have HBB := Lib.hid (Below.refl w15.heap.size w15).drew
      have hT : w15.drew.heap.size = w15.heap.size := rfl
      generalize w15.drew = w16 at HBB hT ⊢
      refine reg_take (v := .agg (cs8 l1).toArray) hR 0 rfl (by kernel_rfl) (by kernel_rfl) (by kernel_rfl) (fun _ _ _ h => h) (by rfl) ?_ ?_
      · intro W hW; exact exec_load_at 23 _ rfl ⟨w.heap.size, 0, none⟩ rfl (cs8 l1) _ ((H415.out.below HBB.out H415.out.lt).below hW H415.out.lt).at_ Try.underlying23 rfl (by rw [HC8.out]; exact info36)
      try simp only [Act.put, List.getElem_toArray, List.getElem_cons_succ, List.getElem_cons_zero, List.setIfInBounds_toArray, List.set_cons_zero, List.set_cons_succ]
      refine reg_step hR 1 (by kernel_rfl) rfl fun K hK => ?_
      try simp only [Act.put, List.getElem_toArray, List.getElem_cons_succ, List.getElem_cons_zero, List.setIfInBounds_toArray, List.set_cons_zero, List.set_cons_succ]
      rw [if_pos (by rfl)]
      refine wp_alloc_z 23 rfl z36 zero36 ?_
      refine hK.out _ _ ((Below.refl _ _).alloc (by omega) _) ?_
      have HZ17 := Lib.hid (Bk.new w16 z36 23)
      have HB17 := Lib.hid (HBB.out.alloc (by omega) (.cells z36.toArray 23))
      rw [hT] at HZ17 ⊢
      clear HBB hT
      clear hK K
      try simp only [Act.put, List.getElem_toArray, List.getElem_cons_succ, List.getElem_cons_zero, List.setIfInBounds_toArray, List.set_cons_zero, List.set_cons_succ]
      generalize w16.alloc (.cells z36.toArray 23) = w17 at HZ17 HB17 ⊢
      refine reg_take (v := .int .i64 0) hR 2 rfl (by kernel_rfl) (by kernel_rfl) (by kernel_rfl) (fun _ _ _ h => h) (by rfl) ?_ ?_
      · intro W hW; go_simp; try with_reducible rfl
      try simp only [Act.put, List.getElem_toArray, List.getElem_cons_succ, List.getElem_cons_zero, List.setIfInBounds_toArray, List.set_cons_zero, List.set_cons_succ]
      refine reg_step hR 3 (by kernel_rfl) rfl fun K hK => ?_
      try simp only [Act.put, List.getElem_toArray, List.getElem_cons_succ, List.getElem_cons_zero, List.setIfInBounds_toArray, List.set_cons_zero, List.set_cons_succ]
      rw [if_pos (by rfl)]
      refine wp_store_bk 23 _ _ rfl w15.heap.size rfl (cs8 l1) z36 rfl HZ17.out (by rw [HC8.out]; exact info36) (by rw [HC8.out]; exact len_z36) (cs8_all _) ?_
      refine hK.out _ _ (below_setRow (Below.refl _ _) (Nat.le_refl _) _) ?_
      have HZ18 := Lib.hid (HZ17.out.setRow (cs8 l1))
      have HB18 := Lib.hid (below_setRow HB17.out (Nat.le_refl _) (cs8 l1).toArray)
      clear HZ17 HB17
      clear hK K
      try simp only [Act.put, List.getElem_toArray, List.getElem_cons_succ, List.getElem_cons_zero, List.setIfInBounds_toArray, List.set_cons_zero, List.set_cons_succ]
      generalize w17.setRow w15.heap.size (cs8 l1).toArray = w18 at HZ18 HB18 ⊢
      refine reg_done (by kernel_rfl) ?_ _
      have HV0 := Lib.hid (show V2 w w18 w15.heap.size g15 (endR l1 rs) raw A13 m c13 A14 n14 c14 l14 from ⟨HB15.out.trans (HB18.out.mono HB15.out.size), HX15.out.below HB18.out HX15.out.lt, HX15.out.lt, HRD15.out.below HB18.out, HRS15.out.below HB18.out, HB18.out.size, H415.out.lt⟩)
      clear HB15 H415 HRD15 HRS15 HB18 HX15
      generalize w15.heap.size = T at HV0 HZ18 ⊢
      go_wp2
      go_loopw [16, 18] (fun v16 v18 wr => ∃ i k : Nat, i ≤ n14 ∧ v18 = .int .i64 (i : Int) ∧ v16 = .int .i64 (k : Int) ∧ Hid (k = (recsB l1 (rs.take i)).length) ∧ Hid (V2 w wr T g15 (endR l1 rs) raw A13 m c13 A14 n14 c14 l14) ∧ Hid (Bk wr T (cs8 (endR l1 (rs.take i))))) (fun _ v18 _ => n14 - (RowKit.intOf v18).toNat)
      case atStart => exact ⟨0, 0, by omega, rfl, rfl, Lib.hid (by simp [recsB]), HV0, Lib.hid (by simpa [endR] using HZ18.out)⟩
      case round =>
        clear HV0 HZ18
        obtain ⟨i, k, hin, rfl, rfl, HK, HV, HNX⟩ := hrel
        have hkeq := congrArg List.length HBT.out
        rw [recsB_take l1 rs i, List.length_append, List.length_append, hm, ← HK.out] at hkeq
        have HKE := Lib.hid hkeq
        have hkm : k ≤ m := by omega
        have HDR : Hid (raw.drop k = recsB (endR l1 (rs.take i)) (rs.drop i) ++ tail) := Lib.hid (by
          rw [HBT.out, recsB_take l1 rs i, HK.out, List.append_assoc, List.drop_left])
        have HS32 := Lib.hid (endR_length l1 HC.out (rs.take i))
        have HEE := Lib.hid (endR_take l1 rs i)
        have HTS := Lib.hid (show sz = k + (recsB (endR l1 (rs.take i)) (rs.drop i)).length by rw [← HSZ14.out, recsB_take l1 rs i, List.length_append, HK.out])
        clear hkeq
        by_cases hlt : i < n14
        · have hil : i < rs.length := by have := HN14.out; omega
          have hstep := recs_step l1 rs i hil
          have hat := rs_at hil
          obtain ⟨xk, xd, hx⟩ : ∃ xk xd, rs[i] = (xk, xd) := ⟨_, _, rfl⟩
          rw [hx] at hstep hat
          have HAT := Lib.hid hat
          have HRX := Lib.hid (show rs[i]? = some (xk, xd) by rw [List.getElem?_eq_getElem hil, hx])
          have hvx : Vr xk xd := by have := HVS.out rs[i] (List.getElem_mem hil); rwa [hx] at this
          have HVX := Lib.hid hvx
          have HST1 := Lib.hid hstep.1
          have HST2 := Lib.hid hstep.2
          clear hstep hat hx hvx hil
          generalize endR l1 (rs.take i) = S at HNX HDR HS32 HEE HTS HST1 HST2 HKE
          have HS8 := Lib.hid (show (cs8 S).length = 32 by rw [cs8_length, HS32.out])
          obtain ⟨j19, hj⟩ : ∃ j, (recsB S (rs.drop i)).length = j := ⟨_, rfl⟩
          have HJ := Lib.hid hj
          obtain ⟨S2, hS2⟩ : ∃ S2, nextR S xk xd = S2 := ⟨_, rfl⟩
          have HS2 := Lib.hid hS2
          have HS28 := Lib.hid (show (cs8 S2).length = 32 by rw [cs8_length, ← hS2, nextR_length])
          obtain ⟨st, hst⟩ : ∃ st, (recB S xk xd).length = st := ⟨_, rfl⟩
          have HSTL := Lib.hid hst
          have HSZ := Lib.hid (show 1 + (numSize xd.length + xd.length) + 8 = st by rw [← hst, recB_length])
          have hm4 := HM.out
          have HAll : Hid (∀ W : World, Rd W W.heap.size (restAt A13 c13 k) (m - k) (c13 - k) (raw.drop k) → Calls Try.prog 19 #[.agg (cs8 S).toArray, .slice (restAt A13 c13 k) (m - k) (c13 - k)] W fun e w' =>
              ∃ A n c l, e = .returned (.tuple #[.slice A n c, .int .i64 (j19 : Int), .agg (cs8 (endR l1 rs)).toArray]) ∧ l.map Rv.r = rs.drop i ∧ Rs w' w'.heap.size A n c l ∧ RsNew W.heap.size A l ∧ Below W.heap.size W w') := Lib.hid fun W hW => by
            refine (All_any W HS32.out hW (by omega) HDR.out (fun r hr => HVS.out r (List.mem_of_mem_drop hr)) (by rw [← HEE.out]; exact HST.out)).mono ?_
            rintro e w' ⟨A, n, c, l, rfl, h1, h2, h3, h4⟩
            exact ⟨A, n, c, l, by rw [HJ.out, ← HEE.out], h1, h2, h3, h4⟩
          have HRead : Hid (∀ W : World, Rd W W.heap.size (restAt A13 c13 k) (m - k) (c13 - k) (raw.drop k) → Calls Try.prog 9 #[.agg (cs8 S).toArray, .slice (restAt A13 c13 k) (m - k) (c13 - k)] W (ReadOk W S2 xk xd st)) := Lib.hid fun W hW => by
            have := Read_good W HS32.out hW (by omega) xk xd (recsB (nextR S xk xd) (rs.drop (i + 1)) ++ tail) HVX.out (by rw [HDR.out, HAT.out, recsB]; simp only [List.append_assoc])
            rwa [HS2.out, HSTL.out] at this
          have hjm : k + j19 ≤ m := by rw [← hj]; have := HKE.out; omega
          have HKJ := Lib.hid (show sz = k + j19 by rw [← hj]; exact HTS.out)
          clear hj hS2 hst HTS
          go_wp2
          refine region_meetQ (fun a0 a' w' => ∃ g t A19 n19 c19 l19, a' = puts a0 [(81, .agg (cs8 S).toArray), (82, .slice A13 m c13), (83, .int .i64 (k : Int)), (84, .slice (restAt A13 c13 k) (m - k) (c13 - k)), (85, .tuple #[.slice A19 n19 c19, .int .i64 (j19 : Int), .agg (cs8 (endR l1 rs)).toArray]), (80, .tuple #[.slice A19 n19 c19, .int .i64 (j19 : Int), .agg (cs8 (endR l1 rs)).toArray]), (86, .slice A19 n19 c19), (87, .int .i64 (j19 : Int)), (88, .agg (cs8 (endR l1 rs)).toArray), (21, .pointer (some ⟨g, 0, none⟩)), (19, .slice A19 n19 c19), (20, .int .i64 (j19 : Int))] ∧ Hid (l19.map Rv.r = rs.drop i) ∧ Hid (wr.heap.size ≤ g) ∧ Hid (Bk w' g (cs8 (endR l1 rs))) ∧ Hid (Rs w' t A19 n19 c19 l19) ∧ Hid (t ≤ w'.heap.size) ∧ Hid (Below wr.heap.size wr w')) ?_ ?_
          · have hR := Sb.stays wr.heap.size
            refine reg_start (Sb wr.heap.size) follows_mixed ?_
            have HN0 := Lib.hid HNX.out.drew
            have HltT := Lib.hid HNX.out.lt
            have HRK := Lib.hid (HV.out.rd hkm)
            have HB := Lib.hid (Below.refl wr.heap.size wr).drew
            clear HNX HV
            generalize wr.drew = u0 at HN0 HB ⊢
            refine reg_take (v := .agg (cs8 S).toArray) hR 0 rfl (by kernel_rfl) (by kernel_rfl) (by kernel_rfl) (fun _ _ _ h => by cases h.1) (by rfl) ?_ ?_
            · intro W hW; exact exec_load_at 23 _ rfl ⟨T, 0, none⟩ rfl (cs8 S) _ (HN0.out.below hW HltT.out).at_ Try.underlying23 rfl (by rw [HS8.out]; exact info36)
            try simp only [Act.put, List.getElem_toArray, List.getElem_cons_succ, List.getElem_cons_zero, List.setIfInBounds_toArray, List.set_cons_zero, List.set_cons_succ]
            refine reg_take (v := .slice A13 m c13) hR 1 rfl (by kernel_rfl) (by kernel_rfl) (by kernel_rfl) (fun _ _ _ h => by cases h.1) (by rfl) ?_ ?_
            · intro W hW; go_simp; try with_reducible rfl
            try simp only [Act.put, List.getElem_toArray, List.getElem_cons_succ, List.getElem_cons_zero, List.setIfInBounds_toArray, List.set_cons_zero, List.set_cons_succ]
            refine reg_take (v := .int .i64 (k : Int)) hR 2 rfl (by kernel_rfl) (by kernel_rfl) (by kernel_rfl) (fun _ _ _ h => by cases h.1) (by rfl) ?_ ?_
            · intro W hW; go_simp; try with_reducible rfl
            try simp only [Act.put, List.getElem_toArray, List.getElem_cons_succ, List.getElem_cons_zero, List.setIfInBounds_toArray, List.set_cons_zero, List.set_cons_succ]
            refine reg_take (v := .slice (restAt A13 c13 k) (m - k) (c13 - k)) hR 3 rfl (by kernel_rfl) (by kernel_rfl) (by kernel_rfl) (fun _ _ _ h => by cases h.1) (by rfl) ?_ ?_
            · intro W hW; exact exec_slice31_lo _ _ rfl rfl rfl hkm rfl
            try simp only [Act.put, List.getElem_toArray, List.getElem_cons_succ, List.getElem_cons_zero, List.setIfInBounds_toArray, List.set_cons_zero, List.set_cons_succ]
            refine reg_fork (rs := [4, 9]) hR (by kernel_rfl) (by simp) ?_
            intro i hi; simp only [List.mem_cons, List.not_mem_nil, or_false] at hi
            rcases hi with rfl | rfl
            · refine ⟨_, rfl, fun K hK => ?_⟩
              try simp only [Act.put, List.getElem_toArray, List.getElem_cons_succ, List.getElem_cons_zero, List.setIfInBounds_toArray, List.set_cons_zero, List.set_cons_succ]
              rw [if_pos (by rfl)]
              go_simp
              refine (HAll.out u0 ((HRK.out.below HB.out).more HB.out.size)).mono ?_; rintro e u1 ⟨A19, n19, c19, l19, rfl, hmap, hrs, hnew, hb⟩
              refine hK.out _ _ (show Below _ _ _ from hb.mono HB.out.size) ?_
              clear hK K
              have HMP := Lib.hid hmap
              clear hmap
              obtain ⟨t, hte⟩ : ∃ t, t = u1.heap.size := ⟨_, rfl⟩
              rw [← hte] at hrs
              have HO := Lib.hid hrs
              have HTT := Lib.hid (Nat.le_of_eq hte)
              clear hte
              clear hrs hnew
              have HB := Lib.hid (HB.out.trans (hb.mono HB.out.size))
              clear hb
              try simp only [Act.put, List.getElem_toArray, List.getElem_cons_succ, List.getElem_cons_zero, List.setIfInBounds_toArray, List.set_cons_zero, List.set_cons_succ]
              refine reg_take (v := .tuple #[.slice A19 n19 c19, .int .i64 (j19 : Int), .agg (cs8 (endR l1 rs)).toArray]) hR 5 rfl (by kernel_rfl) (by kernel_rfl) (by kernel_rfl) (fun _ _ _ h => by cases h.1) (by rfl) ?_ ?_
              · intro W hW; go_simp; try with_reducible rfl
              try simp only [Act.put, List.getElem_toArray, List.getElem_cons_succ, List.getElem_cons_zero, List.setIfInBounds_toArray, List.set_cons_zero, List.set_cons_succ]
              refine reg_take (v := .slice A19 n19 c19) hR 6 rfl (by kernel_rfl) (by kernel_rfl) (by kernel_rfl) (fun _ _ _ h => by cases h.1) (by rfl) ?_ ?_
              · intro W hW; go_simp; try with_reducible rfl
              try simp only [Act.put, List.getElem_toArray, List.getElem_cons_succ, List.getElem_cons_zero, List.setIfInBounds_toArray, List.set_cons_zero, List.set_cons_succ]
              refine reg_take (v := .int .i64 (j19 : Int)) hR 7 rfl (by kernel_rfl) (by kernel_rfl) (by kernel_rfl) (fun _ _ _ h => by cases h.1) (by rfl) ?_ ?_
              · intro W hW; go_simp; try with_reducible rfl
              try simp only [Act.put, List.getElem_toArray, List.getElem_cons_succ, List.getElem_cons_zero, List.setIfInBounds_toArray, List.set_cons_zero, List.set_cons_succ]
              refine reg_take (v := .agg (cs8 (endR l1 rs)).toArray) hR 8 rfl (by kernel_rfl) (by kernel_rfl) (by kernel_rfl) (fun _ _ _ h => by cases h.1) (by rfl) ?_ ?_
              · intro W hW; go_simp; try with_reducible rfl
              try simp only [Act.put, List.getElem_toArray, List.getElem_cons_succ, List.getElem_cons_zero, List.setIfInBounds_toArray, List.set_cons_zero, List.set_cons_succ]
              refine reg_step hR 9 (by kernel_rfl) rfl fun K hK => ?_
              try simp only [Act.put, List.getElem_toArray, List.getElem_cons_succ, List.getElem_cons_zero, List.setIfInBounds_toArray, List.set_cons_zero, List.set_cons_succ]
              rw [if_pos (by rfl)]
              refine wp_alloc_z 23 rfl z36 zero36 ?_
              refine hK.out _ _ ((Below.refl _ _).alloc HB.out.size _) ?_
              clear hK K
              have HGg := Lib.hid (Bk.new u1 z36 23)
              have HNg : Hid (Off u1.heap.size t A19 l19) := Lib.hid (Off.new HTT.out)
              have HO := Lib.hid (Rs.below HO.out ((Below.refl _ u1).alloc HTT.out (.cells z36.toArray 23)))
              have HTT := Lib.hid (show t ≤ (u1.alloc (.cells z36.toArray 23)).heap.size from Nat.le_trans HTT.out (by simp))
              have HTg := Lib.hid (show wr.heap.size ≤ u1.heap.size from HB.out.size)
              have HB := Lib.hid (HB.out.alloc HB.out.size (.cells z36.toArray 23))
              have HLg := Lib.hid (show u1.heap.size < (u1.alloc (.cells z36.toArray 23)).heap.size by simp)
              generalize hgw : u1.alloc (.cells z36.toArray 23) = u2 at HB HGg HO HTT HLg ⊢
              clear hgw
              generalize hgw : u1.heap.size = g at HGg HTg HLg HNg ⊢
              clear hgw
              try simp only [Act.put, List.getElem_toArray, List.getElem_cons_succ, List.getElem_cons_zero, List.setIfInBounds_toArray, List.set_cons_zero, List.set_cons_succ]
              refine reg_take (v := .slice A19 n19 c19) hR 10 rfl (by kernel_rfl) (by kernel_rfl) (by kernel_rfl) (fun _ _ _ h => by cases h.1) (by rfl) ?_ ?_
              · intro W hW; go_simp; try with_reducible rfl
              try simp only [Act.put, List.getElem_toArray, List.getElem_cons_succ, List.getElem_cons_zero, List.setIfInBounds_toArray, List.set_cons_zero, List.set_cons_succ]
              refine reg_take (v := .int .i64 (j19 : Int)) hR 11 rfl (by kernel_rfl) (by kernel_rfl) (by kernel_rfl) (fun _ _ _ h => by cases h.1) (by rfl) ?_ ?_
              · intro W hW; go_simp; try with_reducible rfl
              try simp only [Act.put, List.getElem_toArray, List.getElem_cons_succ, List.getElem_cons_zero, List.setIfInBounds_toArray, List.set_cons_zero, List.set_cons_succ]
              refine reg_step hR 12 (by kernel_rfl) rfl fun K hK => ?_
              try simp only [Act.put, List.getElem_toArray, List.getElem_cons_succ, List.getElem_cons_zero, List.setIfInBounds_toArray, List.set_cons_zero, List.set_cons_succ]
              rw [if_pos (by rfl)]
              refine wp_store_bk 23 _ _ rfl g rfl (cs8 (endR l1 rs)) z36 rfl HGg.out (by rw [HE8.out]; exact info36) (by rw [HE8.out]; exact len_z36) (cs8_all _) ?_
              refine hK.out _ _ (below_setRow (Below.refl _ _) HTg.out _) ?_
              clear hK K
              have HGg := Lib.hid (HGg.out.setRow (cs8 (endR l1 rs)))
              have HO := Lib.hid (Rs.grown HO.out HTT.out (grown_setRow u2 g ((cs8 (endR l1 rs))).toArray) HNg.out)
              have HTT := Lib.hid (show t ≤ (u2.setRow g ((cs8 (endR l1 rs))).toArray).heap.size from Nat.le_trans HTT.out (grown_setRow u2 g ((cs8 (endR l1 rs))).toArray).size)
              have HB := Lib.hid (below_setRow HB.out HTg.out ((cs8 (endR l1 rs))).toArray)
              generalize hgw : u2.setRow g ((cs8 (endR l1 rs))).toArray = u3 at HB HGg HO HTT ⊢
              clear hgw
              try simp only [Act.put, List.getElem_toArray, List.getElem_cons_succ, List.getElem_cons_zero, List.setIfInBounds_toArray, List.set_cons_zero, List.set_cons_succ]
              refine reg_done (by kernel_rfl) ?_ _
              refine ⟨rfl, g, t, A19, n19, c19, l19, ?_, HMP, HTg, HGg, HO, HTT, HB⟩
              simp only [puts, List.foldl_cons, List.foldl_nil, Act.put, List.getElem_toArray, List.getElem_cons_succ, List.getElem_cons_zero, List.setIfInBounds_toArray, List.set_cons_zero, List.set_cons_succ]
            · refine ⟨_, rfl, fun K hK => ?_⟩
              try simp only [Act.put, List.getElem_toArray, List.getElem_cons_succ, List.getElem_cons_zero, List.setIfInBounds_toArray, List.set_cons_zero, List.set_cons_succ]
              rw [if_pos (by rfl)]
              refine wp_alloc_z 23 rfl z36 zero36 ?_
              refine hK.out _ _ ((Below.refl _ _).alloc HB.out.size _) ?_
              clear hK K
              have HGg := Lib.hid (Bk.new u0 z36 23)
              have HTg := Lib.hid (show wr.heap.size ≤ u0.heap.size from HB.out.size)
              have HB := Lib.hid (HB.out.alloc HB.out.size (.cells z36.toArray 23))
              have HLg := Lib.hid (show u0.heap.size < (u0.alloc (.cells z36.toArray 23)).heap.size by simp)
              generalize hgw : u0.alloc (.cells z36.toArray 23) = u1 at HB HGg HLg ⊢
              clear hgw
              generalize hgw : u0.heap.size = g at HGg HTg HLg ⊢
              clear hgw
              try simp only [Act.put, List.getElem_toArray, List.getElem_cons_succ, List.getElem_cons_zero, List.setIfInBounds_toArray, List.set_cons_zero, List.set_cons_succ]
              refine reg_step hR 4 (by kernel_rfl) rfl fun K hK => ?_
              try simp only [Act.put, List.getElem_toArray, List.getElem_cons_succ, List.getElem_cons_zero, List.setIfInBounds_toArray, List.set_cons_zero, List.set_cons_succ]
              rw [if_pos (by rfl)]
              go_simp
              refine (HAll.out u1 ((HRK.out.below HB.out).more HB.out.size)).mono ?_; rintro e u2 ⟨A19, n19, c19, l19, rfl, hmap, hrs, hnew, hb⟩
              refine hK.out _ _ (show Below _ _ _ from hb.mono HB.out.size) ?_
              clear hK K
              have HMP := Lib.hid hmap
              clear hmap
              have HGg := Lib.hid (HGg.out.keep hb)
              obtain ⟨t, hte⟩ : ∃ t, t = u2.heap.size := ⟨_, rfl⟩
              rw [← hte] at hrs
              have HNg : Hid (Off g t A19 l19) := Lib.hid (hnew.off HLg.out)
              have HO := Lib.hid hrs
              have HTT := Lib.hid (Nat.le_of_eq hte)
              clear hte
              clear hrs hnew
              have HB := Lib.hid (HB.out.trans (hb.mono HB.out.size))
              clear hb
              have HLg := Lib.hid (show g < u2.heap.size from HGg.out.lt)
              try simp only [Act.put, List.getElem_toArray, List.getElem_cons_succ, List.getElem_cons_zero, List.setIfInBounds_toArray, List.set_cons_zero, List.set_cons_succ]
              refine reg_take (v := .tuple #[.slice A19 n19 c19, .int .i64 (j19 : Int), .agg (cs8 (endR l1 rs)).toArray]) hR 5 rfl (by kernel_rfl) (by kernel_rfl) (by kernel_rfl) (fun _ _ _ h => by cases h.1) (by rfl) ?_ ?_
              · intro W hW; go_simp; try with_reducible rfl
              try simp only [Act.put, List.getElem_toArray, List.getElem_cons_succ, List.getElem_cons_zero, List.setIfInBounds_toArray, List.set_cons_zero, List.set_cons_succ]
              refine reg_take (v := .slice A19 n19 c19) hR 6 rfl (by kernel_rfl) (by kernel_rfl) (by kernel_rfl) (fun _ _ _ h => by cases h.1) (by rfl) ?_ ?_
              · intro W hW; go_simp; try with_reducible rfl
              try simp only [Act.put, List.getElem_toArray, List.getElem_cons_succ, List.getElem_cons_zero, List.setIfInBounds_toArray, List.set_cons_zero, List.set_cons_succ]
              refine reg_take (v := .int .i64 (j19 : Int)) hR 7 rfl (by kernel_rfl) (by kernel_rfl) (by kernel_rfl) (fun _ _ _ h => by cases h.1) (by rfl) ?_ ?_
              · intro W hW; go_simp; try with_reducible rfl
              try simp only [Act.put, List.getElem_toArray, List.getElem_cons_succ, List.getElem_cons_zero, List.setIfInBounds_toArray, List.set_cons_zero, List.set_cons_succ]
              refine reg_take (v := .agg (cs8 (endR l1 rs)).toArray) hR 8 rfl (by kernel_rfl) (by kernel_rfl) (by kernel_rfl) (fun _ _ _ h => by cases h.1) (by rfl) ?_ ?_
              · intro W hW; go_simp; try with_reducible rfl
              try simp only [Act.put, List.getElem_toArray, List.getElem_cons_succ, List.getElem_cons_zero, List.setIfInBounds_toArray, List.set_cons_zero, List.set_cons_succ]
              refine reg_take (v := .slice A19 n19 c19) hR 10 rfl (by kernel_rfl) (by kernel_rfl) (by kernel_rfl) (fun _ _ _ h => by cases h.1) (by rfl) ?_ ?_
              · intro W hW; go_simp; try with_reducible rfl
              try simp only [Act.put, List.getElem_toArray, List.getElem_cons_succ, List.getElem_cons_zero, List.setIfInBounds_toArray, List.set_cons_zero, List.set_cons_succ]
              refine reg_take (v := .int .i64 (j19 : Int)) hR 11 rfl (by kernel_rfl) (by kernel_rfl) (by kernel_rfl) (fun _ _ _ h => by cases h.1) (by rfl) ?_ ?_
              · intro W hW; go_simp; try with_reducible rfl
              try simp only [Act.put, List.getElem_toArray, List.getElem_cons_succ, List.getElem_cons_zero, List.setIfInBounds_toArray, List.set_cons_zero, List.set_cons_succ]
              refine reg_step hR 12 (by kernel_rfl) rfl fun K hK => ?_
              try simp only [Act.put, List.getElem_toArray, List.getElem_cons_succ, List.getElem_cons_zero, List.setIfInBounds_toArray, List.set_cons_zero, List.set_cons_succ]
              rw [if_pos (by rfl)]
              refine wp_store_bk 23 _ _ rfl g rfl (cs8 (endR l1 rs)) z36 rfl HGg.out (by rw [HE8.out]; exact info36) (by rw [HE8.out]; exact len_z36) (cs8_all _) ?_
              refine hK.out _ _ (below_setRow (Below.refl _ _) HTg.out _) ?_
              clear hK K
              have HGg := Lib.hid (HGg.out.setRow (cs8 (endR l1 rs)))
              have HO := Lib.hid (Rs.grown HO.out HTT.out (grown_setRow u2 g ((cs8 (endR l1 rs))).toArray) HNg.out)
              have HTT := Lib.hid (show t ≤ (u2.setRow g ((cs8 (endR l1 rs))).toArray).heap.size from Nat.le_trans HTT.out (grown_setRow u2 g ((cs8 (endR l1 rs))).toArray).size)
              have HB := Lib.hid (below_setRow HB.out HTg.out ((cs8 (endR l1 rs))).toArray)
              generalize hgw : u2.setRow g ((cs8 (endR l1 rs))).toArray = u3 at HB HGg HO HTT ⊢
              clear hgw
              try simp only [Act.put, List.getElem_toArray, List.getElem_cons_succ, List.getElem_cons_zero, List.setIfInBounds_toArray, List.set_cons_zero, List.set_cons_succ]
              refine reg_done (by kernel_rfl) ?_ _
              refine ⟨rfl, g, t, A19, n19, c19, l19, ?_, HMP, HTg, HGg, HO, HTT, HB⟩
              simp only [puts, List.foldl_cons, List.foldl_nil, Act.put, List.getElem_toArray, List.getElem_cons_succ, List.getElem_cons_zero, List.setIfInBounds_toArray, List.set_cons_zero, List.set_cons_succ]
          · rintro a' w4 ⟨g, t, A19, n19, c19, l19, rfl, HMP, HTg, HGg, HO, HTT, HB⟩
            simp only [puts, List.foldl_cons, List.foldl_nil, Act.put, List.getElem_toArray, List.getElem_cons_succ, List.getElem_cons_zero, List.setIfInBounds_toArray, List.set_cons_zero, List.set_cons_succ]
            have HV4 := Lib.hid (HV.out.call HB.out)
            have HN4 := Lib.hid (HNX.out.keep HB.out)
            have hn19 : n19 ≤ m := by
              have h1 := congrArg List.length HMP.out
              rw [List.length_map, HO.out.1, List.length_drop, HN14.out] at h1
              omega
            clear HV HNX HB
            have harr := arr_same (show (endR l1 rs).length = 32 from endR_length l1 HC.out rs)
            have hkj : (k : Int) + (j19 : Int) = (sz : Int) := by have := HKJ.out; omega
            go_wp2_with (first | (refine wpList_exec rfl _ (exec_slice39_lo (k := i) _ _ rfl rfl rfl hin rfl) ?_) | fail)
            refine (Records_yes w4 (HO.out.more HTT.out) ((HV4.out.all.more HV4.out.size).drop_ (k := i) hin) (by omega) (by rw [HMP.out, List.map_drop, HMAP.out])).mono ?_; rintro e w5 ⟨rfl, hb⟩
            have HV := Lib.hid (HV4.out.call hb)
            have HNX := Lib.hid (HN4.out.keep hb)
            have HG5 := Lib.hid (HGg.out.keep hb)
            clear HV4 HN4 HGg HO HTT hb
            go_wp2_with (first | (refine wpList_load_atG rfl 23 _ rfl ⟨g, 0, none⟩ rfl (cs8 (endR l1 rs)) _ HG5.out.at_ Try.underlying23 rfl (by rw [HE8.out]; exact info36) ?_) | (refine wpList_load_atG rfl 23 _ rfl ⟨g15, 0, none⟩ rfl (cs8 (endR l1 rs)) _ HV.out.c15.at_ Try.underlying23 rfl (by rw [HE8.out]; exact info36) ?_) | fail)
            clear harr HG5 hkj
            refine region_meetQ (fun a0 a' w' => ∃ p q A22 n22 c22, a' = puts a0 [(108, .agg (cs8 S).toArray), (109, .slice A13 m c13), (110, .int .i64 (k : Int)), (111, .slice (restAt A13 c13 k) (m - k) (c13 - k)), (112, .tuple #[.agg #[.int .u8 (xk.toNat : Int), .slice A22 n22 c22], .int .i64 (st : Int), .agg (cs8 S2).toArray, .int .i64 0]), (107, .tuple #[.agg #[.int .u8 (xk.toNat : Int), .slice A22 n22 c22], .int .i64 (st : Int), .agg (cs8 S2).toArray, .int .i64 0]), (113, .agg #[.int .u8 (xk.toNat : Int), .slice A22 n22 c22]), (114, .int .i64 (st : Int)), (115, .agg (cs8 S2).toArray), (116, .int .i64 0), (22, .pointer (some ⟨p, 0, none⟩)), (24, .pointer (some ⟨q, 0, none⟩)), (23, .int .i64 (st : Int)), (25, .int .i64 0)] ∧ Hid (w5.heap.size ≤ p) ∧ Hid (w5.heap.size ≤ q) ∧ Hid (p ≠ q) ∧ Hid (Bk w' p [.int .u8 (xk.toNat : Int), .slice A22 n22 c22]) ∧ Hid (Bk w' q (cs8 S2)) ∧ Hid (Ow w' w5.heap.size (.slice A22 n22 c22) xd) ∧ Hid (Below w5.heap.size w5 w')) ?_ ?_
            · have hR := Sb.stays w5.heap.size
              refine reg_start (Sb w5.heap.size) follows_mixed ?_
              have HN0 := Lib.hid HNX.out.drew
              have HltT := Lib.hid HNX.out.lt
              have HRK := Lib.hid (HV.out.rd hkm)
              have HB := Lib.hid (Below.refl w5.heap.size w5).drew
              clear HNX HV
              generalize w5.drew = u0 at HN0 HB ⊢
              refine reg_take (v := .agg (cs8 S).toArray) hR 0 rfl (by kernel_rfl) (by kernel_rfl) (by kernel_rfl) (fun _ _ _ h => by cases h.1) (by rfl) ?_ ?_
              · intro W hW; exact exec_load_at 23 _ rfl ⟨T, 0, none⟩ rfl (cs8 S) _ (HN0.out.below hW HltT.out).at_ Try.underlying23 rfl (by rw [HS8.out]; exact info36)
              try simp only [Act.put, List.getElem_toArray, List.getElem_cons_succ, List.getElem_cons_zero, List.setIfInBounds_toArray, List.set_cons_zero, List.set_cons_succ]
              refine reg_take (v := .slice A13 m c13) hR 1 rfl (by kernel_rfl) (by kernel_rfl) (by kernel_rfl) (fun _ _ _ h => by cases h.1) (by rfl) ?_ ?_
              · intro W hW; go_simp; try with_reducible rfl
              try simp only [Act.put, List.getElem_toArray, List.getElem_cons_succ, List.getElem_cons_zero, List.setIfInBounds_toArray, List.set_cons_zero, List.set_cons_succ]
              refine reg_take (v := .int .i64 (k : Int)) hR 2 rfl (by kernel_rfl) (by kernel_rfl) (by kernel_rfl) (fun _ _ _ h => by cases h.1) (by rfl) ?_ ?_
              · intro W hW; go_simp; try with_reducible rfl
              try simp only [Act.put, List.getElem_toArray, List.getElem_cons_succ, List.getElem_cons_zero, List.setIfInBounds_toArray, List.set_cons_zero, List.set_cons_succ]
              refine reg_take (v := .slice (restAt A13 c13 k) (m - k) (c13 - k)) hR 3 rfl (by kernel_rfl) (by kernel_rfl) (by kernel_rfl) (fun _ _ _ h => by cases h.1) (by rfl) ?_ ?_
              · intro W hW; exact exec_slice31_lo _ _ rfl rfl rfl hkm rfl
              try simp only [Act.put, List.getElem_toArray, List.getElem_cons_succ, List.getElem_cons_zero, List.setIfInBounds_toArray, List.set_cons_zero, List.set_cons_succ]
              refine reg_fork (rs := [4, 10, 11]) hR (by kernel_rfl) (by simp) ?_
              intro i hi; simp only [List.mem_cons, List.not_mem_nil, or_false] at hi
              rcases hi with rfl | rfl | rfl
              · refine ⟨_, rfl, fun K hK => ?_⟩
                try simp only [Act.put, List.getElem_toArray, List.getElem_cons_succ, List.getElem_cons_zero, List.setIfInBounds_toArray, List.set_cons_zero, List.set_cons_succ]
                rw [if_pos (by rfl)]
                go_simp
                refine (HRead.out u0 ((HRK.out.below HB.out).more HB.out.size)).mono ?_; rintro e u1 ⟨A22, n22, c22, rfl, ho, hb⟩
                refine hK.out _ _ (show Below _ _ _ from hb.mono HB.out.size) ?_
                clear hK K
                have HO := Lib.hid (Ow.lower ho HB.out.size)
                clear ho
                have HB := Lib.hid (HB.out.trans (hb.mono HB.out.size))
                clear hb
                try simp only [Act.put, List.getElem_toArray, List.getElem_cons_succ, List.getElem_cons_zero, List.setIfInBounds_toArray, List.set_cons_zero, List.set_cons_succ]
                refine reg_take (v := .tuple #[.agg #[.int .u8 (xk.toNat : Int), .slice A22 n22 c22], .int .i64 (st : Int), .agg (cs8 S2).toArray, .int .i64 0]) hR 5 rfl (by kernel_rfl) (by kernel_rfl) (by kernel_rfl) (fun _ _ _ h => by cases h.1) (by rfl) ?_ ?_
                · intro W hW; go_simp; try with_reducible rfl
                try simp only [Act.put, List.getElem_toArray, List.getElem_cons_succ, List.getElem_cons_zero, List.setIfInBounds_toArray, List.set_cons_zero, List.set_cons_succ]
                refine reg_take (v := .agg #[.int .u8 (xk.toNat : Int), .slice A22 n22 c22]) hR 6 rfl (by kernel_rfl) (by kernel_rfl) (by kernel_rfl) (fun _ _ _ h => by cases h.1) (by rfl) ?_ ?_
                · intro W hW; go_simp; try with_reducible rfl
                try simp only [Act.put, List.getElem_toArray, List.getElem_cons_succ, List.getElem_cons_zero, List.setIfInBounds_toArray, List.set_cons_zero, List.set_cons_succ]
                refine reg_take (v := .int .i64 (st : Int)) hR 7 rfl (by kernel_rfl) (by kernel_rfl) (by kernel_rfl) (fun _ _ _ h => by cases h.1) (by rfl) ?_ ?_
                · intro W hW; go_simp; try with_reducible rfl
                try simp only [Act.put, List.getElem_toArray, List.getElem_cons_succ, List.getElem_cons_zero, List.setIfInBounds_toArray, List.set_cons_zero, List.set_cons_succ]
                refine reg_take (v := .agg (cs8 S2).toArray) hR 8 rfl (by kernel_rfl) (by kernel_rfl) (by kernel_rfl) (fun _ _ _ h => by cases h.1) (by rfl) ?_ ?_
                · intro W hW; go_simp; try with_reducible rfl
                try simp only [Act.put, List.getElem_toArray, List.getElem_cons_succ, List.getElem_cons_zero, List.setIfInBounds_toArray, List.set_cons_zero, List.set_cons_succ]
                refine reg_take (v := .int .i64 0) hR 9 rfl (by kernel_rfl) (by kernel_rfl) (by kernel_rfl) (fun _ _ _ h => by cases h.1) (by rfl) ?_ ?_
                · intro W hW; go_simp; try with_reducible rfl
                try simp only [Act.put, List.getElem_toArray, List.getElem_cons_succ, List.getElem_cons_zero, List.setIfInBounds_toArray, List.set_cons_zero, List.set_cons_succ]
                refine reg_fork (rs := [10, 11]) hR (by kernel_rfl) (by simp) ?_
                intro i hi; simp only [List.mem_cons, List.not_mem_nil, or_false] at hi
                rcases hi with rfl | rfl
                · refine ⟨_, rfl, fun K hK => ?_⟩
                  try simp only [Act.put, List.getElem_toArray, List.getElem_cons_succ, List.getElem_cons_zero, List.setIfInBounds_toArray, List.set_cons_zero, List.set_cons_succ]
                  rw [if_pos (by rfl)]
                  refine wp_alloc_z 31 rfl z31 zero31 ?_
                  refine hK.out _ _ ((Below.refl _ _).alloc HB.out.size _) ?_
                  clear hK K
                  have HGp := Lib.hid (Bk.new u1 z31 31)
                  have HNp := Lib.hid (show Value.ownBlock (.slice A22 n22 c22) ≠ some u1.heap.size from fun e => by have h1 := (World.ownsRow.lt HO.out _ e).2; omega)
                  have HO := Lib.hid (Ow.alloc HO.out (.cells z31.toArray 31))
                  have HTp := Lib.hid (show w5.heap.size ≤ u1.heap.size from HB.out.size)
                  have HB := Lib.hid (HB.out.alloc HB.out.size (.cells z31.toArray 31))
                  have HLp := Lib.hid (show u1.heap.size < (u1.alloc (.cells z31.toArray 31)).heap.size by simp)
                  generalize hgw : u1.alloc (.cells z31.toArray 31) = u2 at HB HGp HO HLp ⊢
                  clear hgw
                  generalize hgw : u1.heap.size = p at HGp HTp HLp HNp ⊢
                  clear hgw
                  try simp only [Act.put, List.getElem_toArray, List.getElem_cons_succ, List.getElem_cons_zero, List.setIfInBounds_toArray, List.set_cons_zero, List.set_cons_succ]
                  refine reg_step hR 11 (by kernel_rfl) rfl fun K hK => ?_
                  try simp only [Act.put, List.getElem_toArray, List.getElem_cons_succ, List.getElem_cons_zero, List.setIfInBounds_toArray, List.set_cons_zero, List.set_cons_succ]
                  rw [if_pos (by rfl)]
                  refine wp_alloc_z 23 rfl z36 zero36 ?_
                  refine hK.out _ _ ((Below.refl _ _).alloc HB.out.size _) ?_
                  clear hK K
                  have HGq := Lib.hid (Bk.new u2 z36 23)
                  have HXpq := Lib.hid (show p ≠ u2.heap.size from by have h1 := HGp.out.lt; omega)
                  have HGp := Lib.hid (HGp.out.old (.cells z36.toArray 23))
                  have HNq := Lib.hid (show Value.ownBlock (.slice A22 n22 c22) ≠ some u2.heap.size from fun e => by have h1 := (World.ownsRow.lt HO.out _ e).2; omega)
                  have HO := Lib.hid (Ow.alloc HO.out (.cells z36.toArray 23))
                  have HTq := Lib.hid (show w5.heap.size ≤ u2.heap.size from HB.out.size)
                  have HB := Lib.hid (HB.out.alloc HB.out.size (.cells z36.toArray 23))
                  have HLq := Lib.hid (show u2.heap.size < (u2.alloc (.cells z36.toArray 23)).heap.size by simp)
                  have HLp := Lib.hid (show p < (u2.alloc (.cells z36.toArray 23)).heap.size by have h1 := HLp.out; have h2 := HLq.out; omega)
                  generalize hgw : u2.alloc (.cells z36.toArray 23) = u3 at HB HGp HGq HO HLp HLq ⊢
                  clear hgw
                  generalize hgw : u2.heap.size = q at HGq HTq HLq HXpq HNq ⊢
                  clear hgw
                  try simp only [Act.put, List.getElem_toArray, List.getElem_cons_succ, List.getElem_cons_zero, List.setIfInBounds_toArray, List.set_cons_zero, List.set_cons_succ]
                  refine reg_step hR 12 (by kernel_rfl) rfl fun K hK => ?_
                  try simp only [Act.put, List.getElem_toArray, List.getElem_cons_succ, List.getElem_cons_zero, List.setIfInBounds_toArray, List.set_cons_zero, List.set_cons_succ]
                  rw [if_pos (by rfl)]
                  refine wp_store_bk 31 _ _ rfl p rfl ([.int .u8 (xk.toNat : Int), .slice A22 n22 c22] : List Value) z31 rfl HGp.out info31 rfl (rec_all _ _ _ _) ?_
                  refine hK.out _ _ (below_setRow (Below.refl _ _) HTp.out _) ?_
                  clear hK K
                  have HGp := Lib.hid (HGp.out.setRow ([.int .u8 (xk.toNat : Int), .slice A22 n22 c22] : List Value))
                  have HGq := Lib.hid (HGq.out.other (show q ≠ p from HXpq.out.symm) (([.int .u8 (xk.toNat : Int), .slice A22 n22 c22] : List Value)).toArray)
                  have HO := Lib.hid (World.ownsRow.kept HO.out (grown_setRow u3 p (([.int .u8 (xk.toNat : Int), .slice A22 n22 c22] : List Value)).toArray) (.inr HNp.out))
                  have HB := Lib.hid (below_setRow HB.out HTp.out (([.int .u8 (xk.toNat : Int), .slice A22 n22 c22] : List Value)).toArray)
                  generalize hgw : u3.setRow p (([.int .u8 (xk.toNat : Int), .slice A22 n22 c22] : List Value)).toArray = u4 at HB HGp HGq HO ⊢
                  clear hgw
                  try simp only [Act.put, List.getElem_toArray, List.getElem_cons_succ, List.getElem_cons_zero, List.setIfInBounds_toArray, List.set_cons_zero, List.set_cons_succ]
                  refine reg_take (v := .int .i64 (st : Int)) hR 13 rfl (by kernel_rfl) (by kernel_rfl) (by kernel_rfl) (fun _ _ _ h => by cases h.1) (by rfl) ?_ ?_
                  · intro W hW; go_simp; try with_reducible rfl
                  try simp only [Act.put, List.getElem_toArray, List.getElem_cons_succ, List.getElem_cons_zero, List.setIfInBounds_toArray, List.set_cons_zero, List.set_cons_succ]
                  refine reg_step hR 14 (by kernel_rfl) rfl fun K hK => ?_
                  try simp only [Act.put, List.getElem_toArray, List.getElem_cons_succ, List.getElem_cons_zero, List.setIfInBounds_toArray, List.set_cons_zero, List.set_cons_succ]
                  rw [if_pos (by rfl)]
                  refine wp_store_bk 23 _ _ rfl q rfl (cs8 S2) z36 rfl HGq.out (by rw [HS28.out]; exact info36) (by rw [HS28.out]; exact len_z36) (cs8_all _) ?_
                  refine hK.out _ _ (below_setRow (Below.refl _ _) HTq.out _) ?_
                  clear hK K
                  have HGq := Lib.hid (HGq.out.setRow (cs8 S2))
                  have HGp := Lib.hid (HGp.out.other (show p ≠ q from HXpq.out) ((cs8 S2)).toArray)
                  have HO := Lib.hid (World.ownsRow.kept HO.out (grown_setRow u4 q ((cs8 S2)).toArray) (.inr HNq.out))
                  have HB := Lib.hid (below_setRow HB.out HTq.out ((cs8 S2)).toArray)
                  generalize hgw : u4.setRow q ((cs8 S2)).toArray = u5 at HB HGp HGq HO ⊢
                  clear hgw
                  try simp only [Act.put, List.getElem_toArray, List.getElem_cons_succ, List.getElem_cons_zero, List.setIfInBounds_toArray, List.set_cons_zero, List.set_cons_succ]
                  refine reg_take (v := .int .i64 0) hR 15 rfl (by kernel_rfl) (by kernel_rfl) (by kernel_rfl) (fun _ _ _ h => by cases h.1) (by rfl) ?_ ?_
                  · intro W hW; go_simp; try with_reducible rfl
                  try simp only [Act.put, List.getElem_toArray, List.getElem_cons_succ, List.getElem_cons_zero, List.setIfInBounds_toArray, List.set_cons_zero, List.set_cons_succ]
                  refine reg_done (by kernel_rfl) ?_ _
                  refine ⟨rfl, p, q, A22, n22, c22, ?_, HTp, HTq, HXpq, HGp, HGq, HO, HB⟩
                  simp only [puts, List.foldl_cons, List.foldl_nil, Act.put, List.getElem_toArray, List.getElem_cons_succ, List.getElem_cons_zero, List.setIfInBounds_toArray, List.set_cons_zero, List.set_cons_succ]
                · refine ⟨_, rfl, fun K hK => ?_⟩
                  try simp only [Act.put, List.getElem_toArray, List.getElem_cons_succ, List.getElem_cons_zero, List.setIfInBounds_toArray, List.set_cons_zero, List.set_cons_succ]
                  rw [if_pos (by rfl)]
                  refine wp_alloc_z 23 rfl z36 zero36 ?_
                  refine hK.out _ _ ((Below.refl _ _).alloc HB.out.size _) ?_
                  clear hK K
                  have HGq := Lib.hid (Bk.new u1 z36 23)
                  have HNq := Lib.hid (show Value.ownBlock (.slice A22 n22 c22) ≠ some u1.heap.size from fun e => by have h1 := (World.ownsRow.lt HO.out _ e).2; omega)
                  have HO := Lib.hid (Ow.alloc HO.out (.cells z36.toArray 23))
                  have HTq := Lib.hid (show w5.heap.size ≤ u1.heap.size from HB.out.size)
                  have HB := Lib.hid (HB.out.alloc HB.out.size (.cells z36.toArray 23))
                  have HLq := Lib.hid (show u1.heap.size < (u1.alloc (.cells z36.toArray 23)).heap.size by simp)
                  generalize hgw : u1.alloc (.cells z36.toArray 23) = u2 at HB HGq HO HLq ⊢
                  clear hgw
                  generalize hgw : u1.heap.size = q at HGq HTq HLq HNq ⊢
                  clear hgw
                  try simp only [Act.put, List.getElem_toArray, List.getElem_cons_succ, List.getElem_cons_zero, List.setIfInBounds_toArray, List.set_cons_zero, List.set_cons_succ]
                  refine reg_step hR 10 (by kernel_rfl) rfl fun K hK => ?_
                  try simp only [Act.put, List.getElem_toArray, List.getElem_cons_succ, List.getElem_cons_zero, List.setIfInBounds_toArray, List.set_cons_zero, List.set_cons_succ]
                  rw [if_pos (by rfl)]
                  refine wp_alloc_z 31 rfl z31 zero31 ?_
                  refine hK.out _ _ ((Below.refl _ _).alloc HB.out.size _) ?_
                  clear hK K
                  have HGp := Lib.hid (Bk.new u2 z31 31)
                  have HXqp := Lib.hid (show q ≠ u2.heap.size from by have h1 := HGq.out.lt; omega)
                  have HGq := Lib.hid (HGq.out.old (.cells z31.toArray 31))
                  have HNp := Lib.hid (show Value.ownBlock (.slice A22 n22 c22) ≠ some u2.heap.size from fun e => by have h1 := (World.ownsRow.lt HO.out _ e).2; omega)
                  have HO := Lib.hid (Ow.alloc HO.out (.cells z31.toArray 31))
                  have HTp := Lib.hid (show w5.heap.size ≤ u2.heap.size from HB.out.size)
                  have HB := Lib.hid (HB.out.alloc HB.out.size (.cells z31.toArray 31))
                  have HLp := Lib.hid (show u2.heap.size < (u2.alloc (.cells z31.toArray 31)).heap.size by simp)
                  have HLq := Lib.hid (show q < (u2.alloc (.cells z31.toArray 31)).heap.size by have h1 := HLq.out; have h2 := HLp.out; omega)
                  generalize hgw : u2.alloc (.cells z31.toArray 31) = u3 at HB HGq HGp HO HLq HLp ⊢
                  clear hgw
                  generalize hgw : u2.heap.size = p at HGp HTp HLp HXqp HNp ⊢
                  clear hgw
                  try simp only [Act.put, List.getElem_toArray, List.getElem_cons_succ, List.getElem_cons_zero, List.setIfInBounds_toArray, List.set_cons_zero, List.set_cons_succ]
                  refine reg_step hR 12 (by kernel_rfl) rfl fun K hK => ?_
                  try simp only [Act.put, List.getElem_toArray, List.getElem_cons_succ, List.getElem_cons_zero, List.setIfInBounds_toArray, List.set_cons_zero, List.set_cons_succ]
                  rw [if_pos (by rfl)]
                  refine wp_store_bk 31 _ _ rfl p rfl ([.int .u8 (xk.toNat : Int), .slice A22 n22 c22] : List Value) z31 rfl HGp.out info31 rfl (rec_all _ _ _ _) ?_
                  refine hK.out _ _ (below_setRow (Below.refl _ _) HTp.out _) ?_
                  clear hK K
                  have HGp := Lib.hid (HGp.out.setRow ([.int .u8 (xk.toNat : Int), .slice A22 n22 c22] : List Value))
                  have HGq := Lib.hid (HGq.out.other (show q ≠ p from HXqp.out) (([.int .u8 (xk.toNat : Int), .slice A22 n22 c22] : List Value)).toArray)
                  have HO := Lib.hid (World.ownsRow.kept HO.out (grown_setRow u3 p (([.int .u8 (xk.toNat : Int), .slice A22 n22 c22] : List Value)).toArray) (.inr HNp.out))
                  have HB := Lib.hid (below_setRow HB.out HTp.out (([.int .u8 (xk.toNat : Int), .slice A22 n22 c22] : List Value)).toArray)
                  generalize hgw : u3.setRow p (([.int .u8 (xk.toNat : Int), .slice A22 n22 c22] : List Value)).toArray = u4 at HB HGq HGp HO ⊢
                  clear hgw
                  try simp only [Act.put, List.getElem_toArray, List.getElem_cons_succ, List.getElem_cons_zero, List.setIfInBounds_toArray, List.set_cons_zero, List.set_cons_succ]
                  refine reg_take (v := .int .i64 (st : Int)) hR 13 rfl (by kernel_rfl) (by kernel_rfl) (by kernel_rfl) (fun _ _ _ h => by cases h.1) (by rfl) ?_ ?_
                  · intro W hW; go_simp; try with_reducible rfl
                  try simp only [Act.put, List.getElem_toArray, List.getElem_cons_succ, List.getElem_cons_zero, List.setIfInBounds_toArray, List.set_cons_zero, List.set_cons_succ]
                  refine reg_step hR 14 (by kernel_rfl) rfl fun K hK => ?_
                  try simp only [Act.put, List.getElem_toArray, List.getElem_cons_succ, List.getElem_cons_zero, List.setIfInBounds_toArray, List.set_cons_zero, List.set_cons_succ]
                  rw [if_pos (by rfl)]
                  refine wp_store_bk 23 _ _ rfl q rfl (cs8 S2) z36 rfl HGq.out (by rw [HS28.out]; exact info36) (by rw [HS28.out]; exact len_z36) (cs8_all _) ?_
                  refine hK.out _ _ (below_setRow (Below.refl _ _) HTq.out _) ?_
                  clear hK K
                  have HGq := Lib.hid (HGq.out.setRow (cs8 S2))
                  have HGp := Lib.hid (HGp.out.other (show p ≠ q from HXqp.out.symm) ((cs8 S2)).toArray)
                  have HO := Lib.hid (World.ownsRow.kept HO.out (grown_setRow u4 q ((cs8 S2)).toArray) (.inr HNq.out))
                  have HB := Lib.hid (below_setRow HB.out HTq.out ((cs8 S2)).toArray)
                  generalize hgw : u4.setRow q ((cs8 S2)).toArray = u5 at HB HGq HGp HO ⊢
                  clear hgw
                  try simp only [Act.put, List.getElem_toArray, List.getElem_cons_succ, List.getElem_cons_zero, List.setIfInBounds_toArray, List.set_cons_zero, List.set_cons_succ]
                  refine reg_take (v := .int .i64 0) hR 15 rfl (by kernel_rfl) (by kernel_rfl) (by kernel_rfl) (fun _ _ _ h => by cases h.1) (by rfl) ?_ ?_
                  · intro W hW; go_simp; try with_reducible rfl
                  try simp only [Act.put, List.getElem_toArray, List.getElem_cons_succ, List.getElem_cons_zero, List.setIfInBounds_toArray, List.set_cons_zero, List.set_cons_succ]
                  refine reg_done (by kernel_rfl) ?_ _
                  refine ⟨rfl, p, q, A22, n22, c22, ?_, HTp, HTq, Lib.hid HXqp.out.symm, HGp, HGq, HO, HB⟩
                  simp only [puts, List.foldl_cons, List.foldl_nil, Act.put, List.getElem_toArray, List.getElem_cons_succ, List.getElem_cons_zero, List.setIfInBounds_toArray, List.set_cons_zero, List.set_cons_succ]
              · refine ⟨_, rfl, fun K hK => ?_⟩
                try simp only [Act.put, List.getElem_toArray, List.getElem_cons_succ, List.getElem_cons_zero, List.setIfInBounds_toArray, List.set_cons_zero, List.set_cons_succ]
                rw [if_pos (by rfl)]
                refine wp_alloc_z 31 rfl z31 zero31 ?_
                refine hK.out _ _ ((Below.refl _ _).alloc HB.out.size _) ?_
                clear hK K
                have HGp := Lib.hid (Bk.new u0 z31 31)
                have HTp := Lib.hid (show w5.heap.size ≤ u0.heap.size from HB.out.size)
                have HB := Lib.hid (HB.out.alloc HB.out.size (.cells z31.toArray 31))
                have HLp := Lib.hid (show u0.heap.size < (u0.alloc (.cells z31.toArray 31)).heap.size by simp)
                generalize hgw : u0.alloc (.cells z31.toArray 31) = u1 at HB HGp HLp ⊢
                clear hgw
                generalize hgw : u0.heap.size = p at HGp HTp HLp ⊢
                clear hgw
                try simp only [Act.put, List.getElem_toArray, List.getElem_cons_succ, List.getElem_cons_zero, List.setIfInBounds_toArray, List.set_cons_zero, List.set_cons_succ]
                refine reg_fork (rs := [4, 11]) hR (by kernel_rfl) (by simp) ?_
                intro i hi; simp only [List.mem_cons, List.not_mem_nil, or_false] at hi
                rcases hi with rfl | rfl
                · refine ⟨_, rfl, fun K hK => ?_⟩
                  try simp only [Act.put, List.getElem_toArray, List.getElem_cons_succ, List.getElem_cons_zero, List.setIfInBounds_toArray, List.set_cons_zero, List.set_cons_succ]
                  rw [if_pos (by rfl)]
                  go_simp
                  refine (HRead.out u1 ((HRK.out.below HB.out).more HB.out.size)).mono ?_; rintro e u2 ⟨A22, n22, c22, rfl, ho, hb⟩
                  refine hK.out _ _ (show Below _ _ _ from hb.mono HB.out.size) ?_
                  clear hK K
                  have HGp := Lib.hid (HGp.out.keep hb)
                  have HNp := Lib.hid (show Value.ownBlock (.slice A22 n22 c22) ≠ some p from fun e => by have h1 := (World.ownsRow.lt ho _ e).1; have h2 := HLp.out; omega)
                  have HO := Lib.hid (Ow.lower ho HB.out.size)
                  clear ho
                  have HB := Lib.hid (HB.out.trans (hb.mono HB.out.size))
                  clear hb
                  have HLp := Lib.hid (show p < u2.heap.size from HGp.out.lt)
                  try simp only [Act.put, List.getElem_toArray, List.getElem_cons_succ, List.getElem_cons_zero, List.setIfInBounds_toArray, List.set_cons_zero, List.set_cons_succ]
                  refine reg_take (v := .tuple #[.agg #[.int .u8 (xk.toNat : Int), .slice A22 n22 c22], .int .i64 (st : Int), .agg (cs8 S2).toArray, .int .i64 0]) hR 5 rfl (by kernel_rfl) (by kernel_rfl) (by kernel_rfl) (fun _ _ _ h => by cases h.1) (by rfl) ?_ ?_
                  · intro W hW; go_simp; try with_reducible rfl
                  try simp only [Act.put, List.getElem_toArray, List.getElem_cons_succ, List.getElem_cons_zero, List.setIfInBounds_toArray, List.set_cons_zero, List.set_cons_succ]
                  refine reg_take (v := .agg #[.int .u8 (xk.toNat : Int), .slice A22 n22 c22]) hR 6 rfl (by kernel_rfl) (by kernel_rfl) (by kernel_rfl) (fun _ _ _ h => by cases h.1) (by rfl) ?_ ?_
                  · intro W hW; go_simp; try with_reducible rfl
                  try simp only [Act.put, List.getElem_toArray, List.getElem_cons_succ, List.getElem_cons_zero, List.setIfInBounds_toArray, List.set_cons_zero, List.set_cons_succ]
                  refine reg_take (v := .int .i64 (st : Int)) hR 7 rfl (by kernel_rfl) (by kernel_rfl) (by kernel_rfl) (fun _ _ _ h => by cases h.1) (by rfl) ?_ ?_
                  · intro W hW; go_simp; try with_reducible rfl
                  try simp only [Act.put, List.getElem_toArray, List.getElem_cons_succ, List.getElem_cons_zero, List.setIfInBounds_toArray, List.set_cons_zero, List.set_cons_succ]
                  refine reg_take (v := .agg (cs8 S2).toArray) hR 8 rfl (by kernel_rfl) (by kernel_rfl) (by kernel_rfl) (fun _ _ _ h => by cases h.1) (by rfl) ?_ ?_
                  · intro W hW; go_simp; try with_reducible rfl
                  try simp only [Act.put, List.getElem_toArray, List.getElem_cons_succ, List.getElem_cons_zero, List.setIfInBounds_toArray, List.set_cons_zero, List.set_cons_succ]
                  refine reg_take (v := .int .i64 0) hR 9 rfl (by kernel_rfl) (by kernel_rfl) (by kernel_rfl) (fun _ _ _ h => by cases h.1) (by rfl) ?_ ?_
                  · intro W hW; go_simp; try with_reducible rfl
                  try simp only [Act.put, List.getElem_toArray, List.getElem_cons_succ, List.getElem_cons_zero, List.setIfInBounds_toArray, List.set_cons_zero, List.set_cons_succ]
                  refine reg_step hR 11 (by kernel_rfl) rfl fun K hK => ?_
                  try simp only [Act.put, List.getElem_toArray, List.getElem_cons_succ, List.getElem_cons_zero, List.setIfInBounds_toArray, List.set_cons_zero, List.set_cons_succ]
                  rw [if_pos (by rfl)]
                  refine wp_alloc_z 23 rfl z36 zero36 ?_
                  refine hK.out _ _ ((Below.refl _ _).alloc HB.out.size _) ?_
                  clear hK K
                  have HGq := Lib.hid (Bk.new u2 z36 23)
                  have HXpq := Lib.hid (show p ≠ u2.heap.size from by have h1 := HGp.out.lt; omega)
                  have HGp := Lib.hid (HGp.out.old (.cells z36.toArray 23))
                  have HNq := Lib.hid (show Value.ownBlock (.slice A22 n22 c22) ≠ some u2.heap.size from fun e => by have h1 := (World.ownsRow.lt HO.out _ e).2; omega)
                  have HO := Lib.hid (Ow.alloc HO.out (.cells z36.toArray 23))
                  have HTq := Lib.hid (show w5.heap.size ≤ u2.heap.size from HB.out.size)
                  have HB := Lib.hid (HB.out.alloc HB.out.size (.cells z36.toArray 23))
                  have HLq := Lib.hid (show u2.heap.size < (u2.alloc (.cells z36.toArray 23)).heap.size by simp)
                  have HLp := Lib.hid (show p < (u2.alloc (.cells z36.toArray 23)).heap.size by have h1 := HLp.out; have h2 := HLq.out; omega)
                  generalize hgw : u2.alloc (.cells z36.toArray 23) = u3 at HB HGp HGq HO HLp HLq ⊢
                  clear hgw
                  generalize hgw : u2.heap.size = q at HGq HTq HLq HXpq HNq ⊢
                  clear hgw
                  try simp only [Act.put, List.getElem_toArray, List.getElem_cons_succ, List.getElem_cons_zero, List.setIfInBounds_toArray, List.set_cons_zero, List.set_cons_succ]
                  refine reg_step hR 12 (by kernel_rfl) rfl fun K hK => ?_
                  try simp only [Act.put, List.getElem_toArray, List.getElem_cons_succ, List.getElem_cons_zero, List.setIfInBounds_toArray, List.set_cons_zero, List.set_cons_succ]
                  rw [if_pos (by rfl)]
                  refine wp_store_bk 31 _ _ rfl p rfl ([.int .u8 (xk.toNat : Int), .slice A22 n22 c22] : List Value) z31 rfl HGp.out info31 rfl (rec_all _ _ _ _) ?_
                  refine hK.out _ _ (below_setRow (Below.refl _ _) HTp.out _) ?_
                  clear hK K
                  have HGp := Lib.hid (HGp.out.setRow ([.int .u8 (xk.toNat : Int), .slice A22 n22 c22] : List Value))
                  have HGq := Lib.hid (HGq.out.other (show q ≠ p from HXpq.out.symm) (([.int .u8 (xk.toNat : Int), .slice A22 n22 c22] : List Value)).toArray)
                  have HO := Lib.hid (World.ownsRow.kept HO.out (grown_setRow u3 p (([.int .u8 (xk.toNat : Int), .slice A22 n22 c22] : List Value)).toArray) (.inr HNp.out))
                  have HB := Lib.hid (below_setRow HB.out HTp.out (([.int .u8 (xk.toNat : Int), .slice A22 n22 c22] : List Value)).toArray)
                  generalize hgw : u3.setRow p (([.int .u8 (xk.toNat : Int), .slice A22 n22 c22] : List Value)).toArray = u4 at HB HGp HGq HO ⊢
                  clear hgw
                  try simp only [Act.put, List.getElem_toArray, List.getElem_cons_succ, List.getElem_cons_zero, List.setIfInBounds_toArray, List.set_cons_zero, List.set_cons_succ]
                  refine reg_take (v := .int .i64 (st : Int)) hR 13 rfl (by kernel_rfl) (by kernel_rfl) (by kernel_rfl) (fun _ _ _ h => by cases h.1) (by rfl) ?_ ?_
                  · intro W hW; go_simp; try with_reducible rfl
                  try simp only [Act.put, List.getElem_toArray, List.getElem_cons_succ, List.getElem_cons_zero, List.setIfInBounds_toArray, List.set_cons_zero, List.set_cons_succ]
                  refine reg_step hR 14 (by kernel_rfl) rfl fun K hK => ?_
                  try simp only [Act.put, List.getElem_toArray, List.getElem_cons_succ, List.getElem_cons_zero, List.setIfInBounds_toArray, List.set_cons_zero, List.set_cons_succ]
                  rw [if_pos (by rfl)]
                  refine wp_store_bk 23 _ _ rfl q rfl (cs8 S2) z36 rfl HGq.out (by rw [HS28.out]; exact info36) (by rw [HS28.out]; exact len_z36) (cs8_all _) ?_
                  refine hK.out _ _ (below_setRow (Below.refl _ _) HTq.out _) ?_
                  clear hK K
                  have HGq := Lib.hid (HGq.out.setRow (cs8 S2))
                  have HGp := Lib.hid (HGp.out.other (show p ≠ q from HXpq.out) ((cs8 S2)).toArray)
                  have HO := Lib.hid (World.ownsRow.kept HO.out (grown_setRow u4 q ((cs8 S2)).toArray) (.inr HNq.out))
                  have HB := Lib.hid (below_setRow HB.out HTq.out ((cs8 S2)).toArray)
                  generalize hgw : u4.setRow q ((cs8 S2)).toArray = u5 at HB HGp HGq HO ⊢
                  clear hgw
                  try simp only [Act.put, List.getElem_toArray, List.getElem_cons_succ, List.getElem_cons_zero, List.setIfInBounds_toArray, List.set_cons_zero, List.set_cons_succ]
                  refine reg_take (v := .int .i64 0) hR 15 rfl (by kernel_rfl) (by kernel_rfl) (by kernel_rfl) (fun _ _ _ h => by cases h.1) (by rfl) ?_ ?_
                  · intro W hW; go_simp; try with_reducible rfl
                  try simp only [Act.put, List.getElem_toArray, List.getElem_cons_succ, List.getElem_cons_zero, List.setIfInBounds_toArray, List.set_cons_zero, List.set_cons_succ]
                  refine reg_done (by kernel_rfl) ?_ _
                  refine ⟨rfl, p, q, A22, n22, c22, ?_, HTp, HTq, HXpq, HGp, HGq, HO, HB⟩
                  simp only [puts, List.foldl_cons, List.foldl_nil, Act.put, List.getElem_toArray, List.getElem_cons_succ, List.getElem_cons_zero, List.setIfInBounds_toArray, List.set_cons_zero, List.set_cons_succ]
                · refine ⟨_, rfl, fun K hK => ?_⟩
                  try simp only [Act.put, List.getElem_toArray, List.getElem_cons_succ, List.getElem_cons_zero, List.setIfInBounds_toArray, List.set_cons_zero, List.set_cons_succ]
                  rw [if_pos (by rfl)]
                  refine wp_alloc_z 23 rfl z36 zero36 ?_
                  refine hK.out _ _ ((Below.refl _ _).alloc HB.out.size _) ?_
                  clear hK K
                  have HGq := Lib.hid (Bk.new u1 z36 23)
                  have HXpq := Lib.hid (show p ≠ u1.heap.size from by have h1 := HGp.out.lt; omega)
                  have HGp := Lib.hid (HGp.out.old (.cells z36.toArray 23))
                  have HTq := Lib.hid (show w5.heap.size ≤ u1.heap.size from HB.out.size)
                  have HB := Lib.hid (HB.out.alloc HB.out.size (.cells z36.toArray 23))
                  have HLq := Lib.hid (show u1.heap.size < (u1.alloc (.cells z36.toArray 23)).heap.size by simp)
                  have HLp := Lib.hid (show p < (u1.alloc (.cells z36.toArray 23)).heap.size by have h1 := HLp.out; have h2 := HLq.out; omega)
                  generalize hgw : u1.alloc (.cells z36.toArray 23) = u2 at HB HGp HGq HLp HLq ⊢
                  clear hgw
                  generalize hgw : u1.heap.size = q at HGq HTq HLq HXpq ⊢
                  clear hgw
                  try simp only [Act.put, List.getElem_toArray, List.getElem_cons_succ, List.getElem_cons_zero, List.setIfInBounds_toArray, List.set_cons_zero, List.set_cons_succ]
                  refine reg_step hR 4 (by kernel_rfl) rfl fun K hK => ?_
                  try simp only [Act.put, List.getElem_toArray, List.getElem_cons_succ, List.getElem_cons_zero, List.setIfInBounds_toArray, List.set_cons_zero, List.set_cons_succ]
                  rw [if_pos (by rfl)]
                  go_simp
                  refine (HRead.out u2 ((HRK.out.below HB.out).more HB.out.size)).mono ?_; rintro e u3 ⟨A22, n22, c22, rfl, ho, hb⟩
                  refine hK.out _ _ (show Below _ _ _ from hb.mono HB.out.size) ?_
                  clear hK K
                  have HGp := Lib.hid (HGp.out.keep hb)
                  have HGq := Lib.hid (HGq.out.keep hb)
                  have HNp := Lib.hid (show Value.ownBlock (.slice A22 n22 c22) ≠ some p from fun e => by have h1 := (World.ownsRow.lt ho _ e).1; have h2 := HLp.out; omega)
                  have HNq := Lib.hid (show Value.ownBlock (.slice A22 n22 c22) ≠ some q from fun e => by have h1 := (World.ownsRow.lt ho _ e).1; have h2 := HLq.out; omega)
                  have HO := Lib.hid (Ow.lower ho HB.out.size)
                  clear ho
                  have HB := Lib.hid (HB.out.trans (hb.mono HB.out.size))
                  clear hb
                  have HLp := Lib.hid (show p < u3.heap.size from HGp.out.lt)
                  have HLq := Lib.hid (show q < u3.heap.size from HGq.out.lt)
                  try simp only [Act.put, List.getElem_toArray, List.getElem_cons_succ, List.getElem_cons_zero, List.setIfInBounds_toArray, List.set_cons_zero, List.set_cons_succ]
                  refine reg_take (v := .tuple #[.agg #[.int .u8 (xk.toNat : Int), .slice A22 n22 c22], .int .i64 (st : Int), .agg (cs8 S2).toArray, .int .i64 0]) hR 5 rfl (by kernel_rfl) (by kernel_rfl) (by kernel_rfl) (fun _ _ _ h => by cases h.1) (by rfl) ?_ ?_
                  · intro W hW; go_simp; try with_reducible rfl
                  try simp only [Act.put, List.getElem_toArray, List.getElem_cons_succ, List.getElem_cons_zero, List.setIfInBounds_toArray, List.set_cons_zero, List.set_cons_succ]
                  refine reg_take (v := .agg #[.int .u8 (xk.toNat : Int), .slice A22 n22 c22]) hR 6 rfl (by kernel_rfl) (by kernel_rfl) (by kernel_rfl) (fun _ _ _ h => by cases h.1) (by rfl) ?_ ?_
                  · intro W hW; go_simp; try with_reducible rfl
                  try simp only [Act.put, List.getElem_toArray, List.getElem_cons_succ, List.getElem_cons_zero, List.setIfInBounds_toArray, List.set_cons_zero, List.set_cons_succ]
                  refine reg_take (v := .int .i64 (st : Int)) hR 7 rfl (by kernel_rfl) (by kernel_rfl) (by kernel_rfl) (fun _ _ _ h => by cases h.1) (by rfl) ?_ ?_
                  · intro W hW; go_simp; try with_reducible rfl
                  try simp only [Act.put, List.getElem_toArray, List.getElem_cons_succ, List.getElem_cons_zero, List.setIfInBounds_toArray, List.set_cons_zero, List.set_cons_succ]
                  refine reg_take (v := .agg (cs8 S2).toArray) hR 8 rfl (by kernel_rfl) (by kernel_rfl) (by kernel_rfl) (fun _ _ _ h => by cases h.1) (by rfl) ?_ ?_
                  · intro W hW; go_simp; try with_reducible rfl
                  try simp only [Act.put, List.getElem_toArray, List.getElem_cons_succ, List.getElem_cons_zero, List.setIfInBounds_toArray, List.set_cons_zero, List.set_cons_succ]
                  refine reg_take (v := .int .i64 0) hR 9 rfl (by kernel_rfl) (by kernel_rfl) (by kernel_rfl) (fun _ _ _ h => by cases h.1) (by rfl) ?_ ?_
                  · intro W hW; go_simp; try with_reducible rfl
                  try simp only [Act.put, List.getElem_toArray, List.getElem_cons_succ, List.getElem_cons_zero, List.setIfInBounds_toArray, List.set_cons_zero, List.set_cons_succ]
                  refine reg_step hR 12 (by kernel_rfl) rfl fun K hK => ?_
                  try simp only [Act.put, List.getElem_toArray, List.getElem_cons_succ, List.getElem_cons_zero, List.setIfInBounds_toArray, List.set_cons_zero, List.set_cons_succ]
                  rw [if_pos (by rfl)]
                  refine wp_store_bk 31 _ _ rfl p rfl ([.int .u8 (xk.toNat : Int), .slice A22 n22 c22] : List Value) z31 rfl HGp.out info31 rfl (rec_all _ _ _ _) ?_
                  refine hK.out _ _ (below_setRow (Below.refl _ _) HTp.out _) ?_
                  clear hK K
                  have HGp := Lib.hid (HGp.out.setRow ([.int .u8 (xk.toNat : Int), .slice A22 n22 c22] : List Value))
                  have HGq := Lib.hid (HGq.out.other (show q ≠ p from HXpq.out.symm) (([.int .u8 (xk.toNat : Int), .slice A22 n22 c22] : List Value)).toArray)
                  have HO := Lib.hid (World.ownsRow.kept HO.out (grown_setRow u3 p (([.int .u8 (xk.toNat : Int), .slice A22 n22 c22] : List Value)).toArray) (.inr HNp.out))
                  have HB := Lib.hid (below_setRow HB.out HTp.out (([.int .u8 (xk.toNat : Int), .slice A22 n22 c22] : List Value)).toArray)
                  generalize hgw : u3.setRow p (([.int .u8 (xk.toNat : Int), .slice A22 n22 c22] : List Value)).toArray = u4 at HB HGp HGq HO ⊢
                  clear hgw
                  try simp only [Act.put, List.getElem_toArray, List.getElem_cons_succ, List.getElem_cons_zero, List.setIfInBounds_toArray, List.set_cons_zero, List.set_cons_succ]
                  refine reg_take (v := .int .i64 (st : Int)) hR 13 rfl (by kernel_rfl) (by kernel_rfl) (by kernel_rfl) (fun _ _ _ h => by cases h.1) (by rfl) ?_ ?_
                  · intro W hW; go_simp; try with_reducible rfl
                  try simp only [Act.put, List.getElem_toArray, List.getElem_cons_succ, List.getElem_cons_zero, List.setIfInBounds_toArray, List.set_cons_zero, List.set_cons_succ]
                  refine reg_step hR 14 (by kernel_rfl) rfl fun K hK => ?_
                  try simp only [Act.put, List.getElem_toArray, List.getElem_cons_succ, List.getElem_cons_zero, List.setIfInBounds_toArray, List.set_cons_zero, List.set_cons_succ]
                  rw [if_pos (by rfl)]
                  refine wp_store_bk 23 _ _ rfl q rfl (cs8 S2) z36 rfl HGq.out (by rw [HS28.out]; exact info36) (by rw [HS28.out]; exact len_z36) (cs8_all _) ?_
                  refine hK.out _ _ (below_setRow (Below.refl _ _) HTq.out _) ?_
                  clear hK K
                  have HGq := Lib.hid (HGq.out.setRow (cs8 S2))
                  have HGp := Lib.hid (HGp.out.other (show p ≠ q from HXpq.out) ((cs8 S2)).toArray)
                  have HO := Lib.hid (World.ownsRow.kept HO.out (grown_setRow u4 q ((cs8 S2)).toArray) (.inr HNq.out))
                  have HB := Lib.hid (below_setRow HB.out HTq.out ((cs8 S2)).toArray)
                  generalize hgw : u4.setRow q ((cs8 S2)).toArray = u5 at HB HGp HGq HO ⊢
                  clear hgw
                  try simp only [Act.put, List.getElem_toArray, List.getElem_cons_succ, List.getElem_cons_zero, List.setIfInBounds_toArray, List.set_cons_zero, List.set_cons_succ]
                  refine reg_take (v := .int .i64 0) hR 15 rfl (by kernel_rfl) (by kernel_rfl) (by kernel_rfl) (fun _ _ _ h => by cases h.1) (by rfl) ?_ ?_
                  · intro W hW; go_simp; try with_reducible rfl
                  try simp only [Act.put, List.getElem_toArray, List.getElem_cons_succ, List.getElem_cons_zero, List.setIfInBounds_toArray, List.set_cons_zero, List.set_cons_succ]
                  refine reg_done (by kernel_rfl) ?_ _
                  refine ⟨rfl, p, q, A22, n22, c22, ?_, HTp, HTq, HXpq, HGp, HGq, HO, HB⟩
                  simp only [puts, List.foldl_cons, List.foldl_nil, Act.put, List.getElem_toArray, List.getElem_cons_succ, List.getElem_cons_zero, List.setIfInBounds_toArray, List.set_cons_zero, List.set_cons_succ]
              · refine ⟨_, rfl, fun K hK => ?_⟩
                try simp only [Act.put, List.getElem_toArray, List.getElem_cons_succ, List.getElem_cons_zero, List.setIfInBounds_toArray, List.set_cons_zero, List.set_cons_succ]
                rw [if_pos (by rfl)]
                refine wp_alloc_z 23 rfl z36 zero36 ?_
                refine hK.out _ _ ((Below.refl _ _).alloc HB.out.size _) ?_
                clear hK K
                have HGq := Lib.hid (Bk.new u0 z36 23)
                have HTq := Lib.hid (show w5.heap.size ≤ u0.heap.size from HB.out.size)
                have HB := Lib.hid (HB.out.alloc HB.out.size (.cells z36.toArray 23))
                have HLq := Lib.hid (show u0.heap.size < (u0.alloc (.cells z36.toArray 23)).heap.size by simp)
                generalize hgw : u0.alloc (.cells z36.toArray 23) = u1 at HB HGq HLq ⊢
                clear hgw
                generalize hgw : u0.heap.size = q at HGq HTq HLq ⊢
                clear hgw
                try simp only [Act.put, List.getElem_toArray, List.getElem_cons_succ, List.getElem_cons_zero, List.setIfInBounds_toArray, List.set_cons_zero, List.set_cons_succ]
                refine reg_fork (rs := [4, 10]) hR (by kernel_rfl) (by simp) ?_
                intro i hi; simp only [List.mem_cons, List.not_mem_nil, or_false] at hi
                rcases hi with rfl | rfl
                · refine ⟨_, rfl, fun K hK => ?_⟩
                  try simp only [Act.put, List.getElem_toArray, List.getElem_cons_succ, List.getElem_cons_zero, List.setIfInBounds_toArray, List.set_cons_zero, List.set_cons_succ]
                  rw [if_pos (by rfl)]
                  go_simp
                  refine (HRead.out u1 ((HRK.out.below HB.out).more HB.out.size)).mono ?_; rintro e u2 ⟨A22, n22, c22, rfl, ho, hb⟩
                  refine hK.out _ _ (show Below _ _ _ from hb.mono HB.out.size) ?_
                  clear hK K
                  have HGq := Lib.hid (HGq.out.keep hb)
                  have HNq := Lib.hid (show Value.ownBlock (.slice A22 n22 c22) ≠ some q from fun e => by have h1 := (World.ownsRow.lt ho _ e).1; have h2 := HLq.out; omega)
                  have HO := Lib.hid (Ow.lower ho HB.out.size)
                  clear ho
                  have HB := Lib.hid (HB.out.trans (hb.mono HB.out.size))
                  clear hb
                  have HLq := Lib.hid (show q < u2.heap.size from HGq.out.lt)
                  try simp only [Act.put, List.getElem_toArray, List.getElem_cons_succ, List.getElem_cons_zero, List.setIfInBounds_toArray, List.set_cons_zero, List.set_cons_succ]
                  refine reg_take (v := .tuple #[.agg #[.int .u8 (xk.toNat : Int), .slice A22 n22 c22], .int .i64 (st : Int), .agg (cs8 S2).toArray, .int .i64 0]) hR 5 rfl (by kernel_rfl) (by kernel_rfl) (by kernel_rfl) (fun _ _ _ h => by cases h.1) (by rfl) ?_ ?_
                  · intro W hW; go_simp; try with_reducible rfl
                  try simp only [Act.put, List.getElem_toArray, List.getElem_cons_succ, List.getElem_cons_zero, List.setIfInBounds_toArray, List.set_cons_zero, List.set_cons_succ]
                  refine reg_take (v := .agg #[.int .u8 (xk.toNat : Int), .slice A22 n22 c22]) hR 6 rfl (by kernel_rfl) (by kernel_rfl) (by kernel_rfl) (fun _ _ _ h => by cases h.1) (by rfl) ?_ ?_
                  · intro W hW; go_simp; try with_reducible rfl
                  try simp only [Act.put, List.getElem_toArray, List.getElem_cons_succ, List.getElem_cons_zero, List.setIfInBounds_toArray, List.set_cons_zero, List.set_cons_succ]
                  refine reg_take (v := .int .i64 (st : Int)) hR 7 rfl (by kernel_rfl) (by kernel_rfl) (by kernel_rfl) (fun _ _ _ h => by cases h.1) (by rfl) ?_ ?_
                  · intro W hW; go_simp; try with_reducible rfl
                  try simp only [Act.put, List.getElem_toArray, List.getElem_cons_succ, List.getElem_cons_zero, List.setIfInBounds_toArray, List.set_cons_zero, List.set_cons_succ]
                  refine reg_take (v := .agg (cs8 S2).toArray) hR 8 rfl (by kernel_rfl) (by kernel_rfl) (by kernel_rfl) (fun _ _ _ h => by cases h.1) (by rfl) ?_ ?_
                  · intro W hW; go_simp; try with_reducible rfl
                  try simp only [Act.put, List.getElem_toArray, List.getElem_cons_succ, List.getElem_cons_zero, List.setIfInBounds_toArray, List.set_cons_zero, List.set_cons_succ]
                  refine reg_take (v := .int .i64 0) hR 9 rfl (by kernel_rfl) (by kernel_rfl) (by kernel_rfl) (fun _ _ _ h => by cases h.1) (by rfl) ?_ ?_
                  · intro W hW; go_simp; try with_reducible rfl
                  try simp only [Act.put, List.getElem_toArray, List.getElem_cons_succ, List.getElem_cons_zero, List.setIfInBounds_toArray, List.set_cons_zero, List.set_cons_succ]
                  refine reg_step hR 10 (by kernel_rfl) rfl fun K hK => ?_
                  try simp only [Act.put, List.getElem_toArray, List.getElem_cons_succ, List.getElem_cons_zero, List.setIfInBounds_toArray, List.set_cons_zero, List.set_cons_succ]
                  rw [if_pos (by rfl)]
                  refine wp_alloc_z 31 rfl z31 zero31 ?_
                  refine hK.out _ _ ((Below.refl _ _).alloc HB.out.size _) ?_
                  clear hK K
                  have HGp := Lib.hid (Bk.new u2 z31 31)
                  have HXqp := Lib.hid (show q ≠ u2.heap.size from by have h1 := HGq.out.lt; omega)
                  have HGq := Lib.hid (HGq.out.old (.cells z31.toArray 31))
                  have HNp := Lib.hid (show Value.ownBlock (.slice A22 n22 c22) ≠ some u2.heap.size from fun e => by have h1 := (World.ownsRow.lt HO.out _ e).2; omega)
                  have HO := Lib.hid (Ow.alloc HO.out (.cells z31.toArray 31))
                  have HTp := Lib.hid (show w5.heap.size ≤ u2.heap.size from HB.out.size)
                  have HB := Lib.hid (HB.out.alloc HB.out.size (.cells z31.toArray 31))
                  have HLp := Lib.hid (show u2.heap.size < (u2.alloc (.cells z31.toArray 31)).heap.size by simp)
                  have HLq := Lib.hid (show q < (u2.alloc (.cells z31.toArray 31)).heap.size by have h1 := HLq.out; have h2 := HLp.out; omega)
                  generalize hgw : u2.alloc (.cells z31.toArray 31) = u3 at HB HGq HGp HO HLq HLp ⊢
                  clear hgw
                  generalize hgw : u2.heap.size = p at HGp HTp HLp HXqp HNp ⊢
                  clear hgw
                  try simp only [Act.put, List.getElem_toArray, List.getElem_cons_succ, List.getElem_cons_zero, List.setIfInBounds_toArray, List.set_cons_zero, List.set_cons_succ]
                  refine reg_step hR 12 (by kernel_rfl) rfl fun K hK => ?_
                  try simp only [Act.put, List.getElem_toArray, List.getElem_cons_succ, List.getElem_cons_zero, List.setIfInBounds_toArray, List.set_cons_zero, List.set_cons_succ]
                  rw [if_pos (by rfl)]
                  refine wp_store_bk 31 _ _ rfl p rfl ([.int .u8 (xk.toNat : Int), .slice A22 n22 c22] : List Value) z31 rfl HGp.out info31 rfl (rec_all _ _ _ _) ?_
                  refine hK.out _ _ (below_setRow (Below.refl _ _) HTp.out _) ?_
                  clear hK K
                  have HGp := Lib.hid (HGp.out.setRow ([.int .u8 (xk.toNat : Int), .slice A22 n22 c22] : List Value))
                  have HGq := Lib.hid (HGq.out.other (show q ≠ p from HXqp.out) (([.int .u8 (xk.toNat : Int), .slice A22 n22 c22] : List Value)).toArray)
                  have HO := Lib.hid (World.ownsRow.kept HO.out (grown_setRow u3 p (([.int .u8 (xk.toNat : Int), .slice A22 n22 c22] : List Value)).toArray) (.inr HNp.out))
                  have HB := Lib.hid (below_setRow HB.out HTp.out (([.int .u8 (xk.toNat : Int), .slice A22 n22 c22] : List Value)).toArray)
                  generalize hgw : u3.setRow p (([.int .u8 (xk.toNat : Int), .slice A22 n22 c22] : List Value)).toArray = u4 at HB HGq HGp HO ⊢
                  clear hgw
                  try simp only [Act.put, List.getElem_toArray, List.getElem_cons_succ, List.getElem_cons_zero, List.setIfInBounds_toArray, List.set_cons_zero, List.set_cons_succ]
                  refine reg_take (v := .int .i64 (st : Int)) hR 13 rfl (by kernel_rfl) (by kernel_rfl) (by kernel_rfl) (fun _ _ _ h => by cases h.1) (by rfl) ?_ ?_
                  · intro W hW; go_simp; try with_reducible rfl
                  try simp only [Act.put, List.getElem_toArray, List.getElem_cons_succ, List.getElem_cons_zero, List.setIfInBounds_toArray, List.set_cons_zero, List.set_cons_succ]
                  refine reg_step hR 14 (by kernel_rfl) rfl fun K hK => ?_
                  try simp only [Act.put, List.getElem_toArray, List.getElem_cons_succ, List.getElem_cons_zero, List.setIfInBounds_toArray, List.set_cons_zero, List.set_cons_succ]
                  rw [if_pos (by rfl)]
                  refine wp_store_bk 23 _ _ rfl q rfl (cs8 S2) z36 rfl HGq.out (by rw [HS28.out]; exact info36) (by rw [HS28.out]; exact len_z36) (cs8_all _) ?_
                  refine hK.out _ _ (below_setRow (Below.refl _ _) HTq.out _) ?_
                  clear hK K
                  have HGq := Lib.hid (HGq.out.setRow (cs8 S2))
                  have HGp := Lib.hid (HGp.out.other (show p ≠ q from HXqp.out.symm) ((cs8 S2)).toArray)
                  have HO := Lib.hid (World.ownsRow.kept HO.out (grown_setRow u4 q ((cs8 S2)).toArray) (.inr HNq.out))
                  have HB := Lib.hid (below_setRow HB.out HTq.out ((cs8 S2)).toArray)
                  generalize hgw : u4.setRow q ((cs8 S2)).toArray = u5 at HB HGq HGp HO ⊢
                  clear hgw
                  try simp only [Act.put, List.getElem_toArray, List.getElem_cons_succ, List.getElem_cons_zero, List.setIfInBounds_toArray, List.set_cons_zero, List.set_cons_succ]
                  refine reg_take (v := .int .i64 0) hR 15 rfl (by kernel_rfl) (by kernel_rfl) (by kernel_rfl) (fun _ _ _ h => by cases h.1) (by rfl) ?_ ?_
                  · intro W hW; go_simp; try with_reducible rfl
                  try simp only [Act.put, List.getElem_toArray, List.getElem_cons_succ, List.getElem_cons_zero, List.setIfInBounds_toArray, List.set_cons_zero, List.set_cons_succ]
                  refine reg_done (by kernel_rfl) ?_ _
                  refine ⟨rfl, p, q, A22, n22, c22, ?_, HTp, HTq, Lib.hid HXqp.out.symm, HGp, HGq, HO, HB⟩
                  simp only [puts, List.foldl_cons, List.foldl_nil, Act.put, List.getElem_toArray, List.getElem_cons_succ, List.getElem_cons_zero, List.setIfInBounds_toArray, List.set_cons_zero, List.set_cons_succ]
                · refine ⟨_, rfl, fun K hK => ?_⟩
                  try simp only [Act.put, List.getElem_toArray, List.getElem_cons_succ, List.getElem_cons_zero, List.setIfInBounds_toArray, List.set_cons_zero, List.set_cons_succ]
                  rw [if_pos (by rfl)]
                  refine wp_alloc_z 31 rfl z31 zero31 ?_
                  refine hK.out _ _ ((Below.refl _ _).alloc HB.out.size _) ?_
                  clear hK K
                  have HGp := Lib.hid (Bk.new u1 z31 31)
                  have HXqp := Lib.hid (show q ≠ u1.heap.size from by have h1 := HGq.out.lt; omega)
                  have HGq := Lib.hid (HGq.out.old (.cells z31.toArray 31))
                  have HTp := Lib.hid (show w5.heap.size ≤ u1.heap.size from HB.out.size)
                  have HB := Lib.hid (HB.out.alloc HB.out.size (.cells z31.toArray 31))
                  have HLp := Lib.hid (show u1.heap.size < (u1.alloc (.cells z31.toArray 31)).heap.size by simp)
                  have HLq := Lib.hid (show q < (u1.alloc (.cells z31.toArray 31)).heap.size by have h1 := HLq.out; have h2 := HLp.out; omega)
                  generalize hgw : u1.alloc (.cells z31.toArray 31) = u2 at HB HGq HGp HLq HLp ⊢
                  clear hgw
                  generalize hgw : u1.heap.size = p at HGp HTp HLp HXqp ⊢
                  clear hgw
                  try simp only [Act.put, List.getElem_toArray, List.getElem_cons_succ, List.getElem_cons_zero, List.setIfInBounds_toArray, List.set_cons_zero, List.set_cons_succ]
                  refine reg_step hR 4 (by kernel_rfl) rfl fun K hK => ?_
                  try simp only [Act.put, List.getElem_toArray, List.getElem_cons_succ, List.getElem_cons_zero, List.setIfInBounds_toArray, List.set_cons_zero, List.set_cons_succ]
                  rw [if_pos (by rfl)]
                  go_simp
                  refine (HRead.out u2 ((HRK.out.below HB.out).more HB.out.size)).mono ?_; rintro e u3 ⟨A22, n22, c22, rfl, ho, hb⟩
                  refine hK.out _ _ (show Below _ _ _ from hb.mono HB.out.size) ?_
                  clear hK K
                  have HGq := Lib.hid (HGq.out.keep hb)
                  have HGp := Lib.hid (HGp.out.keep hb)
                  have HNq := Lib.hid (show Value.ownBlock (.slice A22 n22 c22) ≠ some q from fun e => by have h1 := (World.ownsRow.lt ho _ e).1; have h2 := HLq.out; omega)
                  have HNp := Lib.hid (show Value.ownBlock (.slice A22 n22 c22) ≠ some p from fun e => by have h1 := (World.ownsRow.lt ho _ e).1; have h2 := HLp.out; omega)
                  have HO := Lib.hid (Ow.lower ho HB.out.size)
                  clear ho
                  have HB := Lib.hid (HB.out.trans (hb.mono HB.out.size))
                  clear hb
                  have HLq := Lib.hid (show q < u3.heap.size from HGq.out.lt)
                  have HLp := Lib.hid (show p < u3.heap.size from HGp.out.lt)
                  try simp only [Act.put, List.getElem_toArray, List.getElem_cons_succ, List.getElem_cons_zero, List.setIfInBounds_toArray, List.set_cons_zero, List.set_cons_succ]
                  refine reg_take (v := .tuple #[.agg #[.int .u8 (xk.toNat : Int), .slice A22 n22 c22], .int .i64 (st : Int), .agg (cs8 S2).toArray, .int .i64 0]) hR 5 rfl (by kernel_rfl) (by kernel_rfl) (by kernel_rfl) (fun _ _ _ h => by cases h.1) (by rfl) ?_ ?_
                  · intro W hW; go_simp; try with_reducible rfl
                  try simp only [Act.put, List.getElem_toArray, List.getElem_cons_succ, List.getElem_cons_zero, List.setIfInBounds_toArray, List.set_cons_zero, List.set_cons_succ]
                  refine reg_take (v := .agg #[.int .u8 (xk.toNat : Int), .slice A22 n22 c22]) hR 6 rfl (by kernel_rfl) (by kernel_rfl) (by kernel_rfl) (fun _ _ _ h => by cases h.1) (by rfl) ?_ ?_
                  · intro W hW; go_simp; try with_reducible rfl
                  try simp only [Act.put, List.getElem_toArray, List.getElem_cons_succ, List.getElem_cons_zero, List.setIfInBounds_toArray, List.set_cons_zero, List.set_cons_succ]
                  refine reg_take (v := .int .i64 (st : Int)) hR 7 rfl (by kernel_rfl) (by kernel_rfl) (by kernel_rfl) (fun _ _ _ h => by cases h.1) (by rfl) ?_ ?_
                  · intro W hW; go_simp; try with_reducible rfl
                  try simp only [Act.put, List.getElem_toArray, List.getElem_cons_succ, List.getElem_cons_zero, List.setIfInBounds_toArray, List.set_cons_zero, List.set_cons_succ]
                  refine reg_take (v := .agg (cs8 S2).toArray) hR 8 rfl (by kernel_rfl) (by kernel_rfl) (by kernel_rfl) (fun _ _ _ h => by cases h.1) (by rfl) ?_ ?_
                  · intro W hW; go_simp; try with_reducible rfl
                  try simp only [Act.put, List.getElem_toArray, List.getElem_cons_succ, List.getElem_cons_zero, List.setIfInBounds_toArray, List.set_cons_zero, List.set_cons_succ]
                  refine reg_take (v := .int .i64 0) hR 9 rfl (by kernel_rfl) (by kernel_rfl) (by kernel_rfl) (fun _ _ _ h => by cases h.1) (by rfl) ?_ ?_
                  · intro W hW; go_simp; try with_reducible rfl
                  try simp only [Act.put, List.getElem_toArray, List.getElem_cons_succ, List.getElem_cons_zero, List.setIfInBounds_toArray, List.set_cons_zero, List.set_cons_succ]
                  refine reg_step hR 12 (by kernel_rfl) rfl fun K hK => ?_
                  try simp only [Act.put, List.getElem_toArray, List.getElem_cons_succ, List.getElem_cons_zero, List.setIfInBounds_toArray, List.set_cons_zero, List.set_cons_succ]
                  rw [if_pos (by rfl)]
                  refine wp_store_bk 31 _ _ rfl p rfl ([.int .u8 (xk.toNat : Int), .slice A22 n22 c22] : List Value) z31 rfl HGp.out info31 rfl (rec_all _ _ _ _) ?_
                  refine hK.out _ _ (below_setRow (Below.refl _ _) HTp.out _) ?_
                  clear hK K
                  have HGp := Lib.hid (HGp.out.setRow ([.int .u8 (xk.toNat : Int), .slice A22 n22 c22] : List Value))
                  have HGq := Lib.hid (HGq.out.other (show q ≠ p from HXqp.out) (([.int .u8 (xk.toNat : Int), .slice A22 n22 c22] : List Value)).toArray)
                  have HO := Lib.hid (World.ownsRow.kept HO.out (grown_setRow u3 p (([.int .u8 (xk.toNat : Int), .slice A22 n22 c22] : List Value)).toArray) (.inr HNp.out))
                  have HB := Lib.hid (below_setRow HB.out HTp.out (([.int .u8 (xk.toNat : Int), .slice A22 n22 c22] : List Value)).toArray)
                  generalize hgw : u3.setRow p (([.int .u8 (xk.toNat : Int), .slice A22 n22 c22] : List Value)).toArray = u4 at HB HGq HGp HO ⊢
                  clear hgw
                  try simp only [Act.put, List.getElem_toArray, List.getElem_cons_succ, List.getElem_cons_zero, List.setIfInBounds_toArray, List.set_cons_zero, List.set_cons_succ]
                  refine reg_take (v := .int .i64 (st : Int)) hR 13 rfl (by kernel_rfl) (by kernel_rfl) (by kernel_rfl) (fun _ _ _ h => by cases h.1) (by rfl) ?_ ?_
                  · intro W hW; go_simp; try with_reducible rfl
                  try simp only [Act.put, List.getElem_toArray, List.getElem_cons_succ, List.getElem_cons_zero, List.setIfInBounds_toArray, List.set_cons_zero, List.set_cons_succ]
                  refine reg_step hR 14 (by kernel_rfl) rfl fun K hK => ?_
                  try simp only [Act.put, List.getElem_toArray, List.getElem_cons_succ, List.getElem_cons_zero, List.setIfInBounds_toArray, List.set_cons_zero, List.set_cons_succ]
                  rw [if_pos (by rfl)]
                  refine wp_store_bk 23 _ _ rfl q rfl (cs8 S2) z36 rfl HGq.out (by rw [HS28.out]; exact info36) (by rw [HS28.out]; exact len_z36) (cs8_all _) ?_
                  refine hK.out _ _ (below_setRow (Below.refl _ _) HTq.out _) ?_
                  clear hK K
                  have HGq := Lib.hid (HGq.out.setRow (cs8 S2))
                  have HGp := Lib.hid (HGp.out.other (show p ≠ q from HXqp.out.symm) ((cs8 S2)).toArray)
                  have HO := Lib.hid (World.ownsRow.kept HO.out (grown_setRow u4 q ((cs8 S2)).toArray) (.inr HNq.out))
                  have HB := Lib.hid (below_setRow HB.out HTq.out ((cs8 S2)).toArray)
                  generalize hgw : u4.setRow q ((cs8 S2)).toArray = u5 at HB HGq HGp HO ⊢
                  clear hgw
                  try simp only [Act.put, List.getElem_toArray, List.getElem_cons_succ, List.getElem_cons_zero, List.setIfInBounds_toArray, List.set_cons_zero, List.set_cons_succ]
                  refine reg_take (v := .int .i64 0) hR 15 rfl (by kernel_rfl) (by kernel_rfl) (by kernel_rfl) (fun _ _ _ h => by cases h.1) (by rfl) ?_ ?_
                  · intro W hW; go_simp; try with_reducible rfl
                  try simp only [Act.put, List.getElem_toArray, List.getElem_cons_succ, List.getElem_cons_zero, List.setIfInBounds_toArray, List.set_cons_zero, List.set_cons_succ]
                  refine reg_done (by kernel_rfl) ?_ _
                  refine ⟨rfl, p, q, A22, n22, c22, ?_, HTp, HTq, Lib.hid HXqp.out.symm, HGp, HGq, HO, HB⟩
                  simp only [puts, List.foldl_cons, List.foldl_nil, Act.put, List.getElem_toArray, List.getElem_cons_succ, List.getElem_cons_zero, List.setIfInBounds_toArray, List.set_cons_zero, List.set_cons_succ]
            · rintro a' w6 ⟨p, q, A22, n22, c22, rfl, HTp, HTq, HPQ, HP, HQ, HO, HB⟩
              simp only [puts, List.foldl_cons, List.foldl_nil, Act.put, List.getElem_toArray, List.getElem_cons_succ, List.getElem_cons_zero, List.setIfInBounds_toArray, List.set_cons_zero, List.set_cons_succ]
              obtain ⟨A23, c23, e23, hrd⟩ := HO.out.rd
              injection e23 with e1 e2 e3
              subst e1; subst e2; subst e3
              have HRX2 := Lib.hid hrd
              have HltT := Lib.hid (show T < q from by have h1 := HNX.out.lt; have h2 := HTq.out; omega)
              have HV6 := Lib.hid (HV.out.call HB.out)
              have HN6 := Lib.hid (HNX.out.keep HB.out)
              clear HV HNX HB HO HTp HTq hrd
              go_wp2
              -- region 23
              have hR := Old.stays
              refine reg_start Old follows_mixed ?_
              obtain ⟨ad, y, ead, hy, hym, hyo, e0, e1⟩ := HV6.out.all.at_ (show i < n14 by omega)
              subst ead
              have hyr : y.k = xk ∧ y.d = xd := by
                have h1 := congrArg (fun t => t[i]?) HMAP.out
                simp only [List.getElem?_map, hy, Option.map_some] at h1
                rw [HRX.out] at h1
                have h3 := Option.some.inj h1
                exact ⟨congrArg Prod.fst h3, congrArg Prod.snd h3⟩
              have HYR := Lib.hid (And.intro hyr.1.symm hyr.2.symm)
              have HQ0 := Lib.hid (cell2 e0 e1)
              have hyo2 : Rv.ok w6 w6.heap.size y := hyo.more HV6.out.size
              have HYO := Lib.hid (Rv.ok.below hyo2 (Below.refl _ w6).drew)
              have HQY := Lib.hid (show ∀ j v, ([.int .u8 (y.k.toNat : Int), .slice y.A y.d.length y.c] : List Value)[j]? = some v → w6.drew.cell? ((ad.add (i * 2)).add j) = some v from HQ0.out)
              have HQT := Lib.hid (show (ad.add (i * 2)).block < w6.drew.heap.size from cell_lt (HQ0.out 0 _ rfl))
              have HRXD := Lib.hid (HRX2.out.below (Below.refl _ w6).drew)
              have HVD := Lib.hid (HV6.out.call (Below.refl _ w6).drew)
              have HND := Lib.hid HN6.out.drew
              have HPD := Lib.hid HP.out.drew
              have HQD := Lib.hid HQ.out.drew
              have hsz : w6.heap.size = w6.drew.heap.size := rfl
              rw [hsz] at HYO HRXD
              clear hy hym hyo e0 e1 hyr hyo2 HQ0 HRX2 HV6 HN6 HP HQ hsz
              generalize w6.drew = w7 at HYO HQY HQT HRXD HVD HND HPD HQD ⊢
              refine reg_take (v := .int .i64 0) hR 0 rfl (by kernel_rfl) (by kernel_rfl) (by kernel_rfl) (fun _ _ _ h => h) (by rfl) ?_ ?_
              · intro W hW; go_simp; try with_reducible rfl
              try simp only [Act.put, List.getElem_toArray, List.getElem_cons_succ, List.getElem_cons_zero, List.setIfInBounds_toArray, List.set_cons_zero, List.set_cons_succ]
              refine reg_take (v := .bool false) hR 1 rfl (by kernel_rfl) (by kernel_rfl) (by kernel_rfl) (fun _ _ _ h => h) (by rfl) ?_ ?_
              · intro W hW; go_simp; try with_reducible rfl
              try simp only [Act.put, List.getElem_toArray, List.getElem_cons_succ, List.getElem_cons_zero, List.setIfInBounds_toArray, List.set_cons_zero, List.set_cons_succ]
              refine reg_take (v := .bool false) hR 2 rfl (by kernel_rfl) (by kernel_rfl) (by kernel_rfl) (fun _ _ _ h => h) (by rfl) ?_ ?_
              · intro W hW; go_simp; try with_reducible rfl
              try simp only [Act.put, List.getElem_toArray, List.getElem_cons_succ, List.getElem_cons_zero, List.setIfInBounds_toArray, List.set_cons_zero, List.set_cons_succ]
              refine reg_take (v := .agg #[.int .u8 (xk.toNat : Int), .slice A22 xd.length c22]) hR 3 rfl (by kernel_rfl) (by kernel_rfl) (by kernel_rfl) (fun _ _ _ h => h) (by rfl) ?_ ?_
              · intro W hW; exact exec_load_at 31 _ rfl ⟨p, 0, none⟩ rfl [.int .u8 (xk.toNat : Int), .slice A22 xd.length c22] _ (HPD.out.keep hW).at_ Try.underlying31 rfl info31
              try simp only [Act.put, List.getElem_toArray, List.getElem_cons_succ, List.getElem_cons_zero, List.setIfInBounds_toArray, List.set_cons_zero, List.set_cons_succ]
              refine reg_take (v := .slice (some ad) n14 c14) hR 4 rfl (by kernel_rfl) (by kernel_rfl) (by kernel_rfl) (fun _ _ _ h => h) (by rfl) ?_ ?_
              · intro W hW; go_simp; try with_reducible rfl
              try simp only [Act.put, List.getElem_toArray, List.getElem_cons_succ, List.getElem_cons_zero, List.setIfInBounds_toArray, List.set_cons_zero, List.set_cons_succ]
              refine reg_take (v := .int .i64 (i : Int)) hR 5 rfl (by kernel_rfl) (by kernel_rfl) (by kernel_rfl) (fun _ _ _ h => h) (by rfl) ?_ ?_
              · intro W hW; go_simp; try with_reducible rfl
              try simp only [Act.put, List.getElem_toArray, List.getElem_cons_succ, List.getElem_cons_zero, List.setIfInBounds_toArray, List.set_cons_zero, List.set_cons_succ]
              refine reg_take (v := .pointer (some (ad.add (i * 2)))) hR 6 rfl (by kernel_rfl) (by kernel_rfl) (by kernel_rfl) (fun _ _ _ h => h) (by rfl) ?_ ?_
              · intro W hW; go_simp; try with_reducible rfl
              try simp only [Act.put, List.getElem_toArray, List.getElem_cons_succ, List.getElem_cons_zero, List.setIfInBounds_toArray, List.set_cons_zero, List.set_cons_succ]
              refine reg_take (v := .agg #[.int .u8 (y.k.toNat : Int), .slice y.A y.d.length y.c]) hR 7 rfl (by kernel_rfl) (by kernel_rfl) (by kernel_rfl) (fun _ _ _ h => h) (by rfl) ?_ ?_
              · intro W hW; exact exec_load_at 31 _ rfl (ad.add (i * 2)) rfl [.int .u8 (y.k.toNat : Int), .slice y.A y.d.length y.c] _ (cells_keep HQY.out HQT.out hW) Try.underlying31 rfl info31
              try simp only [Act.put, List.getElem_toArray, List.getElem_cons_succ, List.getElem_cons_zero, List.setIfInBounds_toArray, List.set_cons_zero, List.set_cons_succ]
              refine reg_step hR 8 (by kernel_rfl) rfl fun K hK => ?_
              try simp only [Act.put, List.getElem_toArray, List.getElem_cons_succ, List.getElem_cons_zero, List.setIfInBounds_toArray, List.set_cons_zero, List.set_cons_succ]
              go_simp
              refine (Rec_yes w7 HRXD.out HYO.out HYR.out).mono ?_; rintro e w8 ⟨rfl, hb⟩
              refine hK.out _ _ hb ?_
              have HRX8 := Lib.hid (HRXD.out.top hb)
              have HV8 := Lib.hid (HVD.out.call hb)
              have HN8 := Lib.hid (HND.out.keep hb)
              have HP8 := Lib.hid (HPD.out.keep hb)
              have HQ8 := Lib.hid (HQD.out.keep hb)
              clear hb HRXD HVD HND HPD HQD HYO HQY HQT
              clear hK K
              try simp only [Act.put, List.getElem_toArray, List.getElem_cons_succ, List.getElem_cons_zero, List.setIfInBounds_toArray, List.set_cons_zero, List.set_cons_succ]
              refine reg_take (v := .bool false) hR 9 rfl (by kernel_rfl) (by kernel_rfl) (by kernel_rfl) (fun _ _ _ h => h) (by rfl) ?_ ?_
              · intro W hW; go_simp; try with_reducible rfl
              try simp only [Act.put, List.getElem_toArray, List.getElem_cons_succ, List.getElem_cons_zero, List.setIfInBounds_toArray, List.set_cons_zero, List.set_cons_succ]
              refine reg_take (v := .bool false) hR 10 rfl (by kernel_rfl) (by kernel_rfl) (by kernel_rfl) (fun _ _ _ h => h) (by rfl) ?_ ?_
              · intro W hW; go_simp; try with_reducible rfl
              try simp only [Act.put, List.getElem_toArray, List.getElem_cons_succ, List.getElem_cons_zero, List.setIfInBounds_toArray, List.set_cons_zero, List.set_cons_succ]
              refine reg_take (v := .bool false) hR 11 rfl (by kernel_rfl) (by kernel_rfl) (by kernel_rfl) (fun _ _ _ h => h) (by rfl) ?_ ?_
              · intro W hW; go_simp; try with_reducible rfl
              try simp only [Act.put, List.getElem_toArray, List.getElem_cons_succ, List.getElem_cons_zero, List.setIfInBounds_toArray, List.set_cons_zero, List.set_cons_succ]
              refine reg_take (v := .int .i64 (st : Int)) hR 12 rfl (by kernel_rfl) (by kernel_rfl) (by kernel_rfl) (fun _ _ _ h => h) (by rfl) ?_ ?_
              · intro W hW; go_simp; try with_reducible rfl
              try simp only [Act.put, List.getElem_toArray, List.getElem_cons_succ, List.getElem_cons_zero, List.setIfInBounds_toArray, List.set_cons_zero, List.set_cons_succ]
              refine reg_take (v := .agg #[.int .u8 (xk.toNat : Int), .slice A22 xd.length c22]) hR 13 rfl (by kernel_rfl) (by kernel_rfl) (by kernel_rfl) (fun _ _ _ h => h) (by rfl) ?_ ?_
              · intro W hW; exact exec_load_at 31 _ rfl ⟨p, 0, none⟩ rfl [.int .u8 (xk.toNat : Int), .slice A22 xd.length c22] _ (HP8.out.keep hW).at_ Try.underlying31 rfl info31
              try simp only [Act.put, List.getElem_toArray, List.getElem_cons_succ, List.getElem_cons_zero, List.setIfInBounds_toArray, List.set_cons_zero, List.set_cons_succ]
              have hsg := Size_good (A := A22) (n := xd.length) (c := c22) (k := xk) w8 HVX.out.1 HVX.out.2
              rw [HSZ.out] at hsg
              have HSG := Lib.hid hsg
              clear hsg
              refine reg_step hR 14 (by kernel_rfl) rfl fun K hK => ?_
              try simp only [Act.put, List.getElem_toArray, List.getElem_cons_succ, List.getElem_cons_zero, List.setIfInBounds_toArray, List.set_cons_zero, List.set_cons_succ]
              go_simp
              refine HSG.out.mono ?_; rintro e w9 ⟨rfl, hb⟩
              refine hK.out _ _ hb ?_
              have HRX9 := Lib.hid (HRX8.out.top hb)
              have HV9 := Lib.hid (HV8.out.call hb)
              have HN9 := Lib.hid (HN8.out.keep hb)
              have HP9 := Lib.hid (HP8.out.keep hb)
              have HQ9 := Lib.hid (HQ8.out.keep hb)
              clear hb HSG HRX8 HV8 HN8 HP8 HQ8
              clear hK K
              try simp only [Act.put, List.getElem_toArray, List.getElem_cons_succ, List.getElem_cons_zero, List.setIfInBounds_toArray, List.set_cons_zero, List.set_cons_succ]
              refine reg_take (v := .bool false) hR 15 rfl (by kernel_rfl) (by kernel_rfl) (by kernel_rfl) (fun _ _ _ h => h) (by rfl) ?_ ?_
              · intro W hW; go_simp; try with_reducible rfl
              try simp only [Act.put, List.getElem_toArray, List.getElem_cons_succ, List.getElem_cons_zero, List.setIfInBounds_toArray, List.set_cons_zero, List.set_cons_succ]
              refine reg_take (v := .bool false) hR 16 rfl (by kernel_rfl) (by kernel_rfl) (by kernel_rfl) (fun _ _ _ h => h) (by rfl) ?_ ?_
              · intro W hW; go_simp; try with_reducible rfl
              try simp only [Act.put, List.getElem_toArray, List.getElem_cons_succ, List.getElem_cons_zero, List.setIfInBounds_toArray, List.set_cons_zero, List.set_cons_succ]
              refine reg_take (v := .bool false) hR 17 rfl (by kernel_rfl) (by kernel_rfl) (by kernel_rfl) (fun _ _ _ h => h) (by rfl) ?_ ?_
              · intro W hW; go_simp; try with_reducible rfl
              try simp only [Act.put, List.getElem_toArray, List.getElem_cons_succ, List.getElem_cons_zero, List.setIfInBounds_toArray, List.set_cons_zero, List.set_cons_succ]
              refine reg_take (v := .agg (cs8 S2).toArray) hR 18 rfl (by kernel_rfl) (by kernel_rfl) (by kernel_rfl) (fun _ _ _ h => h) (by rfl) ?_ ?_
              · intro W hW; exact exec_load_at 23 _ rfl ⟨q, 0, none⟩ rfl (cs8 S2) _ (HQ9.out.keep hW).at_ Try.underlying23 rfl (by rw [HS28.out]; exact info36)
              try simp only [Act.put, List.getElem_toArray, List.getElem_cons_succ, List.getElem_cons_zero, List.setIfInBounds_toArray, List.set_cons_zero, List.set_cons_succ]
              refine reg_take (v := .agg (cs8 S).toArray) hR 19 rfl (by kernel_rfl) (by kernel_rfl) (by kernel_rfl) (fun _ _ _ h => h) (by rfl) ?_ ?_
              · intro W hW; exact exec_load_at 23 _ rfl ⟨T, 0, none⟩ rfl (cs8 S) _ (HN9.out.keep hW).at_ Try.underlying23 rfl (by rw [HS8.out]; exact info36)
              try simp only [Act.put, List.getElem_toArray, List.getElem_cons_succ, List.getElem_cons_zero, List.setIfInBounds_toArray, List.set_cons_zero, List.set_cons_succ]
              refine reg_take (v := .agg #[.int .u8 (xk.toNat : Int), .slice A22 xd.length c22]) hR 20 rfl (by kernel_rfl) (by kernel_rfl) (by kernel_rfl) (fun _ _ _ h => h) (by rfl) ?_ ?_
              · intro W hW; exact exec_load_at 31 _ rfl ⟨p, 0, none⟩ rfl [.int .u8 (xk.toNat : Int), .slice A22 xd.length c22] _ (HP9.out.keep hW).at_ Try.underlying31 rfl info31
              try simp only [Act.put, List.getElem_toArray, List.getElem_cons_succ, List.getElem_cons_zero, List.setIfInBounds_toArray, List.set_cons_zero, List.set_cons_succ]
              have hng := Next_any xk w9 HS32.out HRX9.out (by have := HVX.out.2; omega)
              rw [HS2.out] at hng
              have HNG := Lib.hid hng
              have HARR := Lib.hid (arr_same (show S2.length = 32 by rw [← HS2.out, nextR_length]))
              clear hng
              refine reg_step hR 21 (by kernel_rfl) rfl fun K hK => ?_
              try simp only [Act.put, List.getElem_toArray, List.getElem_cons_succ, List.getElem_cons_zero, List.setIfInBounds_toArray, List.set_cons_zero, List.set_cons_succ]
              go_simp
              refine HNG.out.mono ?_; rintro e w10 ⟨rfl, hb⟩
              refine hK.out _ _ hb ?_
              have HV10 := Lib.hid (HV9.out.call hb)
              have HN10 := Lib.hid (HN9.out.keep hb)
              have HQ10 := Lib.hid (HQ9.out.keep hb)
              clear hb HNG HRX9 HV9 HN9 HP9 HQ9
              clear hK K
              try simp only [Act.put, List.getElem_toArray, List.getElem_cons_succ, List.getElem_cons_zero, List.setIfInBounds_toArray, List.set_cons_zero, List.set_cons_succ]
              refine reg_take (v := .bool false) hR 22 rfl (by kernel_rfl) (by kernel_rfl) (by kernel_rfl) (fun _ _ _ h => h) (by rfl) ?_ ?_
              · intro W hW; have harr := HARR.out; go_simp; try with_reducible rfl
              try simp only [Act.put, List.getElem_toArray, List.getElem_cons_succ, List.getElem_cons_zero, List.setIfInBounds_toArray, List.set_cons_zero, List.set_cons_succ]
              refine reg_take (v := .bool false) hR 23 rfl (by kernel_rfl) (by kernel_rfl) (by kernel_rfl) (fun _ _ _ h => h) (by rfl) ?_ ?_
              · intro W hW; go_simp; try with_reducible rfl
              try simp only [Act.put, List.getElem_toArray, List.getElem_cons_succ, List.getElem_cons_zero, List.setIfInBounds_toArray, List.set_cons_zero, List.set_cons_succ]
              refine reg_done (by kernel_rfl) ?_ _
              go_wp2
              -- region 25
              have hR := Kp.stays (fun k => k = T)
              refine reg_start (Kp (fun k => k = T)) follows_mixed ?_
              have HV11 := Lib.hid (HV10.out.call (Below.refl _ w10).drew)
              have HN11 := Lib.hid HN10.out.drew
              have HQ11 := Lib.hid HQ10.out.drew
              clear HV10 HN10 HQ10
              generalize w10.drew = w11 at HV11 HN11 HQ11 ⊢
              have hstm : k + st ≤ m := by
                have h1 := congrArg List.length HDR.out
                rw [HAT.out, recsB, List.length_append, List.length_append, HSTL.out, List.length_drop, hm] at h1
                omega
              refine reg_take (v := .int .i64 (k : Int)) hR 0 rfl (by kernel_rfl) (by kernel_rfl) (by kernel_rfl) (fun _ _ _ h => h) (by rfl) ?_ ?_
              · intro W hW; go_simp; try with_reducible rfl
              try simp only [Act.put, List.getElem_toArray, List.getElem_cons_succ, List.getElem_cons_zero, List.setIfInBounds_toArray, List.set_cons_zero, List.set_cons_succ]
              refine reg_take (v := .int .i64 (st : Int)) hR 1 rfl (by kernel_rfl) (by kernel_rfl) (by kernel_rfl) (fun _ _ _ h => h) (by rfl) ?_ ?_
              · intro W hW; go_simp; try with_reducible rfl
              try simp only [Act.put, List.getElem_toArray, List.getElem_cons_succ, List.getElem_cons_zero, List.setIfInBounds_toArray, List.set_cons_zero, List.set_cons_succ]
              refine reg_take (v := .int .i64 ((k + st : Nat) : Int)) hR 2 rfl (by kernel_rfl) (by kernel_rfl) (by kernel_rfl) (fun _ _ _ h => h) (by rfl) ?_ ?_
              · intro W hW; go_simp; exact IntWalk.i64_in _ (by omega)
              try simp only [Act.put, List.getElem_toArray, List.getElem_cons_succ, List.getElem_cons_zero, List.setIfInBounds_toArray, List.set_cons_zero, List.set_cons_succ]
              refine reg_take (v := .agg (cs8 S2).toArray) hR 3 rfl (by kernel_rfl) (by kernel_rfl) (by kernel_rfl) (fun _ _ _ h => h) (by rfl) ?_ ?_
              · intro W hW; exact exec_load_at 23 _ rfl ⟨q, 0, none⟩ rfl (cs8 S2) _ (HQ11.out.kp hW (by have := HltT.out; omega)).at_ Try.underlying23 rfl (by rw [HS28.out]; exact info36)
              try simp only [Act.put, List.getElem_toArray, List.getElem_cons_succ, List.getElem_cons_zero, List.setIfInBounds_toArray, List.set_cons_zero, List.set_cons_succ]
              refine reg_take (v := .int .i64 ((k + st : Nat) : Int)) hR 4 rfl (by kernel_rfl) (by kernel_rfl) (by kernel_rfl) (fun _ _ _ h => h) (by rfl) ?_ ?_
              · intro W hW; go_simp; try with_reducible rfl
              try simp only [Act.put, List.getElem_toArray, List.getElem_cons_succ, List.getElem_cons_zero, List.setIfInBounds_toArray, List.set_cons_zero, List.set_cons_succ]
              refine reg_step hR 5 (by kernel_rfl) rfl fun K hK => ?_
              try simp only [Act.put, List.getElem_toArray, List.getElem_cons_succ, List.getElem_cons_zero, List.setIfInBounds_toArray, List.set_cons_zero, List.set_cons_succ]
              rw [if_pos (by rfl)]
              refine wp_store_bk 23 _ _ rfl T rfl (cs8 S2) (cs8 S) rfl HN11.out (by rw [HS28.out]; exact info36) (by rw [HS28.out, HS8.out]) (cs8_all _) ?_
              refine hK.out _ _ (kp_setRow _ _ _ rfl) ?_
              have HV12 := Lib.hid (HV11.out.keep (below_setRow (Below.refl T w11) (Nat.le_refl _) (cs8 S2).toArray))
              have HN12 := Lib.hid (HN11.out.setRow (cs8 S2))
              clear HV11 HN11
              generalize w11.setRow T (cs8 S2).toArray = w12 at HV12 HN12 ⊢
              clear hK K
              try simp only [Act.put, List.getElem_toArray, List.getElem_cons_succ, List.getElem_cons_zero, List.setIfInBounds_toArray, List.set_cons_zero, List.set_cons_succ]
              refine reg_done (by kernel_rfl) ?_ _
              go_wp2
              go_roundw
              case rel => exact ⟨i + 1, k + st, by omega, by go_num, by first | rfl | (congr 1), Lib.hid (by rw [HST1.out, List.length_append, HK.out, HSTL.out]), HV12, Lib.hid (by rw [HST2.out, HS2.out]; exact HN12.out)⟩
              case measure => simp [RowKit.intOf]; omega
        · obtain rfl : i = n14 := by omega
          have hdrop : rs.drop i = [] := List.drop_eq_nil_of_le (by have := HN14.out; omega)
          have htk : rs.take i = rs := List.take_of_length_le (by have := HN14.out; omega)
          rw [hdrop] at HDR HTS
          rw [htk] at HNX HDR HS32 HTS
          have HTL : Hid (raw.drop k = tail) := Lib.hid (by rw [HDR.out]; simp [recsB])
          have hts : (sz : Int) = (k : Int) := by have := HTS.out; simp [recsB] at this; omega
          obtain ⟨err, herr⟩ : ∃ err, readErr (endR l1 rs) tail = err := ⟨_, rfl⟩
          have hne : ¬ err = 0 := by rw [← herr]; exact HST.out
          have HFail : Hid (∀ W : World, Rd W W.heap.size (restAt A13 c13 k) (m - k) (c13 - k) (raw.drop k) → Calls Try.prog 9 #[.agg (cs8 (endR l1 rs)).toArray, .slice (restAt A13 c13 k) (m - k) (c13 - k)] W (ReadBad W err)) := Lib.hid fun W hW => by
            have := Read_fail W HS32.out hW (by omega) (by rw [HTL.out]; exact HST.out)
            rwa [HTL.out, herr] at this
          clear hdrop htk HDR HTS HTL herr HEE HK HKE
          generalize endR l1 rs = S at HNX HS32 HFail HV HE8 HST
          have HS8 := HE8
          have HTSI := Lib.hid hts
          clear hts
          go_wp2
          refine region_meetQ (fun a0 a' w' => ∃ p q, a' = puts a0 [(146, .agg (cs8 S).toArray), (147, .slice A13 m c13), (148, .int .i64 (k : Int)), (149, .slice (restAt A13 c13 k) (m - k) (c13 - k)), (150, .tuple #[.agg #[.int .u8 0, .slice none 0 0], .int .i64 0, .agg z36.toArray, .int .i64 err]), (145, .tuple #[.agg #[.int .u8 0, .slice none 0 0], .int .i64 0, .agg z36.toArray, .int .i64 err]), (151, .agg #[.int .u8 0, .slice none 0 0]), (152, .int .i64 0), (153, .agg z36.toArray), (154, .int .i64 err), (26, .pointer (some ⟨p, 0, none⟩)), (28, .pointer (some ⟨q, 0, none⟩)), (27, .int .i64 0), (29, .int .i64 err)] ∧ Hid (Below wr.heap.size wr w')) ?_ ?_
          · have hR := Sb.stays wr.heap.size
            refine reg_start (Sb wr.heap.size) follows_mixed ?_
            have HN0 := Lib.hid HNX.out.drew
            have HltT := Lib.hid HNX.out.lt
            have HRK := Lib.hid (HV.out.rd hkm)
            have HB := Lib.hid (Below.refl wr.heap.size wr).drew
            clear HNX HV
            generalize wr.drew = u0 at HN0 HB ⊢
            refine reg_take (v := .agg (cs8 S).toArray) hR 0 rfl (by kernel_rfl) (by kernel_rfl) (by kernel_rfl) (fun _ _ _ h => by cases h.1) (by rfl) ?_ ?_
            · intro W hW; exact exec_load_at 23 _ rfl ⟨T, 0, none⟩ rfl (cs8 S) _ (HN0.out.below hW HltT.out).at_ Try.underlying23 rfl (by rw [HS8.out]; exact info36)
            try simp only [Act.put, List.getElem_toArray, List.getElem_cons_succ, List.getElem_cons_zero, List.setIfInBounds_toArray, List.set_cons_zero, List.set_cons_succ]
            refine reg_take (v := .slice A13 m c13) hR 1 rfl (by kernel_rfl) (by kernel_rfl) (by kernel_rfl) (fun _ _ _ h => by cases h.1) (by rfl) ?_ ?_
            · intro W hW; go_simp; try with_reducible rfl
            try simp only [Act.put, List.getElem_toArray, List.getElem_cons_succ, List.getElem_cons_zero, List.setIfInBounds_toArray, List.set_cons_zero, List.set_cons_succ]
            refine reg_take (v := .int .i64 (k : Int)) hR 2 rfl (by kernel_rfl) (by kernel_rfl) (by kernel_rfl) (fun _ _ _ h => by cases h.1) (by rfl) ?_ ?_
            · intro W hW; go_simp; try with_reducible rfl
            try simp only [Act.put, List.getElem_toArray, List.getElem_cons_succ, List.getElem_cons_zero, List.setIfInBounds_toArray, List.set_cons_zero, List.set_cons_succ]
            refine reg_take (v := .slice (restAt A13 c13 k) (m - k) (c13 - k)) hR 3 rfl (by kernel_rfl) (by kernel_rfl) (by kernel_rfl) (fun _ _ _ h => by cases h.1) (by rfl) ?_ ?_
            · intro W hW; exact exec_slice31_lo _ _ rfl rfl rfl hkm rfl
            try simp only [Act.put, List.getElem_toArray, List.getElem_cons_succ, List.getElem_cons_zero, List.setIfInBounds_toArray, List.set_cons_zero, List.set_cons_succ]
            refine reg_fork (rs := [4, 10, 11]) hR (by kernel_rfl) (by simp) ?_
            intro i hi; simp only [List.mem_cons, List.not_mem_nil, or_false] at hi
            rcases hi with rfl | rfl | rfl
            · refine ⟨_, rfl, fun K hK => ?_⟩
              try simp only [Act.put, List.getElem_toArray, List.getElem_cons_succ, List.getElem_cons_zero, List.setIfInBounds_toArray, List.set_cons_zero, List.set_cons_succ]
              rw [if_pos (by rfl)]
              go_simp
              refine (HFail.out u0 ((HRK.out.below HB.out).more HB.out.size)).mono ?_; rintro e u1 ⟨rfl, hb⟩
              refine hK.out _ _ (show Below _ _ _ from hb.mono HB.out.size) ?_
              clear hK K
              have HB := Lib.hid (HB.out.trans (hb.mono HB.out.size))
              clear hb
              try simp only [Act.put, List.getElem_toArray, List.getElem_cons_succ, List.getElem_cons_zero, List.setIfInBounds_toArray, List.set_cons_zero, List.set_cons_succ]
              refine reg_take (v := .tuple #[.agg #[.int .u8 0, .slice none 0 0], .int .i64 0, .agg z36.toArray, .int .i64 err]) hR 5 rfl (by kernel_rfl) (by kernel_rfl) (by kernel_rfl) (fun _ _ _ h => by cases h.1) (by rfl) ?_ ?_
              · intro W hW; go_simp; try with_reducible rfl
              try simp only [Act.put, List.getElem_toArray, List.getElem_cons_succ, List.getElem_cons_zero, List.setIfInBounds_toArray, List.set_cons_zero, List.set_cons_succ]
              refine reg_take (v := .agg #[.int .u8 0, .slice none 0 0]) hR 6 rfl (by kernel_rfl) (by kernel_rfl) (by kernel_rfl) (fun _ _ _ h => by cases h.1) (by rfl) ?_ ?_
              · intro W hW; go_simp; try with_reducible rfl
              try simp only [Act.put, List.getElem_toArray, List.getElem_cons_succ, List.getElem_cons_zero, List.setIfInBounds_toArray, List.set_cons_zero, List.set_cons_succ]
              refine reg_take (v := .int .i64 0) hR 7 rfl (by kernel_rfl) (by kernel_rfl) (by kernel_rfl) (fun _ _ _ h => by cases h.1) (by rfl) ?_ ?_
              · intro W hW; go_simp; try with_reducible rfl
              try simp only [Act.put, List.getElem_toArray, List.getElem_cons_succ, List.getElem_cons_zero, List.setIfInBounds_toArray, List.set_cons_zero, List.set_cons_succ]
              refine reg_take (v := .agg z36.toArray) hR 8 rfl (by kernel_rfl) (by kernel_rfl) (by kernel_rfl) (fun _ _ _ h => by cases h.1) (by rfl) ?_ ?_
              · intro W hW; go_simp; try with_reducible rfl
              try simp only [Act.put, List.getElem_toArray, List.getElem_cons_succ, List.getElem_cons_zero, List.setIfInBounds_toArray, List.set_cons_zero, List.set_cons_succ]
              refine reg_take (v := .int .i64 err) hR 9 rfl (by kernel_rfl) (by kernel_rfl) (by kernel_rfl) (fun _ _ _ h => by cases h.1) (by rfl) ?_ ?_
              · intro W hW; go_simp; try with_reducible rfl
              try simp only [Act.put, List.getElem_toArray, List.getElem_cons_succ, List.getElem_cons_zero, List.setIfInBounds_toArray, List.set_cons_zero, List.set_cons_succ]
              refine reg_fork (rs := [10, 11]) hR (by kernel_rfl) (by simp) ?_
              intro i hi; simp only [List.mem_cons, List.not_mem_nil, or_false] at hi
              rcases hi with rfl | rfl
              · refine ⟨_, rfl, fun K hK => ?_⟩
                try simp only [Act.put, List.getElem_toArray, List.getElem_cons_succ, List.getElem_cons_zero, List.setIfInBounds_toArray, List.set_cons_zero, List.set_cons_succ]
                rw [if_pos (by rfl)]
                refine wp_alloc_z 31 rfl z31 zero31 ?_
                refine hK.out _ _ ((Below.refl _ _).alloc HB.out.size _) ?_
                clear hK K
                have HGp := Lib.hid (Bk.new u1 z31 31)
                have HTp := Lib.hid (show wr.heap.size ≤ u1.heap.size from HB.out.size)
                have HB := Lib.hid (HB.out.alloc HB.out.size (.cells z31.toArray 31))
                have HLp := Lib.hid (show u1.heap.size < (u1.alloc (.cells z31.toArray 31)).heap.size by simp)
                generalize hgw : u1.alloc (.cells z31.toArray 31) = u2 at HB HGp HLp ⊢
                clear hgw
                generalize hgw : u1.heap.size = p at HGp HTp HLp ⊢
                clear hgw
                try simp only [Act.put, List.getElem_toArray, List.getElem_cons_succ, List.getElem_cons_zero, List.setIfInBounds_toArray, List.set_cons_zero, List.set_cons_succ]
                refine reg_step hR 11 (by kernel_rfl) rfl fun K hK => ?_
                try simp only [Act.put, List.getElem_toArray, List.getElem_cons_succ, List.getElem_cons_zero, List.setIfInBounds_toArray, List.set_cons_zero, List.set_cons_succ]
                rw [if_pos (by rfl)]
                refine wp_alloc_z 23 rfl z36 zero36 ?_
                refine hK.out _ _ ((Below.refl _ _).alloc HB.out.size _) ?_
                clear hK K
                have HGq := Lib.hid (Bk.new u2 z36 23)
                have HXpq := Lib.hid (show p ≠ u2.heap.size from by have h1 := HGp.out.lt; omega)
                have HGp := Lib.hid (HGp.out.old (.cells z36.toArray 23))
                have HTq := Lib.hid (show wr.heap.size ≤ u2.heap.size from HB.out.size)
                have HB := Lib.hid (HB.out.alloc HB.out.size (.cells z36.toArray 23))
                have HLq := Lib.hid (show u2.heap.size < (u2.alloc (.cells z36.toArray 23)).heap.size by simp)
                have HLp := Lib.hid (show p < (u2.alloc (.cells z36.toArray 23)).heap.size by have h1 := HLp.out; have h2 := HLq.out; omega)
                generalize hgw : u2.alloc (.cells z36.toArray 23) = u3 at HB HGp HGq HLp HLq ⊢
                clear hgw
                generalize hgw : u2.heap.size = q at HGq HTq HLq HXpq ⊢
                clear hgw
                try simp only [Act.put, List.getElem_toArray, List.getElem_cons_succ, List.getElem_cons_zero, List.setIfInBounds_toArray, List.set_cons_zero, List.set_cons_succ]
                refine reg_step hR 12 (by kernel_rfl) rfl fun K hK => ?_
                try simp only [Act.put, List.getElem_toArray, List.getElem_cons_succ, List.getElem_cons_zero, List.setIfInBounds_toArray, List.set_cons_zero, List.set_cons_succ]
                rw [if_pos (by rfl)]
                refine wp_store_bk 31 _ _ rfl p rfl ([.int .u8 0, .slice none 0 0] : List Value) z31 rfl HGp.out info31 rfl (rec_all 0 none 0 0) ?_
                refine hK.out _ _ (below_setRow (Below.refl _ _) HTp.out _) ?_
                clear hK K
                have HGp := Lib.hid (HGp.out.setRow ([.int .u8 0, .slice none 0 0] : List Value))
                have HGq := Lib.hid (HGq.out.other (show q ≠ p from HXpq.out.symm) (([.int .u8 0, .slice none 0 0] : List Value)).toArray)
                have HB := Lib.hid (below_setRow HB.out HTp.out (([.int .u8 0, .slice none 0 0] : List Value)).toArray)
                generalize hgw : u3.setRow p (([.int .u8 0, .slice none 0 0] : List Value)).toArray = u4 at HB HGp HGq ⊢
                clear hgw
                try simp only [Act.put, List.getElem_toArray, List.getElem_cons_succ, List.getElem_cons_zero, List.setIfInBounds_toArray, List.set_cons_zero, List.set_cons_succ]
                refine reg_take (v := .int .i64 0) hR 13 rfl (by kernel_rfl) (by kernel_rfl) (by kernel_rfl) (fun _ _ _ h => by cases h.1) (by rfl) ?_ ?_
                · intro W hW; go_simp; try with_reducible rfl
                try simp only [Act.put, List.getElem_toArray, List.getElem_cons_succ, List.getElem_cons_zero, List.setIfInBounds_toArray, List.set_cons_zero, List.set_cons_succ]
                refine reg_step hR 14 (by kernel_rfl) rfl fun K hK => ?_
                try simp only [Act.put, List.getElem_toArray, List.getElem_cons_succ, List.getElem_cons_zero, List.setIfInBounds_toArray, List.set_cons_zero, List.set_cons_succ]
                rw [if_pos (by rfl)]
                refine wp_store_bk 23 _ _ rfl q rfl z36 z36 rfl HGq.out info_z36 rfl all_z36 ?_
                refine hK.out _ _ (below_setRow (Below.refl _ _) HTq.out _) ?_
                clear hK K
                have HGq := Lib.hid (HGq.out.setRow z36)
                have HGp := Lib.hid (HGp.out.other (show p ≠ q from HXpq.out) (z36).toArray)
                have HB := Lib.hid (below_setRow HB.out HTq.out (z36).toArray)
                generalize hgw : u4.setRow q (z36).toArray = u5 at HB HGp HGq ⊢
                clear hgw
                try simp only [Act.put, List.getElem_toArray, List.getElem_cons_succ, List.getElem_cons_zero, List.setIfInBounds_toArray, List.set_cons_zero, List.set_cons_succ]
                refine reg_take (v := .int .i64 err) hR 15 rfl (by kernel_rfl) (by kernel_rfl) (by kernel_rfl) (fun _ _ _ h => by cases h.1) (by rfl) ?_ ?_
                · intro W hW; go_simp; try with_reducible rfl
                try simp only [Act.put, List.getElem_toArray, List.getElem_cons_succ, List.getElem_cons_zero, List.setIfInBounds_toArray, List.set_cons_zero, List.set_cons_succ]
                refine reg_done (by kernel_rfl) ?_ _
                refine ⟨rfl, p, q, ?_, HB⟩
                simp only [puts, List.foldl_cons, List.foldl_nil, Act.put, List.getElem_toArray, List.getElem_cons_succ, List.getElem_cons_zero, List.setIfInBounds_toArray, List.set_cons_zero, List.set_cons_succ]
                all_goals (first | rfl | kernel_rfl)
              · refine ⟨_, rfl, fun K hK => ?_⟩
                try simp only [Act.put, List.getElem_toArray, List.getElem_cons_succ, List.getElem_cons_zero, List.setIfInBounds_toArray, List.set_cons_zero, List.set_cons_succ]
                rw [if_pos (by rfl)]
                refine wp_alloc_z 23 rfl z36 zero36 ?_
                refine hK.out _ _ ((Below.refl _ _).alloc HB.out.size _) ?_
                clear hK K
                have HGq := Lib.hid (Bk.new u1 z36 23)
                have HTq := Lib.hid (show wr.heap.size ≤ u1.heap.size from HB.out.size)
                have HB := Lib.hid (HB.out.alloc HB.out.size (.cells z36.toArray 23))
                have HLq := Lib.hid (show u1.heap.size < (u1.alloc (.cells z36.toArray 23)).heap.size by simp)
                generalize hgw : u1.alloc (.cells z36.toArray 23) = u2 at HB HGq HLq ⊢
                clear hgw
                generalize hgw : u1.heap.size = q at HGq HTq HLq ⊢
                clear hgw
                try simp only [Act.put, List.getElem_toArray, List.getElem_cons_succ, List.getElem_cons_zero, List.setIfInBounds_toArray, List.set_cons_zero, List.set_cons_succ]
                refine reg_step hR 10 (by kernel_rfl) rfl fun K hK => ?_
                try simp only [Act.put, List.getElem_toArray, List.getElem_cons_succ, List.getElem_cons_zero, List.setIfInBounds_toArray, List.set_cons_zero, List.set_cons_succ]
                rw [if_pos (by rfl)]
                refine wp_alloc_z 31 rfl z31 zero31 ?_
                refine hK.out _ _ ((Below.refl _ _).alloc HB.out.size _) ?_
                clear hK K
                have HGp := Lib.hid (Bk.new u2 z31 31)
                have HXqp := Lib.hid (show q ≠ u2.heap.size from by have h1 := HGq.out.lt; omega)
                have HGq := Lib.hid (HGq.out.old (.cells z31.toArray 31))
                have HTp := Lib.hid (show wr.heap.size ≤ u2.heap.size from HB.out.size)
                have HB := Lib.hid (HB.out.alloc HB.out.size (.cells z31.toArray 31))
                have HLp := Lib.hid (show u2.heap.size < (u2.alloc (.cells z31.toArray 31)).heap.size by simp)
                have HLq := Lib.hid (show q < (u2.alloc (.cells z31.toArray 31)).heap.size by have h1 := HLq.out; have h2 := HLp.out; omega)
                generalize hgw : u2.alloc (.cells z31.toArray 31) = u3 at HB HGq HGp HLq HLp ⊢
                clear hgw
                generalize hgw : u2.heap.size = p at HGp HTp HLp HXqp ⊢
                clear hgw
                try simp only [Act.put, List.getElem_toArray, List.getElem_cons_succ, List.getElem_cons_zero, List.setIfInBounds_toArray, List.set_cons_zero, List.set_cons_succ]
                refine reg_step hR 12 (by kernel_rfl) rfl fun K hK => ?_
                try simp only [Act.put, List.getElem_toArray, List.getElem_cons_succ, List.getElem_cons_zero, List.setIfInBounds_toArray, List.set_cons_zero, List.set_cons_succ]
                rw [if_pos (by rfl)]
                refine wp_store_bk 31 _ _ rfl p rfl ([.int .u8 0, .slice none 0 0] : List Value) z31 rfl HGp.out info31 rfl (rec_all 0 none 0 0) ?_
                refine hK.out _ _ (below_setRow (Below.refl _ _) HTp.out _) ?_
                clear hK K
                have HGp := Lib.hid (HGp.out.setRow ([.int .u8 0, .slice none 0 0] : List Value))
                have HGq := Lib.hid (HGq.out.other (show q ≠ p from HXqp.out) (([.int .u8 0, .slice none 0 0] : List Value)).toArray)
                have HB := Lib.hid (below_setRow HB.out HTp.out (([.int .u8 0, .slice none 0 0] : List Value)).toArray)
                generalize hgw : u3.setRow p (([.int .u8 0, .slice none 0 0] : List Value)).toArray = u4 at HB HGq HGp ⊢
                clear hgw
                try simp only [Act.put, List.getElem_toArray, List.getElem_cons_succ, List.getElem_cons_zero, List.setIfInBounds_toArray, List.set_cons_zero, List.set_cons_succ]
                refine reg_take (v := .int .i64 0) hR 13 rfl (by kernel_rfl) (by kernel_rfl) (by kernel_rfl) (fun _ _ _ h => by cases h.1) (by rfl) ?_ ?_
                · intro W hW; go_simp; try with_reducible rfl
                try simp only [Act.put, List.getElem_toArray, List.getElem_cons_succ, List.getElem_cons_zero, List.setIfInBounds_toArray, List.set_cons_zero, List.set_cons_succ]
                refine reg_step hR 14 (by kernel_rfl) rfl fun K hK => ?_
                try simp only [Act.put, List.getElem_toArray, List.getElem_cons_succ, List.getElem_cons_zero, List.setIfInBounds_toArray, List.set_cons_zero, List.set_cons_succ]
                rw [if_pos (by rfl)]
                refine wp_store_bk 23 _ _ rfl q rfl z36 z36 rfl HGq.out info_z36 rfl all_z36 ?_
                refine hK.out _ _ (below_setRow (Below.refl _ _) HTq.out _) ?_
                clear hK K
                have HGq := Lib.hid (HGq.out.setRow z36)
                have HGp := Lib.hid (HGp.out.other (show p ≠ q from HXqp.out.symm) (z36).toArray)
                have HB := Lib.hid (below_setRow HB.out HTq.out (z36).toArray)
                generalize hgw : u4.setRow q (z36).toArray = u5 at HB HGq HGp ⊢
                clear hgw
                try simp only [Act.put, List.getElem_toArray, List.getElem_cons_succ, List.getElem_cons_zero, List.setIfInBounds_toArray, List.set_cons_zero, List.set_cons_succ]
                refine reg_take (v := .int .i64 err) hR 15 rfl (by kernel_rfl) (by kernel_rfl) (by kernel_rfl) (fun _ _ _ h => by cases h.1) (by rfl) ?_ ?_
                · intro W hW; go_simp; try with_reducible rfl
                try simp only [Act.put, List.getElem_toArray, List.getElem_cons_succ, List.getElem_cons_zero, List.setIfInBounds_toArray, List.set_cons_zero, List.set_cons_succ]
                refine reg_done (by kernel_rfl) ?_ _
                refine ⟨rfl, p, q, ?_, HB⟩
                simp only [puts, List.foldl_cons, List.foldl_nil, Act.put, List.getElem_toArray, List.getElem_cons_succ, List.getElem_cons_zero, List.setIfInBounds_toArray, List.set_cons_zero, List.set_cons_succ]
                all_goals (first | rfl | kernel_rfl)
            · refine ⟨_, rfl, fun K hK => ?_⟩
              try simp only [Act.put, List.getElem_toArray, List.getElem_cons_succ, List.getElem_cons_zero, List.setIfInBounds_toArray, List.set_cons_zero, List.set_cons_succ]
              rw [if_pos (by rfl)]
              refine wp_alloc_z 31 rfl z31 zero31 ?_
              refine hK.out _ _ ((Below.refl _ _).alloc HB.out.size _) ?_
              clear hK K
              have HGp := Lib.hid (Bk.new u0 z31 31)
              have HTp := Lib.hid (show wr.heap.size ≤ u0.heap.size from HB.out.size)
              have HB := Lib.hid (HB.out.alloc HB.out.size (.cells z31.toArray 31))
              have HLp := Lib.hid (show u0.heap.size < (u0.alloc (.cells z31.toArray 31)).heap.size by simp)
              generalize hgw : u0.alloc (.cells z31.toArray 31) = u1 at HB HGp HLp ⊢
              clear hgw
              generalize hgw : u0.heap.size = p at HGp HTp HLp ⊢
              clear hgw
              try simp only [Act.put, List.getElem_toArray, List.getElem_cons_succ, List.getElem_cons_zero, List.setIfInBounds_toArray, List.set_cons_zero, List.set_cons_succ]
              refine reg_fork (rs := [4, 11]) hR (by kernel_rfl) (by simp) ?_
              intro i hi; simp only [List.mem_cons, List.not_mem_nil, or_false] at hi
              rcases hi with rfl | rfl
              · refine ⟨_, rfl, fun K hK => ?_⟩
                try simp only [Act.put, List.getElem_toArray, List.getElem_cons_succ, List.getElem_cons_zero, List.setIfInBounds_toArray, List.set_cons_zero, List.set_cons_succ]
                rw [if_pos (by rfl)]
                go_simp
                refine (HFail.out u1 ((HRK.out.below HB.out).more HB.out.size)).mono ?_; rintro e u2 ⟨rfl, hb⟩
                refine hK.out _ _ (show Below _ _ _ from hb.mono HB.out.size) ?_
                clear hK K
                have HGp := Lib.hid (HGp.out.keep hb)
                have HB := Lib.hid (HB.out.trans (hb.mono HB.out.size))
                clear hb
                have HLp := Lib.hid (show p < u2.heap.size from HGp.out.lt)
                try simp only [Act.put, List.getElem_toArray, List.getElem_cons_succ, List.getElem_cons_zero, List.setIfInBounds_toArray, List.set_cons_zero, List.set_cons_succ]
                refine reg_take (v := .tuple #[.agg #[.int .u8 0, .slice none 0 0], .int .i64 0, .agg z36.toArray, .int .i64 err]) hR 5 rfl (by kernel_rfl) (by kernel_rfl) (by kernel_rfl) (fun _ _ _ h => by cases h.1) (by rfl) ?_ ?_
                · intro W hW; go_simp; try with_reducible rfl
                try simp only [Act.put, List.getElem_toArray, List.getElem_cons_succ, List.getElem_cons_zero, List.setIfInBounds_toArray, List.set_cons_zero, List.set_cons_succ]
                refine reg_take (v := .agg #[.int .u8 0, .slice none 0 0]) hR 6 rfl (by kernel_rfl) (by kernel_rfl) (by kernel_rfl) (fun _ _ _ h => by cases h.1) (by rfl) ?_ ?_
                · intro W hW; go_simp; try with_reducible rfl
                try simp only [Act.put, List.getElem_toArray, List.getElem_cons_succ, List.getElem_cons_zero, List.setIfInBounds_toArray, List.set_cons_zero, List.set_cons_succ]
                refine reg_take (v := .int .i64 0) hR 7 rfl (by kernel_rfl) (by kernel_rfl) (by kernel_rfl) (fun _ _ _ h => by cases h.1) (by rfl) ?_ ?_
                · intro W hW; go_simp; try with_reducible rfl
                try simp only [Act.put, List.getElem_toArray, List.getElem_cons_succ, List.getElem_cons_zero, List.setIfInBounds_toArray, List.set_cons_zero, List.set_cons_succ]
                refine reg_take (v := .agg z36.toArray) hR 8 rfl (by kernel_rfl) (by kernel_rfl) (by kernel_rfl) (fun _ _ _ h => by cases h.1) (by rfl) ?_ ?_
                · intro W hW; go_simp; try with_reducible rfl
                try simp only [Act.put, List.getElem_toArray, List.getElem_cons_succ, List.getElem_cons_zero, List.setIfInBounds_toArray, List.set_cons_zero, List.set_cons_succ]
                refine reg_take (v := .int .i64 err) hR 9 rfl (by kernel_rfl) (by kernel_rfl) (by kernel_rfl) (fun _ _ _ h => by cases h.1) (by rfl) ?_ ?_
                · intro W hW; go_simp; try with_reducible rfl
                try simp only [Act.put, List.getElem_toArray, List.getElem_cons_succ, List.getElem_cons_zero, List.setIfInBounds_toArray, List.set_cons_zero, List.set_cons_succ]
                refine reg_step hR 11 (by kernel_rfl) rfl fun K hK => ?_
                try simp only [Act.put, List.getElem_toArray, List.getElem_cons_succ, List.getElem_cons_zero, List.setIfInBounds_toArray, List.set_cons_zero, List.set_cons_succ]
                rw [if_pos (by rfl)]
                refine wp_alloc_z 23 rfl z36 zero36 ?_
                refine hK.out _ _ ((Below.refl _ _).alloc HB.out.size _) ?_
                clear hK K
                have HGq := Lib.hid (Bk.new u2 z36 23)
                have HXpq := Lib.hid (show p ≠ u2.heap.size from by have h1 := HGp.out.lt; omega)
                have HGp := Lib.hid (HGp.out.old (.cells z36.toArray 23))
                have HTq := Lib.hid (show wr.heap.size ≤ u2.heap.size from HB.out.size)
                have HB := Lib.hid (HB.out.alloc HB.out.size (.cells z36.toArray 23))
                have HLq := Lib.hid (show u2.heap.size < (u2.alloc (.cells z36.toArray 23)).heap.size by simp)
                have HLp := Lib.hid (show p < (u2.alloc (.cells z36.toArray 23)).heap.size by have h1 := HLp.out; have h2 := HLq.out; omega)
                generalize hgw : u2.alloc (.cells z36.toArray 23) = u3 at HB HGp HGq HLp HLq ⊢
                clear hgw
                generalize hgw : u2.heap.size = q at HGq HTq HLq HXpq ⊢
                clear hgw
                try simp only [Act.put, List.getElem_toArray, List.getElem_cons_succ, List.getElem_cons_zero, List.setIfInBounds_toArray, List.set_cons_zero, List.set_cons_succ]
                refine reg_step hR 12 (by kernel_rfl) rfl fun K hK => ?_
                try simp only [Act.put, List.getElem_toArray, List.getElem_cons_succ, List.getElem_cons_zero, List.setIfInBounds_toArray, List.set_cons_zero, List.set_cons_succ]
                rw [if_pos (by rfl)]
                refine wp_store_bk 31 _ _ rfl p rfl ([.int .u8 0, .slice none 0 0] : List Value) z31 rfl HGp.out info31 rfl (rec_all 0 none 0 0) ?_
                refine hK.out _ _ (below_setRow (Below.refl _ _) HTp.out _) ?_
                clear hK K
                have HGp := Lib.hid (HGp.out.setRow ([.int .u8 0, .slice none 0 0] : List Value))
                have HGq := Lib.hid (HGq.out.other (show q ≠ p from HXpq.out.symm) (([.int .u8 0, .slice none 0 0] : List Value)).toArray)
                have HB := Lib.hid (below_setRow HB.out HTp.out (([.int .u8 0, .slice none 0 0] : List Value)).toArray)
                generalize hgw : u3.setRow p (([.int .u8 0, .slice none 0 0] : List Value)).toArray = u4 at HB HGp HGq ⊢
                clear hgw
                try simp only [Act.put, List.getElem_toArray, List.getElem_cons_succ, List.getElem_cons_zero, List.setIfInBounds_toArray, List.set_cons_zero, List.set_cons_succ]
                refine reg_take (v := .int .i64 0) hR 13 rfl (by kernel_rfl) (by kernel_rfl) (by kernel_rfl) (fun _ _ _ h => by cases h.1) (by rfl) ?_ ?_
                · intro W hW; go_simp; try with_reducible rfl
                try simp only [Act.put, List.getElem_toArray, List.getElem_cons_succ, List.getElem_cons_zero, List.setIfInBounds_toArray, List.set_cons_zero, List.set_cons_succ]
                refine reg_step hR 14 (by kernel_rfl) rfl fun K hK => ?_
                try simp only [Act.put, List.getElem_toArray, List.getElem_cons_succ, List.getElem_cons_zero, List.setIfInBounds_toArray, List.set_cons_zero, List.set_cons_succ]
                rw [if_pos (by rfl)]
                refine wp_store_bk 23 _ _ rfl q rfl z36 z36 rfl HGq.out info_z36 rfl all_z36 ?_
                refine hK.out _ _ (below_setRow (Below.refl _ _) HTq.out _) ?_
                clear hK K
                have HGq := Lib.hid (HGq.out.setRow z36)
                have HGp := Lib.hid (HGp.out.other (show p ≠ q from HXpq.out) (z36).toArray)
                have HB := Lib.hid (below_setRow HB.out HTq.out (z36).toArray)
                generalize hgw : u4.setRow q (z36).toArray = u5 at HB HGp HGq ⊢
                clear hgw
                try simp only [Act.put, List.getElem_toArray, List.getElem_cons_succ, List.getElem_cons_zero, List.setIfInBounds_toArray, List.set_cons_zero, List.set_cons_succ]
                refine reg_take (v := .int .i64 err) hR 15 rfl (by kernel_rfl) (by kernel_rfl) (by kernel_rfl) (fun _ _ _ h => by cases h.1) (by rfl) ?_ ?_
                · intro W hW; go_simp; try with_reducible rfl
                try simp only [Act.put, List.getElem_toArray, List.getElem_cons_succ, List.getElem_cons_zero, List.setIfInBounds_toArray, List.set_cons_zero, List.set_cons_succ]
                refine reg_done (by kernel_rfl) ?_ _
                refine ⟨rfl, p, q, ?_, HB⟩
                simp only [puts, List.foldl_cons, List.foldl_nil, Act.put, List.getElem_toArray, List.getElem_cons_succ, List.getElem_cons_zero, List.setIfInBounds_toArray, List.set_cons_zero, List.set_cons_succ]
                all_goals (first | rfl | kernel_rfl)
              · refine ⟨_, rfl, fun K hK => ?_⟩
                try simp only [Act.put, List.getElem_toArray, List.getElem_cons_succ, List.getElem_cons_zero, List.setIfInBounds_toArray, List.set_cons_zero, List.set_cons_succ]
                rw [if_pos (by rfl)]
                refine wp_alloc_z 23 rfl z36 zero36 ?_
                refine hK.out _ _ ((Below.refl _ _).alloc HB.out.size _) ?_
                clear hK K
                have HGq := Lib.hid (Bk.new u1 z36 23)
                have HXpq := Lib.hid (show p ≠ u1.heap.size from by have h1 := HGp.out.lt; omega)
                have HGp := Lib.hid (HGp.out.old (.cells z36.toArray 23))
                have HTq := Lib.hid (show wr.heap.size ≤ u1.heap.size from HB.out.size)
                have HB := Lib.hid (HB.out.alloc HB.out.size (.cells z36.toArray 23))
                have HLq := Lib.hid (show u1.heap.size < (u1.alloc (.cells z36.toArray 23)).heap.size by simp)
                have HLp := Lib.hid (show p < (u1.alloc (.cells z36.toArray 23)).heap.size by have h1 := HLp.out; have h2 := HLq.out; omega)
                generalize hgw : u1.alloc (.cells z36.toArray 23) = u2 at HB HGp HGq HLp HLq ⊢
                clear hgw
                generalize hgw : u1.heap.size = q at HGq HTq HLq HXpq ⊢
                clear hgw
                try simp only [Act.put, List.getElem_toArray, List.getElem_cons_succ, List.getElem_cons_zero, List.setIfInBounds_toArray, List.set_cons_zero, List.set_cons_succ]
                refine reg_step hR 4 (by kernel_rfl) rfl fun K hK => ?_
                try simp only [Act.put, List.getElem_toArray, List.getElem_cons_succ, List.getElem_cons_zero, List.setIfInBounds_toArray, List.set_cons_zero, List.set_cons_succ]
                rw [if_pos (by rfl)]
                go_simp
                refine (HFail.out u2 ((HRK.out.below HB.out).more HB.out.size)).mono ?_; rintro e u3 ⟨rfl, hb⟩
                refine hK.out _ _ (show Below _ _ _ from hb.mono HB.out.size) ?_
                clear hK K
                have HGp := Lib.hid (HGp.out.keep hb)
                have HGq := Lib.hid (HGq.out.keep hb)
                have HB := Lib.hid (HB.out.trans (hb.mono HB.out.size))
                clear hb
                have HLp := Lib.hid (show p < u3.heap.size from HGp.out.lt)
                have HLq := Lib.hid (show q < u3.heap.size from HGq.out.lt)
                try simp only [Act.put, List.getElem_toArray, List.getElem_cons_succ, List.getElem_cons_zero, List.setIfInBounds_toArray, List.set_cons_zero, List.set_cons_succ]
                refine reg_take (v := .tuple #[.agg #[.int .u8 0, .slice none 0 0], .int .i64 0, .agg z36.toArray, .int .i64 err]) hR 5 rfl (by kernel_rfl) (by kernel_rfl) (by kernel_rfl) (fun _ _ _ h => by cases h.1) (by rfl) ?_ ?_
                · intro W hW; go_simp; try with_reducible rfl
                try simp only [Act.put, List.getElem_toArray, List.getElem_cons_succ, List.getElem_cons_zero, List.setIfInBounds_toArray, List.set_cons_zero, List.set_cons_succ]
                refine reg_take (v := .agg #[.int .u8 0, .slice none 0 0]) hR 6 rfl (by kernel_rfl) (by kernel_rfl) (by kernel_rfl) (fun _ _ _ h => by cases h.1) (by rfl) ?_ ?_
                · intro W hW; go_simp; try with_reducible rfl
                try simp only [Act.put, List.getElem_toArray, List.getElem_cons_succ, List.getElem_cons_zero, List.setIfInBounds_toArray, List.set_cons_zero, List.set_cons_succ]
                refine reg_take (v := .int .i64 0) hR 7 rfl (by kernel_rfl) (by kernel_rfl) (by kernel_rfl) (fun _ _ _ h => by cases h.1) (by rfl) ?_ ?_
                · intro W hW; go_simp; try with_reducible rfl
                try simp only [Act.put, List.getElem_toArray, List.getElem_cons_succ, List.getElem_cons_zero, List.setIfInBounds_toArray, List.set_cons_zero, List.set_cons_succ]
                refine reg_take (v := .agg z36.toArray) hR 8 rfl (by kernel_rfl) (by kernel_rfl) (by kernel_rfl) (fun _ _ _ h => by cases h.1) (by rfl) ?_ ?_
                · intro W hW; go_simp; try with_reducible rfl
                try simp only [Act.put, List.getElem_toArray, List.getElem_cons_succ, List.getElem_cons_zero, List.setIfInBounds_toArray, List.set_cons_zero, List.set_cons_succ]
                refine reg_take (v := .int .i64 err) hR 9 rfl (by kernel_rfl) (by kernel_rfl) (by kernel_rfl) (fun _ _ _ h => by cases h.1) (by rfl) ?_ ?_
                · intro W hW; go_simp; try with_reducible rfl
                try simp only [Act.put, List.getElem_toArray, List.getElem_cons_succ, List.getElem_cons_zero, List.setIfInBounds_toArray, List.set_cons_zero, List.set_cons_succ]
                refine reg_step hR 12 (by kernel_rfl) rfl fun K hK => ?_
                try simp only [Act.put, List.getElem_toArray, List.getElem_cons_succ, List.getElem_cons_zero, List.setIfInBounds_toArray, List.set_cons_zero, List.set_cons_succ]
                rw [if_pos (by rfl)]
                refine wp_store_bk 31 _ _ rfl p rfl ([.int .u8 0, .slice none 0 0] : List Value) z31 rfl HGp.out info31 rfl (rec_all 0 none 0 0) ?_
                refine hK.out _ _ (below_setRow (Below.refl _ _) HTp.out _) ?_
                clear hK K
                have HGp := Lib.hid (HGp.out.setRow ([.int .u8 0, .slice none 0 0] : List Value))
                have HGq := Lib.hid (HGq.out.other (show q ≠ p from HXpq.out.symm) (([.int .u8 0, .slice none 0 0] : List Value)).toArray)
                have HB := Lib.hid (below_setRow HB.out HTp.out (([.int .u8 0, .slice none 0 0] : List Value)).toArray)
                generalize hgw : u3.setRow p (([.int .u8 0, .slice none 0 0] : List Value)).toArray = u4 at HB HGp HGq ⊢
                clear hgw
                try simp only [Act.put, List.getElem_toArray, List.getElem_cons_succ, List.getElem_cons_zero, List.setIfInBounds_toArray, List.set_cons_zero, List.set_cons_succ]
                refine reg_take (v := .int .i64 0) hR 13 rfl (by kernel_rfl) (by kernel_rfl) (by kernel_rfl) (fun _ _ _ h => by cases h.1) (by rfl) ?_ ?_
                · intro W hW; go_simp; try with_reducible rfl
                try simp only [Act.put, List.getElem_toArray, List.getElem_cons_succ, List.getElem_cons_zero, List.setIfInBounds_toArray, List.set_cons_zero, List.set_cons_succ]
                refine reg_step hR 14 (by kernel_rfl) rfl fun K hK => ?_
                try simp only [Act.put, List.getElem_toArray, List.getElem_cons_succ, List.getElem_cons_zero, List.setIfInBounds_toArray, List.set_cons_zero, List.set_cons_succ]
                rw [if_pos (by rfl)]
                refine wp_store_bk 23 _ _ rfl q rfl z36 z36 rfl HGq.out info_z36 rfl all_z36 ?_
                refine hK.out _ _ (below_setRow (Below.refl _ _) HTq.out _) ?_
                clear hK K
                have HGq := Lib.hid (HGq.out.setRow z36)
                have HGp := Lib.hid (HGp.out.other (show p ≠ q from HXpq.out) (z36).toArray)
                have HB := Lib.hid (below_setRow HB.out HTq.out (z36).toArray)
                generalize hgw : u4.setRow q (z36).toArray = u5 at HB HGp HGq ⊢
                clear hgw
                try simp only [Act.put, List.getElem_toArray, List.getElem_cons_succ, List.getElem_cons_zero, List.setIfInBounds_toArray, List.set_cons_zero, List.set_cons_succ]
                refine reg_take (v := .int .i64 err) hR 15 rfl (by kernel_rfl) (by kernel_rfl) (by kernel_rfl) (fun _ _ _ h => by cases h.1) (by rfl) ?_ ?_
                · intro W hW; go_simp; try with_reducible rfl
                try simp only [Act.put, List.getElem_toArray, List.getElem_cons_succ, List.getElem_cons_zero, List.setIfInBounds_toArray, List.set_cons_zero, List.set_cons_succ]
                refine reg_done (by kernel_rfl) ?_ _
                refine ⟨rfl, p, q, ?_, HB⟩
                simp only [puts, List.foldl_cons, List.foldl_nil, Act.put, List.getElem_toArray, List.getElem_cons_succ, List.getElem_cons_zero, List.setIfInBounds_toArray, List.set_cons_zero, List.set_cons_succ]
                all_goals (first | rfl | kernel_rfl)
            · refine ⟨_, rfl, fun K hK => ?_⟩
              try simp only [Act.put, List.getElem_toArray, List.getElem_cons_succ, List.getElem_cons_zero, List.setIfInBounds_toArray, List.set_cons_zero, List.set_cons_succ]
              rw [if_pos (by rfl)]
              refine wp_alloc_z 23 rfl z36 zero36 ?_
              refine hK.out _ _ ((Below.refl _ _).alloc HB.out.size _) ?_
              clear hK K
              have HGq := Lib.hid (Bk.new u0 z36 23)
              have HTq := Lib.hid (show wr.heap.size ≤ u0.heap.size from HB.out.size)
              have HB := Lib.hid (HB.out.alloc HB.out.size (.cells z36.toArray 23))
              have HLq := Lib.hid (show u0.heap.size < (u0.alloc (.cells z36.toArray 23)).heap.size by simp)
              generalize hgw : u0.alloc (.cells z36.toArray 23) = u1 at HB HGq HLq ⊢
              clear hgw
              generalize hgw : u0.heap.size = q at HGq HTq HLq ⊢
              clear hgw
              try simp only [Act.put, List.getElem_toArray, List.getElem_cons_succ, List.getElem_cons_zero, List.setIfInBounds_toArray, List.set_cons_zero, List.set_cons_succ]
              refine reg_fork (rs := [4, 10]) hR (by kernel_rfl) (by simp) ?_
              intro i hi; simp only [List.mem_cons, List.not_mem_nil, or_false] at hi
              rcases hi with rfl | rfl
              · refine ⟨_, rfl, fun K hK => ?_⟩
                try simp only [Act.put, List.getElem_toArray, List.getElem_cons_succ, List.getElem_cons_zero, List.setIfInBounds_toArray, List.set_cons_zero, List.set_cons_succ]
                rw [if_pos (by rfl)]
                go_simp
                refine (HFail.out u1 ((HRK.out.below HB.out).more HB.out.size)).mono ?_; rintro e u2 ⟨rfl, hb⟩
                refine hK.out _ _ (show Below _ _ _ from hb.mono HB.out.size) ?_
                clear hK K
                have HGq := Lib.hid (HGq.out.keep hb)
                have HB := Lib.hid (HB.out.trans (hb.mono HB.out.size))
                clear hb
                have HLq := Lib.hid (show q < u2.heap.size from HGq.out.lt)
                try simp only [Act.put, List.getElem_toArray, List.getElem_cons_succ, List.getElem_cons_zero, List.setIfInBounds_toArray, List.set_cons_zero, List.set_cons_succ]
                refine reg_take (v := .tuple #[.agg #[.int .u8 0, .slice none 0 0], .int .i64 0, .agg z36.toArray, .int .i64 err]) hR 5 rfl (by kernel_rfl) (by kernel_rfl) (by kernel_rfl) (fun _ _ _ h => by cases h.1) (by rfl) ?_ ?_
                · intro W hW; go_simp; try with_reducible rfl
                try simp only [Act.put, List.getElem_toArray, List.getElem_cons_succ, List.getElem_cons_zero, List.setIfInBounds_toArray, List.set_cons_zero, List.set_cons_succ]
                refine reg_take (v := .agg #[.int .u8 0, .slice none 0 0]) hR 6 rfl (by kernel_rfl) (by kernel_rfl) (by kernel_rfl) (fun _ _ _ h => by cases h.1) (by rfl) ?_ ?_
                · intro W hW; go_simp; try with_reducible rfl
                try simp only [Act.put, List.getElem_toArray, List.getElem_cons_succ, List.getElem_cons_zero, List.setIfInBounds_toArray, List.set_cons_zero, List.set_cons_succ]
                refine reg_take (v := .int .i64 0) hR 7 rfl (by kernel_rfl) (by kernel_rfl) (by kernel_rfl) (fun _ _ _ h => by cases h.1) (by rfl) ?_ ?_
                · intro W hW; go_simp; try with_reducible rfl
                try simp only [Act.put, List.getElem_toArray, List.getElem_cons_succ, List.getElem_cons_zero, List.setIfInBounds_toArray, List.set_cons_zero, List.set_cons_succ]
                refine reg_take (v := .agg z36.toArray) hR 8 rfl (by kernel_rfl) (by kernel_rfl) (by kernel_rfl) (fun _ _ _ h => by cases h.1) (by rfl) ?_ ?_
                · intro W hW; go_simp; try with_reducible rfl
                try simp only [Act.put, List.getElem_toArray, List.getElem_cons_succ, List.getElem_cons_zero, List.setIfInBounds_toArray, List.set_cons_zero, List.set_cons_succ]
                refine reg_take (v := .int .i64 err) hR 9 rfl (by kernel_rfl) (by kernel_rfl) (by kernel_rfl) (fun _ _ _ h => by cases h.1) (by rfl) ?_ ?_
                · intro W hW; go_simp; try with_reducible rfl
                try simp only [Act.put, List.getElem_toArray, List.getElem_cons_succ, List.getElem_cons_zero, List.setIfInBounds_toArray, List.set_cons_zero, List.set_cons_succ]
                refine reg_step hR 10 (by kernel_rfl) rfl fun K hK => ?_
                try simp only [Act.put, List.getElem_toArray, List.getElem_cons_succ, List.getElem_cons_zero, List.setIfInBounds_toArray, List.set_cons_zero, List.set_cons_succ]
                rw [if_pos (by rfl)]
                refine wp_alloc_z 31 rfl z31 zero31 ?_
                refine hK.out _ _ ((Below.refl _ _).alloc HB.out.size _) ?_
                clear hK K
                have HGp := Lib.hid (Bk.new u2 z31 31)
                have HXqp := Lib.hid (show q ≠ u2.heap.size from by have h1 := HGq.out.lt; omega)
                have HGq := Lib.hid (HGq.out.old (.cells z31.toArray 31))
                have HTp := Lib.hid (show wr.heap.size ≤ u2.heap.size from HB.out.size)
                have HB := Lib.hid (HB.out.alloc HB.out.size (.cells z31.toArray 31))
                have HLp := Lib.hid (show u2.heap.size < (u2.alloc (.cells z31.toArray 31)).heap.size by simp)
                have HLq := Lib.hid (show q < (u2.alloc (.cells z31.toArray 31)).heap.size by have h1 := HLq.out; have h2 := HLp.out; omega)
                generalize hgw : u2.alloc (.cells z31.toArray 31) = u3 at HB HGq HGp HLq HLp ⊢
                clear hgw
                generalize hgw : u2.heap.size = p at HGp HTp HLp HXqp ⊢
                clear hgw
                try simp only [Act.put, List.getElem_toArray, List.getElem_cons_succ, List.getElem_cons_zero, List.setIfInBounds_toArray, List.set_cons_zero, List.set_cons_succ]
                refine reg_step hR 12 (by kernel_rfl) rfl fun K hK => ?_
                try simp only [Act.put, List.getElem_toArray, List.getElem_cons_succ, List.getElem_cons_zero, List.setIfInBounds_toArray, List.set_cons_zero, List.set_cons_succ]
                rw [if_pos (by rfl)]
                refine wp_store_bk 31 _ _ rfl p rfl ([.int .u8 0, .slice none 0 0] : List Value) z31 rfl HGp.out info31 rfl (rec_all 0 none 0 0) ?_
                refine hK.out _ _ (below_setRow (Below.refl _ _) HTp.out _) ?_
                clear hK K
                have HGp := Lib.hid (HGp.out.setRow ([.int .u8 0, .slice none 0 0] : List Value))
                have HGq := Lib.hid (HGq.out.other (show q ≠ p from HXqp.out) (([.int .u8 0, .slice none 0 0] : List Value)).toArray)
                have HB := Lib.hid (below_setRow HB.out HTp.out (([.int .u8 0, .slice none 0 0] : List Value)).toArray)
                generalize hgw : u3.setRow p (([.int .u8 0, .slice none 0 0] : List Value)).toArray = u4 at HB HGq HGp ⊢
                clear hgw
                try simp only [Act.put, List.getElem_toArray, List.getElem_cons_succ, List.getElem_cons_zero, List.setIfInBounds_toArray, List.set_cons_zero, List.set_cons_succ]
                refine reg_take (v := .int .i64 0) hR 13 rfl (by kernel_rfl) (by kernel_rfl) (by kernel_rfl) (fun _ _ _ h => by cases h.1) (by rfl) ?_ ?_
                · intro W hW; go_simp; try with_reducible rfl
                try simp only [Act.put, List.getElem_toArray, List.getElem_cons_succ, List.getElem_cons_zero, List.setIfInBounds_toArray, List.set_cons_zero, List.set_cons_succ]
                refine reg_step hR 14 (by kernel_rfl) rfl fun K hK => ?_
                try simp only [Act.put, List.getElem_toArray, List.getElem_cons_succ, List.getElem_cons_zero, List.setIfInBounds_toArray, List.set_cons_zero, List.set_cons_succ]
                rw [if_pos (by rfl)]
                refine wp_store_bk 23 _ _ rfl q rfl z36 z36 rfl HGq.out info_z36 rfl all_z36 ?_
                refine hK.out _ _ (below_setRow (Below.refl _ _) HTq.out _) ?_
                clear hK K
                have HGq := Lib.hid (HGq.out.setRow z36)
                have HGp := Lib.hid (HGp.out.other (show p ≠ q from HXqp.out.symm) (z36).toArray)
                have HB := Lib.hid (below_setRow HB.out HTq.out (z36).toArray)
                generalize hgw : u4.setRow q (z36).toArray = u5 at HB HGq HGp ⊢
                clear hgw
                try simp only [Act.put, List.getElem_toArray, List.getElem_cons_succ, List.getElem_cons_zero, List.setIfInBounds_toArray, List.set_cons_zero, List.set_cons_succ]
                refine reg_take (v := .int .i64 err) hR 15 rfl (by kernel_rfl) (by kernel_rfl) (by kernel_rfl) (fun _ _ _ h => by cases h.1) (by rfl) ?_ ?_
                · intro W hW; go_simp; try with_reducible rfl
                try simp only [Act.put, List.getElem_toArray, List.getElem_cons_succ, List.getElem_cons_zero, List.setIfInBounds_toArray, List.set_cons_zero, List.set_cons_succ]
                refine reg_done (by kernel_rfl) ?_ _
                refine ⟨rfl, p, q, ?_, HB⟩
                simp only [puts, List.foldl_cons, List.foldl_nil, Act.put, List.getElem_toArray, List.getElem_cons_succ, List.getElem_cons_zero, List.setIfInBounds_toArray, List.set_cons_zero, List.set_cons_succ]
                all_goals (first | rfl | kernel_rfl)
              · refine ⟨_, rfl, fun K hK => ?_⟩
                try simp only [Act.put, List.getElem_toArray, List.getElem_cons_succ, List.getElem_cons_zero, List.setIfInBounds_toArray, List.set_cons_zero, List.set_cons_succ]
                rw [if_pos (by rfl)]
                refine wp_alloc_z 31 rfl z31 zero31 ?_
                refine hK.out _ _ ((Below.refl _ _).alloc HB.out.size _) ?_
                clear hK K
                have HGp := Lib.hid (Bk.new u1 z31 31)
                have HXqp := Lib.hid (show q ≠ u1.heap.size from by have h1 := HGq.out.lt; omega)
                have HGq := Lib.hid (HGq.out.old (.cells z31.toArray 31))
                have HTp := Lib.hid (show wr.heap.size ≤ u1.heap.size from HB.out.size)
                have HB := Lib.hid (HB.out.alloc HB.out.size (.cells z31.toArray 31))
                have HLp := Lib.hid (show u1.heap.size < (u1.alloc (.cells z31.toArray 31)).heap.size by simp)
                have HLq := Lib.hid (show q < (u1.alloc (.cells z31.toArray 31)).heap.size by have h1 := HLq.out; have h2 := HLp.out; omega)
                generalize hgw : u1.alloc (.cells z31.toArray 31) = u2 at HB HGq HGp HLq HLp ⊢
                clear hgw
                generalize hgw : u1.heap.size = p at HGp HTp HLp HXqp ⊢
                clear hgw
                try simp only [Act.put, List.getElem_toArray, List.getElem_cons_succ, List.getElem_cons_zero, List.setIfInBounds_toArray, List.set_cons_zero, List.set_cons_succ]
                refine reg_step hR 4 (by kernel_rfl) rfl fun K hK => ?_
                try simp only [Act.put, List.getElem_toArray, List.getElem_cons_succ, List.getElem_cons_zero, List.setIfInBounds_toArray, List.set_cons_zero, List.set_cons_succ]
                rw [if_pos (by rfl)]
                go_simp
                refine (HFail.out u2 ((HRK.out.below HB.out).more HB.out.size)).mono ?_; rintro e u3 ⟨rfl, hb⟩
                refine hK.out _ _ (show Below _ _ _ from hb.mono HB.out.size) ?_
                clear hK K
                have HGq := Lib.hid (HGq.out.keep hb)
                have HGp := Lib.hid (HGp.out.keep hb)
                have HB := Lib.hid (HB.out.trans (hb.mono HB.out.size))
                clear hb
                have HLq := Lib.hid (show q < u3.heap.size from HGq.out.lt)
                have HLp := Lib.hid (show p < u3.heap.size from HGp.out.lt)
                try simp only [Act.put, List.getElem_toArray, List.getElem_cons_succ, List.getElem_cons_zero, List.setIfInBounds_toArray, List.set_cons_zero, List.set_cons_succ]
                refine reg_take (v := .tuple #[.agg #[.int .u8 0, .slice none 0 0], .int .i64 0, .agg z36.toArray, .int .i64 err]) hR 5 rfl (by kernel_rfl) (by kernel_rfl) (by kernel_rfl) (fun _ _ _ h => by cases h.1) (by rfl) ?_ ?_
                · intro W hW; go_simp; try with_reducible rfl
                try simp only [Act.put, List.getElem_toArray, List.getElem_cons_succ, List.getElem_cons_zero, List.setIfInBounds_toArray, List.set_cons_zero, List.set_cons_succ]
                refine reg_take (v := .agg #[.int .u8 0, .slice none 0 0]) hR 6 rfl (by kernel_rfl) (by kernel_rfl) (by kernel_rfl) (fun _ _ _ h => by cases h.1) (by rfl) ?_ ?_
                · intro W hW; go_simp; try with_reducible rfl
                try simp only [Act.put, List.getElem_toArray, List.getElem_cons_succ, List.getElem_cons_zero, List.setIfInBounds_toArray, List.set_cons_zero, List.set_cons_succ]
                refine reg_take (v := .int .i64 0) hR 7 rfl (by kernel_rfl) (by kernel_rfl) (by kernel_rfl) (fun _ _ _ h => by cases h.1) (by rfl) ?_ ?_
                · intro W hW; go_simp; try with_reducible rfl
                try simp only [Act.put, List.getElem_toArray, List.getElem_cons_succ, List.getElem_cons_zero, List.setIfInBounds_toArray, List.set_cons_zero, List.set_cons_succ]
                refine reg_take (v := .agg z36.toArray) hR 8 rfl (by kernel_rfl) (by kernel_rfl) (by kernel_rfl) (fun _ _ _ h => by cases h.1) (by rfl) ?_ ?_
                · intro W hW; go_simp; try with_reducible rfl
                try simp only [Act.put, List.getElem_toArray, List.getElem_cons_succ, List.getElem_cons_zero, List.setIfInBounds_toArray, List.set_cons_zero, List.set_cons_succ]
                refine reg_take (v := .int .i64 err) hR 9 rfl (by kernel_rfl) (by kernel_rfl) (by kernel_rfl) (fun _ _ _ h => by cases h.1) (by rfl) ?_ ?_
                · intro W hW; go_simp; try with_reducible rfl
                try simp only [Act.put, List.getElem_toArray, List.getElem_cons_succ, List.getElem_cons_zero, List.setIfInBounds_toArray, List.set_cons_zero, List.set_cons_succ]
                refine reg_step hR 12 (by kernel_rfl) rfl fun K hK => ?_
                try simp only [Act.put, List.getElem_toArray, List.getElem_cons_succ, List.getElem_cons_zero, List.setIfInBounds_toArray, List.set_cons_zero, List.set_cons_succ]
                rw [if_pos (by rfl)]
                refine wp_store_bk 31 _ _ rfl p rfl ([.int .u8 0, .slice none 0 0] : List Value) z31 rfl HGp.out info31 rfl (rec_all 0 none 0 0) ?_
                refine hK.out _ _ (below_setRow (Below.refl _ _) HTp.out _) ?_
                clear hK K
                have HGp := Lib.hid (HGp.out.setRow ([.int .u8 0, .slice none 0 0] : List Value))
                have HGq := Lib.hid (HGq.out.other (show q ≠ p from HXqp.out) (([.int .u8 0, .slice none 0 0] : List Value)).toArray)
                have HB := Lib.hid (below_setRow HB.out HTp.out (([.int .u8 0, .slice none 0 0] : List Value)).toArray)
                generalize hgw : u3.setRow p (([.int .u8 0, .slice none 0 0] : List Value)).toArray = u4 at HB HGq HGp ⊢
                clear hgw
                try simp only [Act.put, List.getElem_toArray, List.getElem_cons_succ, List.getElem_cons_zero, List.setIfInBounds_toArray, List.set_cons_zero, List.set_cons_succ]
                refine reg_take (v := .int .i64 0) hR 13 rfl (by kernel_rfl) (by kernel_rfl) (by kernel_rfl) (fun _ _ _ h => by cases h.1) (by rfl) ?_ ?_
                · intro W hW; go_simp; try with_reducible rfl
                try simp only [Act.put, List.getElem_toArray, List.getElem_cons_succ, List.getElem_cons_zero, List.setIfInBounds_toArray, List.set_cons_zero, List.set_cons_succ]
                refine reg_step hR 14 (by kernel_rfl) rfl fun K hK => ?_
                try simp only [Act.put, List.getElem_toArray, List.getElem_cons_succ, List.getElem_cons_zero, List.setIfInBounds_toArray, List.set_cons_zero, List.set_cons_succ]
                rw [if_pos (by rfl)]
                refine wp_store_bk 23 _ _ rfl q rfl z36 z36 rfl HGq.out info_z36 rfl all_z36 ?_
                refine hK.out _ _ (below_setRow (Below.refl _ _) HTq.out _) ?_
                clear hK K
                have HGq := Lib.hid (HGq.out.setRow z36)
                have HGp := Lib.hid (HGp.out.other (show p ≠ q from HXqp.out.symm) (z36).toArray)
                have HB := Lib.hid (below_setRow HB.out HTq.out (z36).toArray)
                generalize hgw : u4.setRow q (z36).toArray = u5 at HB HGq HGp ⊢
                clear hgw
                try simp only [Act.put, List.getElem_toArray, List.getElem_cons_succ, List.getElem_cons_zero, List.setIfInBounds_toArray, List.set_cons_zero, List.set_cons_succ]
                refine reg_take (v := .int .i64 err) hR 15 rfl (by kernel_rfl) (by kernel_rfl) (by kernel_rfl) (fun _ _ _ h => by cases h.1) (by rfl) ?_ ?_
                · intro W hW; go_simp; try with_reducible rfl
                try simp only [Act.put, List.getElem_toArray, List.getElem_cons_succ, List.getElem_cons_zero, List.setIfInBounds_toArray, List.set_cons_zero, List.set_cons_succ]
                refine reg_done (by kernel_rfl) ?_ _
                refine ⟨rfl, p, q, ?_, HB⟩
                simp only [puts, List.foldl_cons, List.foldl_nil, Act.put, List.getElem_toArray, List.getElem_cons_succ, List.getElem_cons_zero, List.setIfInBounds_toArray, List.set_cons_zero, List.set_cons_succ]
                all_goals (first | rfl | kernel_rfl)
          · rintro a' w4 ⟨p, q, rfl, HB⟩
            simp only [puts, List.foldl_cons, List.foldl_nil, Act.put, List.getElem_toArray, List.getElem_cons_succ, List.getElem_cons_zero, List.setIfInBounds_toArray, List.set_cons_zero, List.set_cons_succ]
            have HV4 := Lib.hid (HV.out.call HB.out)
            have HN4 := Lib.hid (HNX.out.keep HB.out)
            clear HV HNX HB
            have harr := arr_same HS32.out
            have hts := HTSI.out
            have h1 : (err == 0) = false := by simp [hne]
            have h2 : (err != 0) = true := by simp [hne]
            go_wp2_with (first | (refine wpList_load_atG rfl 23 _ rfl ⟨T, 0, none⟩ rfl (cs8 S) _ HN4.out.at_ Try.underlying23 rfl (by rw [HE8.out]; exact info36) ?_) | (refine wpList_load_atG rfl 23 _ rfl ⟨g15, 0, none⟩ rfl (cs8 S) _ HV4.out.c15.at_ Try.underlying23 rfl (by rw [HE8.out]; exact info36) ?_) | fail)
            go_ret
            exact ⟨rfl, HV4.out.bel⟩

end Go.Proofs.Ytjaoaikcmbfnmaa

/- Texts of this claim, one behind the other: JOr, JRm. -/
import Derived.Test.YtgpfognglpfmoaaGreatDoorZ29
import Derived.Test.YtgpfognglpfmoaaGreatDoorZ35
import Derived.Test.YtgpfognglpfmoaaGreatDoorZ11
import Derived.Test.YtgpfognglpfmoaaGreatDoorZ30
set_option linter.unusedSimpArgs false
set_option linter.unusedVariables false
section
/- Records made anew (the kit's OwnRecords), the last ones of a list. -/
namespace Go.Proofs.YtgpfognglpfmoaaGreatDoor
set_option maxRecDepth 8192
set_option linter.unusedSimpArgs false
set_option linter.unusedVariables false
open Go.RowKit

/-- append of one record, as one operation. -/
theorem wp_app_rec {w : World} {o : Oper} {a : Act} {K : Act → World → Prop} {Q : Exit → Act → World → Prop} (s x : Operand)
    (ho : o.op = .call { callee := .builtin .append, args := #[s, x], argTypes := #[37, 37] }) {base : Nat} {v : Value} {m : Nat} {xs : List Value} (hs : a.eval s = v) (hown : w.ownsRow base 33 2 v m xs)
    {g : Nat} {news : List Value} (hx : a.eval x = .slice (some ⟨g, 0, none⟩) 1 1) (hb : Bk w g news) (hl : news.length = 2) (h1 : ∀ u ∈ news, u.oneCell' = true) (hm : m ≤ 1073741824) (hbase : base ≤ w.heap.size)
    (h : ∀ v' w', w'.ownsRow base 33 2 v' (m + 1) (xs ++ news) → w.grownBy w' v.ownBlock → (v'.ownBlock = v.ownBlock ∨ v'.ownBlock = some w.heap.size) → K (a.put o.dst v') w') : o.wp Tryz.prog a w K Q := by
  obtain ⟨i, hi, hz0, hz1, hz2⟩ := info_parts info_rec
  obtain ⟨v', w', hrun, h2, h3, _, h5⟩ := run_append_own_at (P := Tryz.prog) w base 37 o.type 33 i (.agg z31.toArray) 2 32 Tryz.underlying37 hi hz0 hz1 hz2 rfl (by decide) v m xs hown ⟨g, 0, none⟩ 1 1 news
    (by rw [hl]) hb.at_ h1 (by simp only [maxLen]; omega) (by omega) hbase
  unfold Oper.wp execOp
  simp only [ho, resolve, invoke, builtin, Sem.run_bind, Sem.run_pure, Result.andThen_ok, List.map_toArray, List.map_cons, List.map_nil, hs, hx, hrun]
  exact h v' w' h2 h3 h5
theorem rvCells_append (vs : List Rv) (x : Rv) : rvCells (vs ++ [x]) = rvCells vs ++ x.cells := by simp [rvCells]

/-- Records that the call made: in row v, whose own block none of their Data lies in. -/
structure Mk (w : World) (base : Nat) (v : Value) (vs : List Rv) : Prop where
  row : w.ownsRow base 33 2 v vs.length (rvCells vs)
  ok : ∀ x ∈ vs, x.ok w w.heap.size
  off : ∀ x ∈ vs, ∀ ad, x.A = some ad → ad.block < w.heap.size ∧ base ≤ ad.block ∧ v.ownBlock ≠ some ad.block

theorem Mk.lift {w w' : World} {base : Nat} {v : Value} {vs : List Rv} (h : Mk w base v vs) (hb : Below w.heap.size w w') : Mk w' base v vs :=
  ⟨World.ownsRow.kept h.row (row := none) ⟨hb.os, hb.tape, hb.output, hb.size, fun k hk _ => hb.block k hk⟩ (by cases v.ownBlock <;> simp), fun x hx => ((h.ok x hx).below hb).more hb.size, fun x hx ad e => by
    obtain ⟨h1, h2, h3⟩ := h.off x hx ad e
    exact ⟨Nat.lt_of_lt_of_le h1 hb.size, h2, h3⟩⟩
theorem Mk.push {w w' : World} {base : Nat} {v v' : Value} {vs : List Rv} {x : Rv} (h : Mk w base v vs) (hr : w'.ownsRow base 33 2 v' (vs.length + 1) (rvCells vs ++ x.cells)) (hg : w.grownBy w' v.ownBlock)
    (hv : v'.ownBlock = v.ownBlock ∨ v'.ownBlock = some w.heap.size) (hx : x.ok w w.heap.size) (ho : ∀ ad, x.A = some ad → ad.block < w.heap.size ∧ base ≤ ad.block ∧ v.ownBlock ≠ some ad.block) : Mk w' base v' (vs ++ [x]) := by
  have hs := hg.size
  have hall : ∀ y ∈ vs ++ [x], y.ok w w.heap.size ∧ ∀ ad, y.A = some ad → ad.block < w.heap.size ∧ base ≤ ad.block ∧ v.ownBlock ≠ some ad.block := fun y hy => by
    rcases List.mem_append.1 hy with hy | hy
    · exact ⟨h.ok y hy, h.off y hy⟩
    · obtain rfl := List.mem_singleton.1 hy
      exact ⟨hx, ho⟩
  refine ⟨by rw [rvCells_append, List.length_append]; exact hr, fun y hy => ?_, fun y hy ad e => ?_⟩
  · obtain ⟨h1, h2⟩ := hall y hy
    exact Rd.block h1 fun ad ha => by
      obtain ⟨a1, a2, a3⟩ := h2 ad ha
      exact ⟨hg.block _ a1 (fun e => a3 e.symm), by omega⟩
  · obtain ⟨a1, a2, a3⟩ := (hall y hy).2 ad e
    refine ⟨by omega, a2, fun e2 => ?_⟩
    rcases hv with e3 | e3
    · exact a3 (e3 ▸ e2)
    · rw [e3] at e2
      injection e2 with e2
      omega

set_option maxHeartbeats 3200000 in
theorem OwnRecords_any (w : World) {A : Option Addr} {n c : Nat} {l : List Rv} (hr : Rs w w.heap.size A n c l) (hn : n ≤ 1048576) (hd : ∀ x ∈ l, x.d.length ≤ 8192) :
    Calls Tryz.prog 26 #[.slice A n c] w (RsMade w (l.map Rv.r)) := by
  have HR := Lib.hid hr
  have HD := Lib.hid hd
  have HLN := Lib.hid hr.1
  have hnI : (n : Int) ≤ 1048576 := by omega
  have HN := Lib.hid hn
  clear hr hd hn
  go_enter Tryz.func26, Tryz.ntmps26
  go_wp2
  go_loopw [3, 4] (fun v vi wr => ∃ (i : Nat) (vs : List Rv), i ≤ n ∧ vi = .int .i64 (i : Int) ∧ Hid (vs.map Rv.r = (l.map Rv.r).take i) ∧ Hid (vs.length = i) ∧ Hid (Mk wr w.heap.size v vs) ∧ Hid (Below w.heap.size w wr)) (fun _ vi _ => n - (intOf vi).toNat)
  case atStart => exact ⟨0, [], by omega, rfl, Lib.hid (by simp), Lib.hid rfl, Lib.hid ⟨World.ownsRow_nil _ _ _ _, by simp, by simp⟩, Lib.hid (bl0 w)⟩
  case round =>
    obtain ⟨i, vs, hi, rfl, HV, HVL, HM, HB⟩ := hrel
    have hbw := HB.out.size
    by_cases hlt : i < n
    · obtain ⟨ad, x, rfl, hx, hm, ho, c0, c1⟩ := (HR.out.below HB.out).at_ hlt
      have hxd := HD.out x hm
      have hadl : ad.block < w.heap.size := by
        obtain ⟨ad', e, h, _⟩ := HR.out.2.2.2 (by omega)
        injection e with e
        subst e
        exact h
      have HADL := Lib.hid hadl
      have HTK := Lib.hid (take_map_succ hx)
      have HO := Lib.hid (ho.below (Below.refl _ wr).drew)
      have HC0 := Lib.hid (show wr.drew.cell? (ad.add (i * 2)) = some (.int .u8 (x.k.toNat : Int)) from c0)
      have HC1 := Lib.hid (show wr.drew.cell? ⟨(ad.add (i * 2)).block, (ad.add (i * 2)).off + 1, none⟩ = some (.slice x.A x.d.length x.c) from c1)
      have HXD := Lib.hid hxd
      clear hxd c0 c1 ho hm hx hadl
      go_wp2_with fail
      have hR := Sb.stays w.heap.size
      refine reg_start (Sb w.heap.size) follows_mixed ?_
      have HM0 := Lib.hid HM.out
      have HB0 := Lib.hid HB.out.drew
      refine reg_take (v := u3) hR 0 rfl (by kernel_rfl) (by kernel_rfl) (by kernel_rfl) (fun _ _ _ h => h) (by rfl) ?_ ?_
      · intro W hW; go_simp; try with_reducible rfl
      try simp only [Act.put, List.getElem_toArray, List.getElem_cons_succ, List.getElem_cons_zero, List.setIfInBounds_toArray, List.set_cons_zero, List.set_cons_succ]
      refine reg_take (v := .slice (some ad) n c) hR 1 rfl (by kernel_rfl) (by kernel_rfl) (by kernel_rfl) (fun _ _ _ h => h) (by rfl) ?_ ?_
      · intro W hW; go_simp; try with_reducible rfl
      try simp only [Act.put, List.getElem_toArray, List.getElem_cons_succ, List.getElem_cons_zero, List.setIfInBounds_toArray, List.set_cons_zero, List.set_cons_succ]
      refine reg_take (v := .int .i64 (i : Int)) hR 2 rfl (by kernel_rfl) (by kernel_rfl) (by kernel_rfl) (fun _ _ _ h => h) (by rfl) ?_ ?_
      · intro W hW; go_simp; try with_reducible rfl
      try simp only [Act.put, List.getElem_toArray, List.getElem_cons_succ, List.getElem_cons_zero, List.setIfInBounds_toArray, List.set_cons_zero, List.set_cons_succ]
      refine reg_take (v := .pointer (some (ad.add (i * 2)))) hR 3 rfl (by kernel_rfl) (by kernel_rfl) (by kernel_rfl) (fun _ _ _ h => h) (by rfl) ?_ ?_
      · intro W hW; go_simp; try with_reducible rfl
      try simp only [Act.put, List.getElem_toArray, List.getElem_cons_succ, List.getElem_cons_zero, List.setIfInBounds_toArray, List.set_cons_zero, List.set_cons_succ]
      refine reg_take (v := .pointer (some (ad.add (i * 2)))) hR 4 rfl (by kernel_rfl) (by kernel_rfl) (by kernel_rfl) (fun _ _ _ h => h) (by rfl) ?_ ?_
      · intro W hW; go_simp; try with_reducible rfl
      try simp only [Act.put, List.getElem_toArray, List.getElem_cons_succ, List.getElem_cons_zero, List.setIfInBounds_toArray, List.set_cons_zero, List.set_cons_succ]
      refine reg_take (v := .int .u8 (x.k.toNat : Int)) hR 5 rfl (by kernel_rfl) (by kernel_rfl) (by kernel_rfl) (fun _ _ _ h => h) (by rfl) ?_ ?_
      · intro W hW; exact exec_load_cell 5 _ rfl Tryz.isAgg5 rfl ((hW.cell (by rw [add_block]; exact HADL.out)).trans HC0.out)
      try simp only [Act.put, List.getElem_toArray, List.getElem_cons_succ, List.getElem_cons_zero, List.setIfInBounds_toArray, List.set_cons_zero, List.set_cons_succ]
      refine reg_take (v := .slice (some ad) n c) hR 6 rfl (by kernel_rfl) (by kernel_rfl) (by kernel_rfl) (fun _ _ _ h => h) (by rfl) ?_ ?_
      · intro W hW; go_simp; try with_reducible rfl
      try simp only [Act.put, List.getElem_toArray, List.getElem_cons_succ, List.getElem_cons_zero, List.setIfInBounds_toArray, List.set_cons_zero, List.set_cons_succ]
      refine reg_take (v := .int .i64 (i : Int)) hR 7 rfl (by kernel_rfl) (by kernel_rfl) (by kernel_rfl) (fun _ _ _ h => h) (by rfl) ?_ ?_
      · intro W hW; go_simp; try with_reducible rfl
      try simp only [Act.put, List.getElem_toArray, List.getElem_cons_succ, List.getElem_cons_zero, List.setIfInBounds_toArray, List.set_cons_zero, List.set_cons_succ]
      refine reg_take (v := .pointer (some (ad.add (i * 2)))) hR 8 rfl (by kernel_rfl) (by kernel_rfl) (by kernel_rfl) (fun _ _ _ h => h) (by rfl) ?_ ?_
      · intro W hW; go_simp; try with_reducible rfl
      try simp only [Act.put, List.getElem_toArray, List.getElem_cons_succ, List.getElem_cons_zero, List.setIfInBounds_toArray, List.set_cons_zero, List.set_cons_succ]
      refine reg_take (v := .pointer (some ⟨(ad.add (i * 2)).block, (ad.add (i * 2)).off + 1, none⟩)) hR 9 rfl (by kernel_rfl) (by kernel_rfl) (by kernel_rfl) (fun _ _ _ h => h) (by rfl) ?_ ?_
      · intro W hW; go_simp; try with_reducible rfl
      try simp only [Act.put, List.getElem_toArray, List.getElem_cons_succ, List.getElem_cons_zero, List.setIfInBounds_toArray, List.set_cons_zero, List.set_cons_succ]
      refine reg_take (v := .slice x.A x.d.length x.c) hR 10 rfl (by kernel_rfl) (by kernel_rfl) (by kernel_rfl) (fun _ _ _ h => h) (by rfl) ?_ ?_
      · intro W hW; exact exec_load_cell 31 _ rfl Tryz.isAgg31 rfl ((hW.cell (by simp only [add_block]; exact HADL.out)).trans HC1.out)
      try simp only [Act.put, List.getElem_toArray, List.getElem_cons_succ, List.getElem_cons_zero, List.setIfInBounds_toArray, List.set_cons_zero, List.set_cons_succ]
      refine reg_step hR 11 (by kernel_rfl) rfl fun K hK => ?_
      try simp only [Act.put, List.getElem_toArray, List.getElem_cons_succ, List.getElem_cons_zero, List.setIfInBounds_toArray, List.set_cons_zero, List.set_cons_succ]
      rw [if_pos (by rfl)]
      go_simp
      refine (Own_any _ (HO.out.more hbw) (by have := HXD.out; omega)).mono ?_; rintro e w11 ⟨v11, rfl, ho11, hb11⟩
      refine hK.out _ _ (show Below w.heap.size _ _ from hb11.mono hbw) ?_
      obtain ⟨A11, c11, rfl, hr11⟩ := ho11.rd
      have HO11 := Lib.hid ho11
      have HR11 := Lib.hid hr11
      have HB11 := Lib.hid (bl_call HB0.out hb11)
      have HM11 := Lib.hid (HM0.out.lift (bl_call (bl0 wr).drew hb11))
      have hs11 := hb11.size
      clear hb11 ho11 hr11
      clear hK K
      try simp only [Act.put, List.getElem_toArray, List.getElem_cons_succ, List.getElem_cons_zero, List.setIfInBounds_toArray, List.set_cons_zero, List.set_cons_succ]
      refine reg_take (v := .agg #[.int .u8 (x.k.toNat : Int), .slice A11 x.d.length c11]) hR 12 rfl (by kernel_rfl) (by kernel_rfl) (by kernel_rfl) (fun _ _ _ h => h) (by rfl) ?_ ?_
      · intro W hW; go_simp; try with_reducible rfl
      try simp only [Act.put, List.getElem_toArray, List.getElem_cons_succ, List.getElem_cons_zero, List.setIfInBounds_toArray, List.set_cons_zero, List.set_cons_succ]
      refine reg_step hR 13 (by kernel_rfl) rfl fun K hK => ?_
      try simp only [Act.put, List.getElem_toArray, List.getElem_cons_succ, List.getElem_cons_zero, List.setIfInBounds_toArray, List.set_cons_zero, List.set_cons_succ]
      rw [if_pos (by rfl)]
      go_simp
      refine hK.out _ _ (show Below w.heap.size _ _ from (Below.refl _ _).alloc (by have := HB11.out.size; omega) _) ?_
      have hba := bl_alloc (bl0 w11) (.cells #[.int .u8 (x.k.toNat : Int), .slice A11 x.d.length c11] 33)
      have HN13 := Lib.hid (Bk.new w11 [.int .u8 (x.k.toNat : Int), .slice A11 x.d.length c11] 33)
      have HM13 := Lib.hid (HM11.out.lift hba)
      have HB13 := Lib.hid (bl_call HB11.out hba)
      have HX13 := Lib.hid (show (⟨x.k, x.d, A11, c11⟩ : Rv).ok (w11.alloc (.cells #[.int .u8 (x.k.toNat : Int), .slice A11 x.d.length c11] 33)) (w11.alloc (.cells #[.int .u8 (x.k.toNat : Int), .slice A11 x.d.length c11] 33)).heap.size from (HR11.out.below hba).more hba.size)
      have hsz : (w11.alloc (.cells #[.int .u8 (x.k.toNat : Int), .slice A11 x.d.length c11] 33)).heap.size = w11.heap.size + 1 := by simp
      have HOF := Lib.hid (fun a (e : A11 = some a) => show a.block < (w11.alloc (.cells #[.int .u8 (x.k.toNat : Int), .slice A11 x.d.length c11] 33)).heap.size ∧ w.heap.size ≤ a.block ∧ u3.ownBlock ≠ some a.block from by have hl := World.ownsRow.lt HO11.out a.block (by rw [e]; rfl); exact ⟨by omega, by have := hl.1; have : wr.drew.heap.size = wr.heap.size := rfl; omega, fun e2 => by have := (World.ownsRow.lt HM0.out.row _ e2).2; have h1 := hl.1; have : wr.drew.heap.size = wr.heap.size := rfl; omega⟩)
      clear hba HM11 HB11 HR11 HO11
      generalize w11.alloc (.cells #[.int .u8 (x.k.toNat : Int), .slice A11 x.d.length c11] 33) = w13 at HN13 HM13 HB13 HX13 HOF hsz ⊢
      clear hK K
      try simp only [Act.put, List.getElem_toArray, List.getElem_cons_succ, List.getElem_cons_zero, List.setIfInBounds_toArray, List.set_cons_zero, List.set_cons_succ]
      refine reg_step hR 14 (by kernel_rfl) rfl fun K hK => ?_
      try simp only [Act.put, List.getElem_toArray, List.getElem_cons_succ, List.getElem_cons_zero, List.setIfInBounds_toArray, List.set_cons_zero, List.set_cons_succ]
      rw [if_pos (by rfl)]
      refine wp_app_rec _ _ rfl rfl (by have := HM13.out.row; rw [HVL.out] at this; exact this) rfl HN13.out rfl (rec_cells1 _ _ _ _) (by have := HN.out; omega) HB13.out.size ?_
      intro v14 w14 hr14 hg14 hv14
      have hbl : Below w.heap.size w13 w14 := (Below.refl _ _).grown hg14 HB13.out.size (fun k hk => (World.ownsRow.lt HM13.out.row k hk).1)
      refine hK.out _ _ hbl ?_
      have HM14 := Lib.hid (HM13.out.push (x := ⟨x.k, x.d, A11, c11⟩) (by rw [HVL.out]; exact hr14) hg14 hv14 HX13.out HOF.out)
      have HB14 := Lib.hid (HB13.out.trans hbl)
      clear hr14 hg14 hv14 hbl HM13 HB13 HN13 HX13 HOF
      clear hK K
      try simp only [Act.put, List.getElem_toArray, List.getElem_cons_succ, List.getElem_cons_zero, List.setIfInBounds_toArray, List.set_cons_zero, List.set_cons_succ]
      refine reg_take (v := v14) hR 15 rfl (by kernel_rfl) (by kernel_rfl) (by kernel_rfl) (fun _ _ _ h => h) (by rfl) ?_ ?_
      · intro W hW; go_simp; try with_reducible rfl
      try simp only [Act.put, List.getElem_toArray, List.getElem_cons_succ, List.getElem_cons_zero, List.setIfInBounds_toArray, List.set_cons_zero, List.set_cons_succ]
      refine reg_done (by kernel_rfl) ?_ _
      go_wp2
      go_roundw
      case rel => exact ⟨i + 1, vs ++ [⟨x.k, x.d, A11, c11⟩], by omega, by go_num, Lib.hid (by rw [HTK.out, List.map_append, HV.out]; rfl), Lib.hid (by rw [List.length_append, HVL.out]; rfl), HM14, HB14⟩
      case measure => simp [intOf]; omega
    · obtain rfl : i = n := by omega
      have htk : (l.map Rv.r).take i = l.map Rv.r := List.take_of_length_le (by rw [List.length_map]; exact Nat.le_of_eq HLN.out)
      obtain ⟨A', c', hv', hrs'⟩ := Rs.row HM.out.row rfl HM.out.ok
      go_wp2
      go_ret
      refine ⟨A', vs.length, c', vs, by rw [hv']; rfl, by rw [HV.out, htk], hrs', ⟨fun ad e => ?_, fun x hx ad e => (HM.out.off x hx ad e).2.1⟩, HB.out⟩
      subst e
      exact (World.ownsRow.lt HM.out.row ad.block (by rw [hv']; rfl)).1
end Go.Proofs.YtgpfognglpfmoaaGreatDoor
end
section
/- A journal: JournalRoom. -/
namespace Go.Proofs.YtgpfognglpfmoaaGreatDoor
set_option maxRecDepth 8192
set_option linter.unusedSimpArgs false
set_option linter.unusedVariables false
open Go.RowKit

/-- Records that lie between two blocks stay, where neither is written. -/
theorem Rs.kpN {w w' : World} {b0 top n c : Nat} {A : Option Addr} {l : List Rv} {may : Nat → Prop} (h : Rs w top A n c l) (hn : RsNew b0 A l) (hk : Kp may w w') (ht : top ≤ w.heap.size) (hm : ∀ k, may k → k < b0 ∨ top ≤ k) : Rs w' top A n c l := by
  have key : ∀ b, b0 ≤ b → b < top → w'.heap[b]? = w.heap[b]? := fun b h1 h2 => hk.block b (by omega) (fun e => by rcases hm b e with e | e <;> omega)
  refine ⟨h.1, h.2.1, fun x hx => ⟨(h.2.2.1 x hx).1, (h.2.2.1 x hx).2.1, fun hp => ?_⟩, fun hp => ?_⟩
  · obtain ⟨ad, e, hb, hc⟩ := (h.2.2.1 x hx).2.2 hp
    exact ⟨ad, e, hb, fun j u hu => (World.cell?_of_block (by rw [add_block]; exact key _ (hn.2 x hx ad e) hb)).trans (hc j u hu)⟩
  · obtain ⟨ad, e, hb, hc⟩ := h.2.2.2 hp
    exact ⟨ad, e, hb, fun j x hx i v hv => (World.cell?_of_block (by rw [add_block]; exact key _ (hn.1 ad e) hb)).trans (hc j x hx i v hv)⟩
theorem RsNew.drop {b0 c k : Nat} {A : Option Addr} {l : List Rv} (h : RsNew b0 A l) : RsNew b0 (rest2 A c k) (l.drop k) := by
  refine ⟨fun ad e => ?_, fun x hx => h.2 x (List.mem_of_mem_drop hx)⟩
  unfold rest2 at e
  split at e
  · exact h.1 ad e
  · obtain ⟨b, hb, rfl⟩ := Option.map_eq_some_iff.1 e
    rw [add_block]
    exact h.1 b hb
/-- The last records of a list. -/
theorem last_any (w : World) (A : Option Addr) (n c : Nat) (N : Int) (hn : n ≤ 900000) : Calls Tryz.prog 27 #[.slice A n c, .int .i64 N] w fun e w' => ∃ k, k ≤ n ∧ e = .returned (.slice (rest2 A c k) (n - k) (c - k)) ∧ w' = w := by
  have hP := Pick_any N (n + 1) (by omega) (by omega) w
  rw [show ((n + 1 : Nat) : Int) = (n : Int) + 1 from by omega] at hP
  have HP := Lib.hid hP
  have hnI : (n : Int) ≤ 900000 := by omega
  clear hP
  go_enter Tryz.func27, Tryz.ntmps27
  go_wp2_with fail
  refine HP.out.mono ?_
  rintro e w' ⟨⟨r, hr, rfl⟩, hw⟩
  subst hw
  have HSL := Lib.hid (fun (a : Act) (o : Oper) (x y : Operand) (ho : o.op = .slice 37 x (some y) none none) (hx : a.eval x = .slice A n c) (hy : a.eval y = .int .i64 ((n : Int) - (r : Int))) => exec_slice39_lo x y ho hx hy (k := n - r) (w := w) (by omega) (by omega))
  go_wp2_with (refine wpList_exec rfl _ (HSL.out _ _ _ _ rfl rfl rfl) ?_)
  go_ret
  exact ⟨n - r, by omega, rfl, rfl⟩

section
variable {w : World} {J p s m L area E syn : Nat} {v : Value} {rs : List (UInt8 × List UInt8)} {B : List UInt8} {C : Ca}
/-- What an Append answers, and what it leaves. -/
def Apd (area E : Nat) (rs : List (UInt8 × List UInt8)) (k : UInt8) (d : List UInt8) (ev : Int) (rs' : List (UInt8 × List UInt8)) : Prop :=
  (¬ (k ≠ 0 ∧ d.length ≤ 8192) ∧ ev = 2 ∧ rs' = rs) ∨ (Vr k d ∧ area * 256 < (recsB (fstC E) (rs ++ [(k, d)])).length ∧ ev = 7 ∧ rs' = rs) ∨ (Vr k d ∧ (recsB (fstC E) (rs ++ [(k, d)])).length ≤ area * 256 ∧ ev = 0 ∧ rs' = rs ++ [(k, d)])
theorem Append_all (h : Jd w J p s m L v area E rs syn B C) (hz : Hz B C area E) {A : Option Addr} {n c : Nat} (k : UInt8) (d : List UInt8) (hr : Rd w w.heap.size A n c d) (hA : ∀ ad, A = some ad → ¬ jF J p s m L v ad.block) :
    Calls Tryz.prog 10 #[pt0 J, .agg #[.int .u8 (k.toNat : Int), .slice A n c]] w fun e w' => ∃ (ev : Int) (v' : Value) (rs' : List (UInt8 × List UInt8)) (C' : Ca), e = .returned (.int .i64 ev) ∧ Stp (jF J p s m L v) (jF J p s m L v') w w' ∧
      Jd w' J p s m L v' area E rs' syn B C' ∧ C'.length = C.length ∧ Hz B C' area E ∧ Apd area E rs k d ev rs' := by
  have hl := hr.len
  by_cases hv : k ≠ 0 ∧ d.length ≤ 8192
  · refine (Append_j h k d hr hv hA).mono ?_
    rintro e w' ⟨v', hst, ⟨hlt, he, hj⟩ | ⟨hle, he, hj⟩⟩
    · exact ⟨7, v', rs, C, he, hst, hj, rfl, hz, .inr (.inl ⟨hv, hlt, rfl, rfl⟩)⟩
    · exact ⟨0, v', _, _, he, hst, hj, apC_length, hz.append, .inr (.inr ⟨hv, hle, rfl, rfl⟩)⟩
  · refine (Append_bad (A := A) (n := n) (c := c) h k (by rw [← hl]; exact hv)).mono ?_
    rintro e w' ⟨he, hb⟩
    exact ⟨2, v, rs, C, he, Stp.old hb, h.old hb, rfl, hz, .inl ⟨hv, rfl, rfl⟩⟩
end
end Go.Proofs.YtgpfognglpfmoaaGreatDoor
end

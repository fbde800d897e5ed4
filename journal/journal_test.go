package journal

import (
	"bytes"
	"crypto/sha512"
	"encoding/binary"
	"maps"
	"math"
	"slices"
	"testing"

	"headwater/api"
	"headwater/disk"
	"headwater/record"
)

const size = api.SectorSize

// counted is bytes of which no two near ones are alike.
func counted(n, from int) []byte {
	b := make([]byte, n)
	for i := range b {
		b[i] = byte(i*7 + i>>8 + from + 1)
	}
	return b
}

func rec(kind byte, n int) api.Record { return api.Record{Kind: kind, Data: counted(n, int(kind))} }

// draws are numbers that are thrown about, always the same ones.
type draws uint64

func (d *draws) below(n int) int {
	*d = *d*6364136223846793005 + 1442695040888963407
	return int(uint64(*d)>>33) % n
}

func (d *draws) keeps(n int) []bool {
	keep := make([]bool, n)
	for i := range keep {
		keep[i] = d.below(2) == 0
	}
	return keep
}

func (d *draws) record() api.Record {
	return api.Record{Kind: byte(1 + d.below(255)), Data: counted(d.below(200), d.below(256))}
}

func (d *draws) records(n int) []api.Record {
	list := make([]api.Record, n)
	for i := range list {
		list[i] = d.record()
	}
	return list
}

// paper is a disk, and the journal on it, by the chapter's words: what is on the disk itself, what is cached, and what the journal knows.
type paper struct {
	on     []byte
	cache  map[int][]byte
	area   int
	epoch  uint64
	synced int
}

func (p *paper) write(at int, b []byte) { p.cache[at] = bytes.Clone(b) }

func (p *paper) flush() { p.crash(slices.Repeat([]bool{true}, len(p.cache))) }

func (p *paper) crash(keep []bool) {
	for i, at := range slices.Sorted(maps.Keys(p.cache)) {
		if i < len(keep) && keep[i] {
			copy(p.on[at*size:], p.cache[at])
		}
	}
	p.cache = map[int][]byte{}
}

// bytes is what is read: of all sectors.
func (p *paper) bytes() []byte {
	all := bytes.Clone(p.on)
	for at, b := range p.cache {
		copy(all[at*size:], b)
	}
	return all
}

func (p *paper) clone() *paper {
	q := *p
	q.on, q.cache = bytes.Clone(p.on), maps.Clone(p.cache)
	return &q
}

func (p *paper) first() int { return 2 + int(p.epoch%2)*p.area }

func (p *paper) inArea() []byte { return p.bytes()[p.first()*size:][:p.area*size] }

func (p *paper) records() []api.Record {
	list, _, _ := record.All(record.First(p.epoch), p.inArea())
	return list
}

func (p *paper) left() int {
	_, used, _ := record.All(record.First(p.epoch), p.inArea())
	return p.area*size - used
}

// headBytes is a head by the chapter's words.
func headBytes(epoch uint64, area int) []byte {
	b := binary.LittleEndian.AppendUint64(nil, epoch)
	b = binary.LittleEndian.AppendUint32(b, uint32(area))
	sum := sha512.Sum512_256(b)
	return append(append(b, sum[:8]...), make([]byte, size-20)...)
}

func (p *paper) format(area int) {
	p.write(1, make([]byte, size))
	for i := range area {
		p.write(2+i, make([]byte, size))
	}
	p.flush()
	p.write(0, headBytes(0, area))
	p.flush()
	p.area, p.epoch, p.synced = area, 0, 0
}

// strung is records' bytes from the first chain of an epoch on.
func strung(epoch uint64, list []api.Record) []byte {
	var all []byte
	chain := record.First(epoch)
	for _, r := range list {
		b, behind, _ := record.Bytes(chain, r)
		all, chain = append(all, b...), behind
	}
	return all
}

func (p *paper) change(list []api.Record) {
	p.epoch++
	b := append(strung(p.epoch, list), make([]byte, p.area*size)...)
	for i := range p.area {
		p.write(p.first()+i, b[i*size:][:size])
	}
	p.flush()
	p.write(int(p.epoch%2), headBytes(p.epoch, p.area))
	p.flush()
	p.synced = len(list)
}

func (p *paper) open() {
	found := false
	for at := range 2 {
		b := p.bytes()[at*size:][:size]
		epoch, area := binary.LittleEndian.Uint64(b), int(binary.LittleEndian.Uint32(b[8:]))
		if bytes.Equal(b, headBytes(epoch, area)) && int(epoch%2) == at && (!found || epoch > p.epoch) {
			p.epoch, p.area, found = epoch, area, true
		}
	}
	p.change(p.records())
}

func (p *paper) append(r api.Record) {
	_, used, chain := record.All(record.First(p.epoch), p.inArea())
	b, _, _ := record.Bytes(chain, r)
	all := p.bytes()
	place := p.first()*size + used
	copy(all[place:], b)
	for at := place / size; at*size < place+len(b); at++ {
		p.write(at, all[at*size:][:size])
	}
}

func (p *paper) sync() {
	p.flush()
	p.synced = len(p.records())
}

// dirty is a disk of so many sectors with something everywhere, and the paper of it.
func dirty(t *testing.T, sectors int) (*disk.Disk, *paper) {
	t.Helper()
	image := counted(sectors*size, 3)
	d, err := disk.Of(image)
	if err != api.OK {
		t.Fatal("disk.Of", err)
	}
	return d, &paper{on: image, cache: map[int][]byte{}}
}

// fresh is a journal of an area on a disk that has as many sectors as it needs, and some more.
func fresh(t *testing.T, area, more int) (*disk.Disk, *paper, *Journal) {
	t.Helper()
	d, p := dirty(t, 2+2*area+more)
	j, err := Format(d, area)
	if err != api.OK || j == nil {
		t.Fatal("Format", err)
	}
	p.format(area)
	stands(t, "Format", d, p, j)
	return d, p, j
}

func sameList(a, b []api.Record) bool { return slices.EqualFunc(a, b, record.Same) }

// stands fails unless the disk is as the paper has it, and the journal answers what it has.
func stands(t *testing.T, name string, d *disk.Disk, p *paper, j *Journal) {
	t.Helper()
	if !bytes.Equal(d.Image(), p.on) {
		t.Fatalf("%s: the disk itself is another one", name)
	}
	if cached := slices.Sorted(maps.Keys(p.cache)); !slices.Equal(d.Cached(), cached) {
		t.Fatalf("%s: cached %v, want %v", name, d.Cached(), cached)
	}
	for at, want := range p.cache {
		if b, _ := d.Read(at); !bytes.Equal(b, want) {
			t.Fatalf("%s: sector %d", name, at)
		}
	}
	if j.Epoch() != p.epoch || j.Synced() != p.synced || j.Left() != p.left() || !sameList(j.Records(), p.records()) {
		t.Fatalf("%s: epoch %d, synced %d, left %d, %d records; want %d, %d, %d, %d", name,
			j.Epoch(), j.Synced(), j.Left(), len(j.Records()), p.epoch, p.synced, p.left(), len(p.records()))
	}
	if !bytes.Equal(d.Image(), p.on) || len(d.Cached()) != len(p.cache) {
		t.Fatalf("%s: asking wrote something", name)
	}
}

// opens opens the disk, on paper too.
func opens(t *testing.T, name string, d *disk.Disk, p *paper) *Journal {
	t.Helper()
	j, err := Open(d)
	if err != api.OK {
		t.Fatalf("%s: Open: %d", name, err)
	}
	p.open()
	stands(t, name, d, p, j)
	return j
}

// begins answers if the list begins with the other one.
func begins(list, with []api.Record) bool {
	return len(list) >= len(with) && sameList(list[:len(with)], with)
}

func TestP91Sectors(t *testing.T) {
	for area := range 300 {
		want := 0
		if area >= 1 && area <= 256 {
			want = 2 + 2*area
		}
		if Sectors(area) != want {
			t.Errorf("Sectors(%d): %d, want %d", area, Sectors(area), want)
		}
	}
	for _, area := range []int{-1, -256, math.MinInt, math.MaxInt, 1 << 32, 1<<32 + 1, math.MaxInt/2 + 2} {
		if Sectors(area) != 0 {
			t.Errorf("Sectors(%d): %d", area, Sectors(area))
		}
	}
}

func TestP91Format(t *testing.T) {
	for _, area := range []int{1, 2, 3, 100, 255, 256} {
		for _, more := range []int{0, 1, 7} {
			fresh(t, area, more)
		}
	}
}

// TestP91FormatOverOld: what stood there, cached things and heads too, does not come back.
func TestP91FormatOverOld(t *testing.T) {
	for _, lives := range []int{0, 1, 2, 3} {
		for _, area := range []int{1, 2, 4} {
			d, p, j := fresh(t, 4, 0)
			for range lives {
				j.Append(rec(1, 3))
				p.append(rec(1, 3))
				j = opens(t, "a life", d, p)
			}
			j.Append(rec(2, 300))
			p.append(rec(2, 300))
			d.Write(9, counted(size, 5))
			p.write(9, counted(size, 5))
			j, err := Format(d, area)
			if err != api.OK {
				t.Fatal("Format", err)
			}
			p.format(area)
			stands(t, "Format of old", d, p, j)
			d.Crash(nil)
			opens(t, "Open of what was formatted", d, p)
		}
	}
}

func TestP91FormatErrors(t *testing.T) {
	d, p := dirty(t, 12)
	d.Write(3, counted(size, 8))
	p.write(3, counted(size, 8))
	for _, x := range []struct {
		d    *disk.Disk
		area int
		want api.Errno
	}{
		{nil, 1, api.ErrNil}, {nil, 0, api.ErrNil}, {new(disk.Disk), 1, api.ErrNil}, {new(disk.Disk), -1, api.ErrNil},
		{d, 0, api.ErrArg}, {d, -1, api.ErrArg}, {d, 257, api.ErrArg}, {d, 6, api.ErrArg}, {d, 256, api.ErrArg},
		{d, math.MinInt, api.ErrArg}, {d, math.MaxInt, api.ErrArg},
	} {
		if j, err := Format(x.d, x.area); err != x.want || j != nil {
			t.Errorf("Format of area %d: %v, %d, want %d", x.area, j, err, x.want)
		}
	}
	if !bytes.Equal(d.Image(), p.on) || !slices.Equal(d.Cached(), []int{3}) {
		t.Error("an error changed the disk")
	}
	if j, err := Format(d, 5); err != api.OK || j == nil {
		t.Error("Format of as many sectors as there are", err)
	}
}

func TestP91Open(t *testing.T) {
	for lives := range 5 {
		d, p, j := fresh(t, 3, lives)
		for life := range lives {
			for i := range life + 1 {
				j.Append(rec(byte(1+i), 40*i))
				p.append(rec(byte(1+i), 40*i))
			}
			stands(t, "appended", d, p, j)
			j = opens(t, "Open", d, p)
		}
	}
}

// image is a disk's bytes: the heads, and an area's bytes from sector 2 on, noughts behind.
func image(sectors int, zero, one, areas []byte) []byte {
	b := make([]byte, sectors*size)
	copy(b, zero)
	copy(b[size:], one)
	copy(b[2*size:], areas)
	return b
}

func TestP91OpenHeads(t *testing.T) {
	odd, even := []api.Record{rec(1, 3), rec(2, 4)}, []api.Record{rec(3, 5)}
	const high = math.MaxUint64 - 1
	for _, x := range []struct {
		name      string
		zero, one []byte
		epoch     uint64
		list      []api.Record
	}{
		{"the first alone", headBytes(4, 2), nil, 5, even},
		{"the second alone", nil, headBytes(3, 2), 4, odd},
		{"the first is greater", headBytes(4, 2), headBytes(3, 2), 5, even},
		{"the second is greater", headBytes(4, 2), headBytes(5, 2), 6, nil},
		{"the second is greater by much", headBytes(4, 2), headBytes(high-1, 2), high, nil},
		{"the greatest even one", headBytes(high, 2), headBytes(3, 2), high + 1, nil},
		{"the first is in the wrong sector", headBytes(5, 2), headBytes(3, 2), 4, odd},
		{"the second is in the wrong sector", headBytes(4, 2), headBytes(6, 2), 5, even},
		{"the first has no area", headBytes(6, 0), headBytes(3, 2), 4, odd},
		{"the second has too great an area", headBytes(4, 2), headBytes(5, 257), 5, even},
		{"the first is of another area", headBytes(2, 1), headBytes(3, 2), 4, odd},
	} {
		b := image(7, x.zero, x.one, nil)
		copy(b[2*size:], strung(4, even))
		copy(b[4*size:], strung(3, odd))
		d, _ := disk.Of(b)
		j, err := Open(d)
		if err != api.OK || j.Epoch() != x.epoch || !sameList(j.Records(), x.list) || j.Synced() != len(x.list) {
			t.Errorf("%s: %d, epoch %d", x.name, err, j.Epoch())
			continue
		}
		p := &paper{on: b, cache: map[int][]byte{}, area: 2, epoch: x.epoch - 1}
		p.change(x.list)
		stands(t, x.name, d, p, j)
	}
}

// TestP91OpenRecordsOfEpoch: records under another epoch's chain, or in the other area, are none.
func TestP91OpenRecordsOfEpoch(t *testing.T) {
	list := []api.Record{rec(1, 3), rec(2, 4)}
	for epoch := range uint64(8) {
		b := image(6, headBytes(4, 2), nil, strung(epoch, list))
		d, _ := disk.Of(b)
		j, err := Open(d)
		want := list
		if epoch != 4 {
			want = nil
		}
		if err != api.OK || !sameList(j.Records(), want) {
			t.Errorf("epoch %d: %d, %d records", epoch, err, len(j.Records()))
		}
	}
	b := image(6, headBytes(4, 2), nil, nil)
	copy(b[4*size:], strung(4, list))
	d, _ := disk.Of(b)
	if j, err := Open(d); err != api.OK || len(j.Records()) != 0 {
		t.Error("records of the other area")
	}
}

func TestP91OpenErrors(t *testing.T) {
	bad := func(name string, b []byte) {
		t.Helper()
		d, err := disk.Of(b)
		if err != api.OK {
			t.Fatal(name, err)
		}
		d.Write(0, b[:size])
		if j, err := Open(d); err != api.ErrBad || j != nil {
			t.Errorf("%s: %v, %d", name, j, err)
		}
		if !bytes.Equal(d.Image(), b) || len(d.Cached()) != 1 {
			t.Errorf("%s: an error changed the disk", name)
		}
	}
	for _, none := range []*disk.Disk{nil, new(disk.Disk)} {
		if j, err := Open(none); err != api.ErrNil || j != nil {
			t.Error("Open of no disk", err)
		}
	}
	whole := image(4, headBytes(0, 1), nil, nil)
	if d, _ := disk.Of(whole); !isOpened(d) {
		t.Error("a journal of one sector")
	}
	for n := 1; n < 4; n++ {
		bad("too few sectors", whole[:n*size])
	}
	for at := range size {
		b := bytes.Clone(whole)
		b[at] ^= 1 << (at % 8)
		bad("a head with a byte changed", b)
	}
	bad("noughts", make([]byte, 6*size))
	bad("dirt", counted(6*size, 1))
	bad("heads in the wrong sectors", image(4, headBytes(1, 1), headBytes(2, 1), nil))
	bad("no area", image(600, headBytes(0, 0), headBytes(1, 0), nil))
	bad("too great an area", image(600, headBytes(0, 257), headBytes(1, 1<<32-1), nil))
	bad("the one that counts needs more", image(5, headBytes(0, 1), headBytes(1, 2), nil))
	bad("and the other way round", image(5, headBytes(2, 2), headBytes(1, 1), nil))
	bad("much more", image(513, headBytes(0, 256), nil, nil))
	if d, _ := disk.Of(image(514, headBytes(0, 256), nil, nil)); !isOpened(d) {
		t.Error("the greatest journal")
	}
}

func isOpened(d *disk.Disk) bool {
	j, err := Open(d)
	return err == api.OK && j != nil && j.Epoch() == 1
}

func TestP92AppendEdges(t *testing.T) {
	for _, area := range []int{1, 2} {
		// A record of n Data (up to 127) has n and 10 bytes.
		for n := range 128 {
			d, p, j := fresh(t, area, 1)
			for k := byte(1); ; k++ {
				r := rec(k, n)
				left := j.Left()
				err := j.Append(r)
				if n+10 > left {
					if err != api.ErrFull {
						t.Fatalf("%d in %d: %d", n, left, err)
					}
					break
				}
				if err != api.OK {
					t.Fatalf("%d in %d: %d", n, left, err)
				}
				p.append(r)
				stands(t, "Append", d, p, j)
				if k%3 == 0 {
					j.Sync()
					p.sync()
				}
			}
			stands(t, "full", d, p, j)
			if j.Left() < 10 {
				continue
			}
			last := api.Record{Kind: 9, Data: make([]byte, j.Left()-10)}
			if err := j.Append(last); err != api.OK || j.Left() != 0 {
				t.Fatalf("what just goes in: %d", err)
			}
			p.append(last)
			stands(t, "brimful", d, p, j)
			if j.Append(api.Record{Kind: 1}) != api.ErrFull {
				t.Fatal("one more")
			}
			d.Crash(slices.Repeat([]bool{true}, 9))
			p.crash(slices.Repeat([]bool{true}, 9))
			opens(t, "brimful", d, p)
		}
	}
}

func TestP92AppendLong(t *testing.T) {
	d, p, j := fresh(t, 256, 0)
	for k := byte(1); k < 8; k++ {
		r := rec(k, api.MaxData)
		if err := j.Append(r); err != api.OK {
			t.Fatal("Append", err)
		}
		p.append(r)
		stands(t, "Append of the longest", d, p, j)
	}
	if j.Append(rec(8, api.MaxData)) != api.ErrFull || j.Left() != 256*256-7*(api.MaxData+11) {
		t.Error("the eighth", j.Left())
	}
	stands(t, "the eighth", d, p, j)
	j = opens(t, "Open of the longest", d, p)
	small, _, k := fresh(t, 32, 0)
	if k.Append(rec(1, api.MaxData)) != api.ErrFull || len(small.Cached()) != 0 {
		t.Error("one that no area of 32 has room for")
	}
}

func TestP92AppendErrors(t *testing.T) {
	d, p, j := fresh(t, 33, 0)
	j.Append(rec(1, 20))
	p.append(rec(1, 20))
	for _, r := range []api.Record{{}, {Data: counted(3, 1)}, rec(1, api.MaxData+1), rec(0, api.MaxData+1), rec(1, 40*size)} {
		if err := j.Append(r); err != api.ErrArg {
			t.Errorf("Kind %d, %d Data: %d", r.Kind, len(r.Data), err)
		}
		stands(t, "what may not be", d, p, j)
	}
	if j.Append(rec(255, api.MaxData)) != api.OK {
		t.Error("what may be")
	}
}

func TestP92Switch(t *testing.T) {
	thrown := draws(92)
	d, p, j := fresh(t, 4, 2)
	for i := range 40 {
		list := thrown.records(i % 5)
		if i%7 == 0 {
			// Just as much as goes in.
			list = []api.Record{rec(1, 0), {Kind: 2, Data: counted(4*size-9-1-10-9-11, 1)}, {Kind: 1}}
		}
		if err := j.Switch(list); err != api.OK {
			t.Fatal("Switch", i, err)
		}
		p.change(list)
		stands(t, "Switch", d, p, j)
		if !sameList(j.Records(), list) || j.Synced() != len(list) || j.Epoch() != uint64(i+1) {
			t.Fatal("Switch", i)
		}
		for range i % 3 {
			r := thrown.record()
			if j.Append(r) == api.OK {
				p.append(r)
			}
			stands(t, "Append", d, p, j)
		}
	}
}

func TestP92SwitchErrors(t *testing.T) {
	d, p, j := fresh(t, 2, 0)
	j.Append(rec(1, 20))
	p.append(rec(1, 20))
	full := []api.Record{rec(1, 400), rec(2, 100)}
	for _, x := range []struct {
		list []api.Record
		want api.Errno
	}{
		{full, api.ErrFull},
		{[]api.Record{rec(1, api.MaxData)}, api.ErrFull},
		{[]api.Record{{Kind: 1, Data: make([]byte, 2*size-11+1)}}, api.ErrFull},
		{append(slices.Clone(full), api.Record{}), api.ErrArg},
		{append([]api.Record{{}}, full...), api.ErrArg},
		{[]api.Record{rec(1, api.MaxData+1)}, api.ErrArg},
		{[]api.Record{rec(1, 3), rec(0, 3), rec(1, 3)}, api.ErrArg},
	} {
		if err := j.Switch(x.list); err != x.want {
			t.Errorf("Switch to %d records: %d, want %d", len(x.list), err, x.want)
		}
		stands(t, "a switch that may not be", d, p, j)
	}
	just := []api.Record{{Kind: 1, Data: make([]byte, 2*size-11)}}
	if err := j.Switch(just); err != api.OK || j.Left() != 0 {
		t.Error("what just goes in", err, j.Left())
	}
	// What is in the old area does not count.
	if err := j.Switch(just); err != api.OK || j.Switch(nil) != api.OK || j.Left() != 2*size {
		t.Error("the same once more", err)
	}
}

func TestP92Synced(t *testing.T) {
	_, p, j := fresh(t, 3, 0)
	for i := range 10 {
		j.Append(rec(1, i))
		p.append(rec(1, i))
		if i == 3 || i == 4 || i == 8 {
			if j.Sync() != api.OK || j.Synced() != i+1 {
				t.Error("Sync", i, j.Synced())
			}
			p.sync()
		}
		if j.Synced() != p.synced || len(j.Records()) != i+1 {
			t.Error("Synced", i, j.Synced())
		}
	}
}

// TestP92SyncedBehindLoss: what is counted at a sync is what is there then.
func TestP92SyncedBehindLoss(t *testing.T) {
	d, _, j := fresh(t, 3, 0)
	j.Append(rec(1, 10))
	j.Sync()
	j.Append(rec(2, 10))
	d.Crash(nil)
	if j.Sync() != api.OK || j.Synced() != 1 {
		t.Error("a record was lost", j.Synced())
	}
	twin := *j
	j.Append(rec(2, 10))
	d.Write(2, make([]byte, size))
	if j.Sync() != api.OK || j.Synced() != 0 || twin.Synced() != 1 {
		t.Error("all were lost", j.Synced(), twin.Synced())
	}
	if j.Append(rec(3, 10)) != api.OK || !sameList(j.Records(), []api.Record{rec(3, 10)}) {
		t.Error("the first one behind that")
	}
}

func TestP92Nobodys(t *testing.T) {
	var none *Journal
	for _, j := range []*Journal{none, {}, new(Journal)} {
		for name, err := range map[string]api.Errno{
			"Append": j.Append(rec(1, 2)), "Append of none": j.Append(api.Record{}),
			"Sync": j.Sync(), "Switch": j.Switch(nil), "Switch to none": j.Switch([]api.Record{{}}),
		} {
			if err != api.ErrNil {
				t.Errorf("%s of nobody's: %d", name, err)
			}
		}
		if len(j.Records()) != 0 || j.Epoch() != 0 || j.Left() != 0 || j.Synced() != 0 {
			t.Error("nobody's answers something")
		}
	}
}

// TestP92Scripts: long lives by all calls, held against the paper, with crashes that keep what they like.
func TestP92Scripts(t *testing.T) {
	for seed := range 60 {
		thrown := draws(seed)
		d, p, j := fresh(t, 1+seed%6, seed%3)
		for range 120 {
			switch thrown.below(12) {
			case 0:
				list := thrown.records(thrown.below(4))
				if j.Switch(list) == api.OK {
					p.change(list)
				}
			case 1, 2:
				if j.Sync() != api.OK {
					t.Fatal("Sync")
				}
				p.sync()
			case 3:
				keep := thrown.keeps(len(d.Cached()))
				d.Crash(keep)
				p.crash(keep)
				j = opens(t, "Open", d, p)
			case 4:
				if thrown.below(9) == 0 {
					j, _ = Format(d, p.area)
					p.format(p.area)
				}
			default:
				r := thrown.record()
				left := p.left()
				if err := j.Append(r); (err == api.OK) != (record.Size(r) <= left) {
					t.Fatal("Append", err, left)
				} else if err == api.OK {
					p.append(r)
				}
			}
			stands(t, "a script", d, p, j)
		}
	}
}

// TestP92RecordsAreRead: records are what is read from the area: of a journal beneath which the disk crashed, or was written, too.
func TestP92RecordsAreRead(t *testing.T) {
	for seed := range 60 {
		thrown := draws(seed)
		d, p, j := fresh(t, 1+seed%5, 0)
		for range 80 {
			switch thrown.below(8) {
			case 0:
				keep := thrown.keeps(len(d.Cached()))
				d.Crash(keep)
				p.crash(keep)
			case 1:
				at := p.first() + thrown.below(p.area)
				b, _ := d.Read(at)
				b[thrown.below(size)] ^= 1
				d.Write(at, b)
				p.write(at, b)
			case 2:
				j.Sync()
				p.sync()
			default:
				r := thrown.record()
				if j.Append(r) == api.OK {
					p.append(r)
				}
			}
			stands(t, "a disk that was changed", d, p, j)
		}
	}
}

// TestP93EveryKeep: behind each crash that keeps any of the cached sectors, Open has what was synced, and of the rest a beginning.
func TestP93EveryKeep(t *testing.T) {
	for _, sizes := range [][]int{{3}, {3, 3}, {200, 200, 200}, {600}, {300, 10, 700, 20}, {0, 0, 0, 500, 0, 0}, {246, 246, 1}} {
		for synced := range len(sizes) + 1 {
			d, p, j := fresh(t, 8, 0)
			var list []api.Record
			for i, n := range sizes {
				if i == synced {
					j.Sync()
					p.sync()
				}
				list = append(list, rec(byte(i+1), n))
				if j.Append(list[i]) != api.OK {
					t.Fatal("Append")
				}
				p.append(list[i])
			}
			cached := len(d.Cached())
			for choice := range 1 << cached {
				keep := make([]bool, cached)
				for i := range keep {
					keep[i] = choice>>i&1 == 1
				}
				e, q := d.Clone(), p.clone()
				e.Crash(keep)
				q.crash(keep)
				k := opens(t, "a crash", e, q)
				got := k.Records()
				sure := list[:synced%len(sizes)]
				if !begins(list, got) || !begins(got, sure) || k.Synced() != len(got) {
					t.Fatalf("%v, keep %v: %d records of %d, synced %d", sizes, keep, len(got), len(list), synced)
				}
				if choice == 1<<cached-1 && len(got) != len(list) {
					t.Fatal("all was kept")
				}
			}
		}
	}
}

// stopped goes so many calls of the disk into a switch to the list; it answers if that was all of it.
func stopped(j *Journal, list []api.Record, calls int) bool {
	next := newLog(j.Epoch() + 1)
	for _, r := range list {
		next.add(r)
	}
	for range j.steps(next) {
		calls--
		if calls <= 0 {
			return false
		}
	}
	return true
}

// TestP93CrashInSwitch: a switch is stopped behind each call of the disk; behind that it is as it was ahead, or behind.
func TestP93CrashInSwitch(t *testing.T) {
	thrown := draws(93)
	for area := 1; area < 5; area++ {
		d, p, j := fresh(t, area, 0)
		for life := range 4 {
			old, list := j.Records(), thrown.records(area/2)
			for calls := 1; ; calls++ {
				end := false
				for range 12 {
					e := d.Clone()
					k, err := Open(e.Clone())
					if err != api.OK {
						t.Fatal("Open", err)
					}
					k = &Journal{disk: e, area: area, log: newLog(j.Epoch())}
					end = stopped(k, list, calls)
					e.Crash(thrown.keeps(len(e.Cached())))
					k, err = Open(e)
					if err != api.OK {
						t.Fatalf("area %d, %d calls: Open: %d", area, calls, err)
					}
					got := k.Records()
					isOld := sameList(got, old) && k.Epoch() == p.epoch+1
					isNew := sameList(got, list) && k.Epoch() == p.epoch+2
					if calls <= area+1 && !isOld || calls == area+2 && !isOld && !isNew || calls > area+2 && !isNew {
						t.Fatalf("area %d, life %d: %d records behind %d calls", area, life, len(got), calls)
					}
				}
				if end {
					if calls != area+4 {
						t.Fatalf("a switch of area %d has %d calls", area, calls-1)
					}
					break
				}
			}
			j.Switch(list)
			p.change(list)
			stands(t, "Switch", d, p, j)
		}
	}
}

// TestP93FormerLives: records that were lost, or left at a switch, never come back, though the same ones are appended again.
func TestP93FormerLives(t *testing.T) {
	for seed := range 40 {
		thrown := draws(seed)
		d, p, j := fresh(t, 1+seed%4, 0)
		list := thrown.records(12)
		var there []api.Record
		for range 40 {
			switch thrown.below(6) {
			case 0:
				d.Crash(thrown.keeps(len(d.Cached())))
				k, err := Open(d)
				if err != api.OK {
					t.Fatal("Open", err)
				}
				got := k.Records()
				if !begins(there, got) || len(got) < p.synced || k.Epoch() != j.Epoch()+1 {
					t.Fatalf("%d records, of %d, synced %d", len(got), len(there), p.synced)
				}
				j, there, p.synced = k, got, len(got)
			case 1:
				there = there[:thrown.below(len(there)+1)]
				if j.Switch(there) != api.OK {
					t.Fatal("Switch")
				}
				p.synced = len(there)
			case 2:
				j.Sync()
				p.synced = len(there)
			default:
				// The same records in the same order, as far as there is room.
				r := list[len(there)%len(list)]
				if j.Append(r) == api.OK {
					there = append(there, r)
				}
			}
			if !sameList(j.Records(), there) || j.Synced() != p.synced {
				t.Fatalf("%d records, want %d", len(j.Records()), len(there))
			}
			there = slices.Clip(there)
		}
	}
}

func TestExamples(t *testing.T) {
	d, _ := disk.New(Sectors(2))
	j, err := Format(d, 2)
	if err != api.OK || j.Append(api.Record{Kind: 1, Data: []byte("abc")}) != api.OK || j.Left() != 499 {
		t.Error("Left", j.Left())
	}
	d.Crash(nil)
	j, err = Open(d)
	if err != api.OK || len(j.Records()) != 0 || j.Epoch() != 1 {
		t.Error("Open behind a crash")
	}
}

// fill writes a slice and its spare room over.
func fill(b []byte) {
	whole := b[:cap(b)]
	for i := range whole {
		whole[i] = 0x55
	}
}

func TestRuleHandedInIsNotKept(t *testing.T) {
	_, _, j := fresh(t, 4, 0)
	room := bytes.Repeat([]byte{0xaa}, 64)
	data := room[:3]
	j.Append(api.Record{Kind: 1, Data: data})
	if !bytes.Equal(room, bytes.Repeat([]byte{0xaa}, 64)) {
		t.Error("Append wrote what was handed in")
	}
	fill(data)
	j.Append(api.Record{Kind: 2})
	want := []api.Record{{Kind: 1, Data: []byte{0xaa, 0xaa, 0xaa}}, {Kind: 2}}
	if !sameList(j.Records(), want) {
		t.Error("Append kept what was handed in")
	}
	list := make([]api.Record, 2, 9)
	list[0] = api.Record{Kind: 3, Data: room[:5]}
	list[1] = api.Record{Kind: 4, Data: room[5:9]}
	list[:3][2] = api.Record{Kind: 5}
	j.Switch(list)
	if list[0].Kind != 3 || list[1].Kind != 4 || list[:3][2].Kind != 5 || room[0] != 0x55 {
		t.Error("Switch changed what was handed in")
	}
	want = []api.Record{{Kind: 3, Data: bytes.Repeat([]byte{0x55}, 5)}, {Kind: 4, Data: bytes.Repeat([]byte{0x55}, 4)}}
	clear(room)
	clear(list)
	j.Append(api.Record{Kind: 6})
	if !sameList(j.Records(), append(want, api.Record{Kind: 6})) {
		t.Error("Switch kept what was handed in")
	}
}

func TestRuleAnswersAreNew(t *testing.T) {
	_, _, j := fresh(t, 4, 0)
	want := []api.Record{rec(1, 30), rec(2, 0), rec(3, 50)}
	for _, r := range want {
		j.Append(r)
	}
	first, second := j.Records(), j.Records()
	fill(first[0].Data)
	fill(first[1].Data)
	if !bytes.Equal(first[2].Data, want[2].Data) || !sameList(second, want) || !sameList(j.Records(), want) {
		t.Error("answers share memory")
	}
	first = append(first, api.Record{Kind: 9})
	clear(first[:cap(first)])
	if !sameList(second, want) || !sameList(j.Records(), want) {
		t.Error("lists share memory")
	}
}

// TestRuleJournalsApart: two journals of one disk know nothing of each other but what stands on it.
func TestRuleJournalsApart(t *testing.T) {
	d, p, j := fresh(t, 3, 0)
	e, q, k := fresh(t, 3, 0)
	j.Append(rec(1, 30))
	p.append(rec(1, 30))
	k.Append(rec(2, 300))
	q.append(rec(2, 300))
	stands(t, "the one", d, p, j)
	stands(t, "the other", e, q, k)
	// A journal goes on where another one of its epoch on its disk went.
	twin := *j
	if twin.Append(rec(3, 40)) != api.OK || !sameList(j.Records(), []api.Record{rec(1, 30), rec(3, 40)}) {
		t.Error("twins")
	}
	p.append(rec(3, 40))
	stands(t, "a twin", d, p, j)
}

// TestT6AnyArguments: no call panics, though the disk beneath is changed into another one.
func TestT6AnyArguments(t *testing.T) {
	for n := range 12 {
		d, _, j := fresh(t, 3, 0)
		j.Append(rec(1, 300))
		j.Sync()
		small, _ := disk.New(n)
		if small == nil {
			small = new(disk.Disk)
		}
		*d = *small
		for _, r := range []api.Record{{}, rec(1, 3), rec(1, 700), rec(1, api.MaxData+1)} {
			j.Append(r)
			j.Switch([]api.Record{r})
			j.Sync()
			j.Records()
			if j.Left() < 0 || j.Left() > 3*size || j.Synced() < 0 {
				t.Error("Left, Synced")
			}
		}
		if n == 0 && (j.Append(rec(1, 3)) != api.ErrNil || j.Sync() != api.ErrNil || j.Switch(nil) != api.ErrNil) {
			t.Error("a disk that is none any more")
		}
	}
}

// TestT6DiskErrors: what the disk can't do is no record, and changes no epoch.
func TestT6DiskErrors(t *testing.T) {
	d, _, j := fresh(t, 3, 0)
	j.Append(rec(1, 30))
	j.Sync()
	*d = disk.Disk{}
	if j.Switch(nil) != api.ErrNil || j.Epoch() != 0 || j.Synced() != 1 || j.Left() != 3*size || len(j.Records()) != 0 {
		t.Error("a disk that is none any more")
	}
	e, _ := disk.New(4)
	*d = *e
	if j.Append(rec(1, 600)) != api.ErrArg || len(j.Records()) != 0 {
		t.Error("a disk with too few sectors")
	}
}

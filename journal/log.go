package journal

import (
	"bytes"

	"headwater/api"
	"headwater/record"
)

// place is a place of a byte in an area.
type place int

// sector answers which sector of the area the place is in.
func (p place) sector() int { return int(p) / api.SectorSize }

// start answers where that sector starts.
func (p place) start() place { return place(p.sector() * api.SectorSize) }

// up answers the first place from p on where a sector starts.
func (p place) up() place { return (p + api.SectorSize - 1).start() }

// log is an epoch's records: their bytes from the area's beginning on, how many they are, and the chain behind them. It is kept so that they need not be summed up again for each record behind them.
type log struct {
	epoch uint64
	bytes bytes.Buffer
	count int
	chain api.Digest
}

func newLog(epoch uint64) *log {
	return &log{epoch: epoch, chain: record.First(epoch)}
}

// end answers the place behind the last record.
func (l *log) end() place { return place(l.bytes.Len()) }

// tail answers the records' bytes from the place on.
func (l *log) tail(from place) []byte { return l.bytes.Bytes()[from:] }

// begins answers if the area begins with the log's records.
func (l *log) begins(area []byte) bool { return bytes.HasPrefix(area, l.tail(0)) }

func (l *log) forget() { *l = *newLog(l.epoch) }

// add puts a record, that may be, behind the last one.
func (l *log) add(r api.Record) {
	b, behind, _ := record.Bytes(l.chain, r)
	l.bytes.Write(b)
	l.count++
	l.chain = behind
}

// find puts the records that the bytes begin with behind the last one.
func (l *log) find(b []byte) {
	list, size, behind := record.All(l.chain, b)
	l.bytes.Write(b[:size])
	l.count += len(list)
	l.chain = behind
}

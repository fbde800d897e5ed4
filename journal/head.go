package journal

import (
	"bytes"

	"headwater/api"
	"headwater/disk"
	"headwater/octet"
	"headwater/sha"
)

// heads is how many heads there are, and how many areas; those of an epoch are told by the epoch modulo heads.
const heads = 2

// The bytes of a head's parts.
const (
	epochSize = 8
	areaSize  = 4
	sumSize   = 8
)

func headSector(epoch uint64) int { return int(epoch % heads) }

// firstSector answers the first sector of the epoch's area.
func firstSector(epoch uint64, area int) int { return heads + headSector(epoch)*area }

func head(epoch uint64, area int) []byte {
	b := octet.Word(octet.Word(nil, epoch, epochSize), uint64(area), areaSize)
	sum := sha.Sum(b)
	return padded(append(b, sum[:sumSize]...), api.SectorSize)
}

// counting answers the epoch and the area of the head that counts: an area of 0, where none does. (Two heads in their sectors never have one epoch.)
func counting(d *disk.Disk) (epoch uint64, area int) {
	for at := range heads {
		b, _ := d.Read(at)
		e, a := readHead(b)
		if a > 0 && headSector(e) == at && e >= epoch {
			epoch, area = e, a
		}
	}
	return epoch, area
}

// readHead answers the epoch and the area of a head's bytes: an area of 0, where they are none.
func readHead(b []byte) (uint64, int) {
	in := octet.Read(b)
	epoch := in.Word(epochSize)
	area := int(in.Word(areaSize))
	if Sectors(area) == 0 || !bytes.Equal(b, head(epoch, area)) {
		return 0, 0
	}
	return epoch, area
}

// padded answers the bytes, with noughts behind them up to the size.
func padded(b []byte, size int) []byte {
	out := make([]byte, size)
	copy(out, b)
	return out
}

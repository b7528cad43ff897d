package packet_test

import (
	"math"
	"strings"
	"testing"

	"lighterman/api"
	"lighterman/packet"
	"lighterman/sha"
	"lighterman/wire"
)

func sample() api.Packet {
	return api.Packet{
		Src: api.End{Port: "transfer", Chan: 7}, Dst: api.End{Port: "t", Chan: 300},
		Seq: 5, Data: "hello", TimeHeight: 258, TimeAt: 1,
	}
}

const sampleBytes = "\x08transfer\x07\x01t\xac\x02\x05\x05hello\x82\x02\x01"

// changed returns the sample with one change.
func changed(change func(p *api.Packet)) api.Packet {
	p := sample()
	change(&p)
	return p
}

// valid and invalid have packets at the bounds.
func valid() []api.Packet {
	return []api.Packet{
		sample(),
		changed(func(p *api.Packet) { p.Data = "" }),
		changed(func(p *api.Packet) { p.Data = strings.Repeat("\xff", api.MaxData) }),
		changed(func(p *api.Packet) { p.Seq = 1 }),
		changed(func(p *api.Packet) { p.Seq = api.MaxSeq }),
		changed(func(p *api.Packet) { p.TimeHeight, p.TimeAt = 0, 0 }),
		changed(func(p *api.Packet) { p.TimeHeight, p.TimeAt = api.MaxHeight, api.MaxTime }),
		changed(func(p *api.Packet) { p.Dst = p.Src }),
	}
}

func invalid() []api.Packet {
	return []api.Packet{
		{},
		changed(func(p *api.Packet) { p.Src.Port = "" }),
		changed(func(p *api.Packet) { p.Src.Chan = 1000 }),
		changed(func(p *api.Packet) { p.Dst.Port = "T" }),
		changed(func(p *api.Packet) { p.Dst.Chan = -1 }),
		changed(func(p *api.Packet) { p.Seq = 0 }),
		changed(func(p *api.Packet) { p.Seq = -1 }),
		changed(func(p *api.Packet) { p.Seq = api.MaxSeq + 1 }),
		changed(func(p *api.Packet) { p.Data = strings.Repeat("x", api.MaxData+1) }),
		changed(func(p *api.Packet) { p.TimeHeight = -1 }),
		changed(func(p *api.Packet) { p.TimeHeight = api.MaxHeight + 1 }),
		changed(func(p *api.Packet) { p.TimeAt = math.MinInt }),
		changed(func(p *api.Packet) { p.TimeAt = api.MaxTime + 1 }),
	}
}

func TestMay(t *testing.T) { // P5.1
	for _, p := range valid() {
		if !packet.May(p) {
			t.Errorf("May(%v) is false", p)
		}
	}
	for _, p := range invalid() {
		if packet.May(p) {
			t.Errorf("May(%v) is true", p)
		}
	}
}

func TestOver(t *testing.T) { // P5.1
	for _, c := range []struct {
		timeHeight, timeAt, height, time int
		want                             bool
	}{
		{1, 0, 1, 0, true}, {0, 1, 0, 1, true}, {5, 0, 5, 0, true}, {5, 0, 4, math.MaxInt, false}, {5, 0, 6, 0, true},
		{0, 7, 0, 7, true}, {0, 7, math.MaxInt, 6, false}, {0, 7, 0, 8, true},
		{0, 0, math.MaxInt, math.MaxInt, false}, {5, 7, 5, 0, true}, {5, 7, 0, 7, true}, {5, 7, 4, 6, false},
		{-1, -1, 9, 9, false}, {-5, 0, -5, 0, false}, {0, -5, 0, -4, false},
	} {
		p := api.Packet{TimeHeight: c.timeHeight, TimeAt: c.timeAt}
		if packet.Over(p, c.height, c.time) != c.want {
			t.Errorf("Over(%v) is not %t", c, c.want)
		}
	}
}

func TestCommit(t *testing.T) { // P5.2
	p := sample()
	data := sha.Sum("hello")
	want := sha.Sum("\x00\x00\x00\x00\x00\x00\x01\x02" + "\x00\x00\x00\x00\x00\x00\x00\x01" + string(data[:]))
	if packet.Commit(p) != want {
		t.Errorf("Commit is %x", packet.Commit(p))
	}
	p.Src, p.Dst, p.Seq = api.End{Port: "x"}, api.End{Port: "y"}, 9
	if packet.Commit(p) != want {
		t.Error("Commit depends on the ends or the number")
	}
	for _, p := range invalid() {
		if packet.Commit(p) != (api.Hash{}) {
			t.Errorf("Commit(%v) is %x", p, packet.Commit(p))
		}
	}
}

func TestSame(t *testing.T) { // P5.2
	if !packet.Same(sample(), sample()) {
		t.Error("equal packets are not the same")
	}
	for _, p := range append(valid()[1:], invalid()...) {
		if packet.Same(sample(), p) || packet.Same(p, sample()) {
			t.Errorf("the sample is the same as %v", p)
		}
	}
}

func TestWriteAndRead(t *testing.T) { // P5.3
	w := wire.New()
	packet.Write(w, sample())
	if s, e := w.Bytes(); s != sampleBytes || e != api.OK {
		t.Errorf("Write: %x, %d", s, e)
	}
	r := wire.Of(sampleBytes + "rest")
	if p := packet.Read(r); p != sample() || r.Err() != api.OK || r.At() != len(sampleBytes) {
		t.Errorf("Read: %v, %d", p, r.Err())
	}
	r = wire.Of("\x08Transfer\x07\x00\x00\x01\x00\x00\x00")
	if p := packet.Read(r); p.Src.Port != "Transfer" || p.Seq != 1 || r.End() != api.OK {
		t.Errorf("Read of a port that is no name: %v, %d", p, r.Err())
	}
}

func TestReadFails(t *testing.T) { // P5.3
	part := func(change func(p *api.Packet)) api.Packet { return changed(change) }
	for _, c := range []struct {
		s    string
		want api.Packet
		e    api.Errno
	}{
		{"", api.Packet{}, api.ErrShort},
		{"\x0dtransfertrans\x07", api.Packet{}, api.ErrLong},
		{"\x01t\xe8\x07", api.Packet{Src: api.End{Port: "t"}}, api.ErrRange},
		{"\x01t\x07\x0d", api.Packet{Src: api.End{Port: "t", Chan: 7}}, api.ErrLong},
		{"\x01t\x07\x01u\xe8\x07", api.Packet{Src: api.End{Port: "t", Chan: 7}, Dst: api.End{Port: "u"}}, api.ErrRange},
		{"\x01t\x07\x01u\x07\x00", api.Packet{Src: api.End{Port: "t", Chan: 7}, Dst: api.End{Port: "u", Chan: 7}}, api.ErrRange},
		{sampleBytes[:14] + "\x81\x80\x80\x80\x80\x20", part(func(p *api.Packet) { p.Seq, p.Data, p.TimeHeight, p.TimeAt = 0, "", 0, 0 }), api.ErrRange},
		{sampleBytes[:15] + "\xc9\x01", part(func(p *api.Packet) { p.Data, p.TimeHeight, p.TimeAt = "", 0, 0 }), api.ErrLong},
		{sampleBytes[:20], part(func(p *api.Packet) { p.Data, p.TimeHeight, p.TimeAt = "", 0, 0 }), api.ErrShort},
		{sampleBytes[:21] + "\x81\x80\x80\x80\x80\x20\x01", part(func(p *api.Packet) { p.TimeHeight, p.TimeAt = 0, 0 }), api.ErrRange},
		{sampleBytes[:23] + "\x81\x80\x80\x80\x80\x20", part(func(p *api.Packet) { p.TimeAt = 0 }), api.ErrRange},
		{sampleBytes[:23], part(func(p *api.Packet) { p.TimeAt = 0 }), api.ErrShort},
	} {
		r := wire.Of(c.s)
		if p := packet.Read(r); p != c.want || r.Err() != c.e {
			t.Errorf("Read(%x): %v, %d", c.s, p, r.Err())
		}
		if p, e := packet.Decode(c.s); p != (api.Packet{}) || e != c.e {
			t.Errorf("Decode(%x): %v, %d", c.s, p, e)
		}
	}
}

func TestEncodeAndDecode(t *testing.T) { // P5.3
	if s, e := packet.Encode(sample()); s != sampleBytes || e != api.OK {
		t.Errorf("Encode: %x, %d", s, e)
	}
	for _, p := range invalid() {
		if s, e := packet.Encode(p); s != "" || e != api.ErrRange {
			t.Errorf("Encode(%v): %x, %d", p, s, e)
		}
	}
	for s, want := range map[string]api.Errno{
		sampleBytes + "x": api.ErrForm,
		"\x08Transfer\x07\x00\x00\x01\x00\x00\x00x": api.ErrForm,
		"\x08Transfer\x07\x01t\x00\x01\x00\x00\x00": api.ErrRange,
		"\x01t\x07\x00\x00\x01\x00\x00\x00":         api.ErrRange,
	} {
		if p, e := packet.Decode(s); p != (api.Packet{}) || e != want {
			t.Errorf("Decode(%x): %v, %d", s, p, e)
		}
	}
}

func TestRoundTrip(t *testing.T) { // P5.4
	for _, p := range valid() {
		s, _ := packet.Encode(p)
		if got, e := packet.Decode(s); got != p || e != api.OK {
			t.Errorf("Decode(Encode(%v)): %v, %d", p, got, e)
		}
		for i := range s {
			for _, x := range []byte{1, 0x20, 0x80} {
				b := []byte(s)
				b[i] ^= x
				got, e := packet.Decode(string(b))
				if back, _ := packet.Encode(got); e == api.OK && back != string(b) {
					t.Errorf("Encode(Decode(%x)): %x", b, back)
				}
			}
		}
	}
}

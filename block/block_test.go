package block_test

import (
	"math"
	"strings"
	"testing"

	"lighterman/api"
	"lighterman/block"
	"lighterman/event"
)

func sampleEvents() []api.Event {
	p := api.Packet{Src: api.End{Port: "s", Chan: 1}, Dst: api.End{Port: "d", Chan: 2}, Seq: 3, Data: "x", TimeHeight: 4, TimeAt: 5}
	return []api.Event{{Kind: api.EvSend, Packet: p}, {Kind: api.EvWrite, Packet: p, Ack: "ok:x"}, {Kind: api.EvUpdate, Height: 3}}
}

func sample() api.Block {
	return api.Block{Chain: "a-1", Height: 300, Time: 7, Events: sampleEvents()}
}

func changed(f func(b *api.Block)) api.Block {
	b := sample()
	f(&b)
	return b
}

func sampleBytes() string {
	s := "\x03a-1\xac\x02\x07\x03"
	for _, x := range sampleEvents() {
		e, _ := event.Encode(x)
		s += string(rune(len(e))) + e
	}
	return s
}

func good() []api.Block {
	return []api.Block{
		sample(), {Chain: "a", Height: 1}, {Chain: "abcdefghijkl", Height: api.MaxHeight, Time: api.MaxTime},
		changed(func(b *api.Block) { b.Events = []api.Event{} }),
		changed(func(b *api.Block) { b.Events = append(b.Events, b.Events...) }),
	}
}

func spoilt() []api.Block {
	return []api.Block{
		{}, changed(func(b *api.Block) { b.Chain = "" }), changed(func(b *api.Block) { b.Chain = "A" }), changed(func(b *api.Block) { b.Chain = "abcdefghijklm" }),
		changed(func(b *api.Block) { b.Height = 0 }), changed(func(b *api.Block) { b.Height = -1 }), changed(func(b *api.Block) { b.Height = api.MaxHeight + 1 }),
		changed(func(b *api.Block) { b.Time = -1 }), changed(func(b *api.Block) { b.Time = api.MaxTime + 1 }), changed(func(b *api.Block) { b.Time = math.MinInt }),
		changed(func(b *api.Block) { b.Events[2].Height = 0 }), changed(func(b *api.Block) { b.Events[0].Ack = "x" }), changed(func(b *api.Block) { b.Events[1].Kind = 0 }),
	}
}

func TestMay(t *testing.T) { // P10.1
	for _, b := range good() {
		if !block.May(b) {
			t.Errorf("May(%v) is false", b)
		}
	}
	for _, b := range spoilt() {
		if block.May(b) {
			t.Errorf("May(%v) is true", b)
		}
	}
}

func TestSame(t *testing.T) { // P10.1
	if !block.Same(sample(), sample()) || !block.Same(api.Block{}, api.Block{Events: []api.Event{}}) {
		t.Error("equal blocks are not the same")
	}
	for _, b := range append(spoilt(), good()[1:]...) {
		if block.Same(sample(), b) || block.Same(b, sample()) {
			t.Errorf("the sample is the same as %v", b)
		}
	}
}

func TestEncode(t *testing.T) { // P10.2
	if s, e := block.Encode(api.Block{Chain: "a", Height: 1, Time: 2}); s != "\x01a\x01\x02\x00" || e != api.OK {
		t.Errorf("Encode: %x, %d", s, e)
	}
	if s, e := block.Encode(sample()); s != sampleBytes() || e != api.OK {
		t.Errorf("Encode: %x, %d", s, e)
	}
	for _, b := range spoilt() {
		if s, e := block.Encode(b); s != "" || e != api.ErrRange {
			t.Errorf("Encode(%v): %x, %d", b, s, e)
		}
	}
}

func refused(t *testing.T, s string, want api.Errno) {
	t.Helper()
	if b, e := block.Decode(s); !block.Same(b, api.Block{}) || e != want {
		t.Errorf("Decode(%x): %v, %d, not %d", s, b, e, want)
	}
}

func TestDecodeFails(t *testing.T) { // P10.2
	s := sampleBytes()
	for n := range len(s) {
		refused(t, s[:n], api.ErrShort)
	}
	refused(t, s+"\x00", api.ErrForm)
	for text, want := range map[string]api.Errno{
		"\x0daaaaaaaaaaaaa\x01\x02\x00": api.ErrLong, "\x01a\x00\x02\x00": api.ErrRange, "\x01a\x81\x80\x80\x80\x80\x20\x02\x00": api.ErrRange,
		"\x01a\x01\x81\x80\x80\x80\x80\x20\x00": api.ErrRange, "\x01a\x01\x02\x81\x80\x80\x80\x04": api.ErrLong, "\x01a\x01\x02\x80\x80\x80\x80\x04": api.ErrShort,
		"\x01a\x01\x02\x80\x00": api.ErrForm, "\x01A\x01\x02\x00": api.ErrRange, "\x01A\x01\x02\x00x": api.ErrForm, "\x00\x01\x02\x00": api.ErrRange,
		"\x01a\x01\x02\x01\x02\x07\x00":                            api.ErrRange, // an event that is not valid
		"\x01A\x01\x02\x02\x02\x07\x00\x80":                        api.ErrRange, // and after it, a length that is cut
		"\x01a\x01\x02\x02\x02\x07\x03\xe9":                        api.ErrShort,
		"\x01a\x01\x02\x01\x03\x07\x03x":                           api.ErrForm,
		"\x01a\x01\x02\x01\x00":                                    api.ErrShort,
		"\x01a\x01\x02\x01\x01\x07":                                api.ErrShort,
		"\x01a\x01\x02\x01\x01\x08":                                api.ErrRange,
		"\x01A\x01\x02\x01\x02\x07\x03":                            api.ErrRange,
		"\x01a\x01\x02\x01\xe9\x07\x07\x03":                        api.ErrLong,
		"\x01a\x01\x02\x01\xe8\x07\x07\x03":                        api.ErrShort,
		"\x01a\x01\x02\x02\x02\x07\x03\x01":                        api.ErrShort,
		"\x01a\x01\x02\x01\x02\x07\x03\x01":                        api.ErrForm,
		"\x01a\x01\x02\x01\x82\x00\x07\x03":                        api.ErrForm,
		"\x01a\x01\x02\x01\x05\x06\x01E\x01x":                      api.ErrForm,
		"\x01a\x01\x02\x01\xe8\x07" + strings.Repeat("\x00", 1000): api.ErrRange,
	} {
		refused(t, text, want)
	}
}

func TestPeek(t *testing.T) { // P10.2
	for s, want := range map[string]api.Errno{
		"": api.ErrShort, "\x01a": api.ErrShort, "\x01a\x00": api.ErrRange, "\x01A\x01": api.ErrRange, "\x00\x01": api.ErrRange, "\x01A\x80": api.ErrShort, "\x0daaaaaaaaaaaaa\x01": api.ErrLong, "\x01a\x81\x00": api.ErrForm,
	} {
		if chain, h, e := block.Peek(s); chain != "" || h != 0 || e != want {
			t.Errorf("Peek(%x): %q, %d, %d", s, chain, h, e)
		}
	}
	if chain, h, e := block.Peek("\x01a\x05\xff\xff"); chain != "a" || h != 5 || e != api.OK {
		t.Errorf("Peek before other bytes: %q, %d, %d", chain, h, e)
	}
}

func TestRoundTrip(t *testing.T) { // P10.3
	for _, b := range good() {
		s, _ := block.Encode(b)
		if got, e := block.Decode(s); !block.Same(got, b) || e != api.OK {
			t.Errorf("Decode(Encode(%v)): %v, %d", b, got, e)
		}
		if chain, h, e := block.Peek(s); chain != b.Chain || h != b.Height || e != api.OK {
			t.Errorf("Peek(Encode(%v)): %q, %d, %d", b, chain, h, e)
		}
		for i := range s {
			x := []byte(s)
			x[i] ^= 1
			got, e := block.Decode(string(x))
			if back, _ := block.Encode(got); e == api.OK && back != string(x) {
				t.Errorf("Encode(Decode(%x)): %x", x, back)
			}
		}
	}
}

package event_test

import (
	"math"
	"strings"
	"testing"

	"lighterman/api"
	"lighterman/event"
	"lighterman/packet"
	"lighterman/wire"
)

var (
	src = api.End{Port: "s", Chan: 1}
	dst = api.End{Port: "d", Chan: 2}
)

// full returns an event with all fields that there are.
func full(kind int) api.Event {
	return api.Event{
		Kind: kind, Packet: api.Packet{Src: src, Dst: dst, Seq: 3, Data: "x", TimeHeight: 4, TimeAt: 5},
		Ack: "ok:x", End: api.End{Port: "e", Chan: 300}, Height: 6,
	}
}

func sample(kind int) api.Event { return event.Plain(full(kind)) }

func packetBytes() string {
	w := wire.New()
	packet.Write(w, full(1).Packet)
	s, _ := w.Bytes()
	return s
}

// inBytes returns the sample of each kind in bytes.
func inBytes() map[int]string {
	p := packetBytes()
	return map[int]string{
		api.EvSend: "\x01" + p, api.EvRecv: "\x02" + p, api.EvWrite: "\x03" + p + "\x04ok:x", api.EvAck: "\x04" + p,
		api.EvTimeout: "\x05" + p, api.EvClose: "\x06\x01e\xac\x02", api.EvUpdate: "\x07\x06",
	}
}

func spoilt() []api.Event {
	var all []api.Event
	change := func(kind int, f func(e *api.Event)) {
		e := sample(kind)
		f(&e)
		all = append(all, e)
	}
	for _, kind := range []int{0, 8, -1, math.MaxInt, math.MinInt} {
		all = append(all, api.Event{Kind: kind}, full(kind))
	}
	for kind := api.EvSend; kind <= api.EvUpdate; kind++ {
		all = append(all, full(kind))
		if kind != api.EvClose {
			change(kind, func(e *api.Event) { e.End.Chan = 1 })
		}
		if kind != api.EvUpdate {
			change(kind, func(e *api.Event) { e.Height = 1 })
		}
		if kind != api.EvWrite {
			change(kind, func(e *api.Event) { e.Ack = "x" })
		}
		change(kind, func(e *api.Event) { e.Packet.Seq = -1 })
	}
	for _, ack := range []string{"", strings.Repeat("a", api.MaxAck+1)} {
		change(api.EvWrite, func(e *api.Event) { e.Ack = ack })
	}
	for _, h := range []int{0, -1, api.MaxHeight + 1} {
		change(api.EvUpdate, func(e *api.Event) { e.Height = h })
	}
	change(api.EvClose, func(e *api.Event) { e.End.Port = "E" })
	change(api.EvClose, func(e *api.Event) { e.End.Chan = 1000 })
	return all
}

func TestPlain(t *testing.T) { // P9.1
	f := full(0)
	for kind := api.EvSend; kind <= api.EvTimeout; kind++ {
		want := api.Event{Kind: kind, Packet: f.Packet}
		if kind == api.EvWrite {
			want.Ack = f.Ack
		}
		if got := sample(kind); got != want {
			t.Errorf("Plain of kind %d: %v", kind, got)
		}
	}
	if got := sample(api.EvClose); got != (api.Event{Kind: api.EvClose, End: f.End}) {
		t.Errorf("Plain of EvClose: %v", got)
	}
	if got := sample(api.EvUpdate); got != (api.Event{Kind: api.EvUpdate, Height: 6}) {
		t.Errorf("Plain of EvUpdate: %v", got)
	}
	for _, kind := range []int{0, 8, -1, math.MinInt} {
		if got := sample(kind); got != (api.Event{Kind: kind}) {
			t.Errorf("Plain of kind %d: %v", kind, got)
		}
	}
}

func TestMay(t *testing.T) { // P9.1
	long := sample(api.EvWrite)
	long.Ack = strings.Repeat("a", api.MaxAck)
	for _, e := range []api.Event{long, {Kind: api.EvUpdate, Height: 1}, {Kind: api.EvUpdate, Height: api.MaxHeight}, {Kind: api.EvClose, End: api.End{Port: "a"}}} {
		if !event.May(e) {
			t.Errorf("May(%v) is false", e)
		}
	}
	for kind := api.EvSend; kind <= api.EvUpdate; kind++ {
		if !event.May(sample(kind)) {
			t.Errorf("May of kind %d is false", kind)
		}
	}
	for _, e := range spoilt() {
		if event.May(e) {
			t.Errorf("May(%v) is true", e)
		}
	}
}

func TestEncode(t *testing.T) { // P9.2
	if s, e := event.Encode(api.Event{Kind: api.EvUpdate, Height: 3}); s != "\x07\x03" || e != api.OK {
		t.Errorf("Encode of EvUpdate: %x, %d", s, e)
	}
	for kind, want := range inBytes() {
		if s, e := event.Encode(sample(kind)); s != want || e != api.OK {
			t.Errorf("Encode of kind %d: %x, %d", kind, s, e)
		}
		if got, e := event.Decode(want + "\x00"); got != (api.Event{}) || e != api.ErrForm {
			t.Errorf("Decode of kind %d with a byte more: %d", kind, e)
		}
		for n := range len(want) {
			if got, e := event.Decode(want[:n]); got != (api.Event{}) || e != api.ErrShort {
				t.Errorf("Decode of %d bytes of kind %d: %d", n, kind, e)
			}
		}
	}
	for _, x := range spoilt() {
		if s, e := event.Encode(x); s != "" || e != api.ErrRange {
			t.Errorf("Encode(%v): %x, %d", x, s, e)
		}
	}
}

func TestDecodeFails(t *testing.T) { // P9.2
	p := packetBytes()
	for s, want := range map[string]api.Errno{
		"": api.ErrShort, "\x00": api.ErrRange, "\x08x": api.ErrRange, "\x87\x00\x03": api.ErrForm, strings.Repeat("\x80", 8): api.ErrLong,
		"\x07\x00": api.ErrRange, "\x07\x00x": api.ErrRange, "\x07\x81\x80\x80\x80\x80\x20": api.ErrRange, "\x06\x0deeeeeeeeeeeee\x01": api.ErrLong, "\x06\x01e\xe8\x07": api.ErrRange,
		"\x06\x01E\x01": api.ErrRange, "\x06\x01E\x01x": api.ErrForm, "\x06\x00\x01": api.ErrRange,
		"\x03" + p + "\x21": api.ErrLong, "\x03" + p + "\x00": api.ErrRange, "\x03" + p + "\x00x": api.ErrForm,
		"\x01\x01S" + p[2:]: api.ErrRange, "\x01\x01S" + p[2:] + "x": api.ErrForm, "\x01\x0d" + p: api.ErrLong,
	} {
		if got, e := event.Decode(s); got != (api.Event{}) || e != want {
			t.Errorf("Decode(%x): %v, %d, not %d", s, got, e, want)
		}
	}
}

func TestOwn(t *testing.T) { // P9.3
	for kind, want := range map[int]api.End{
		api.EvSend: src, api.EvAck: src, api.EvTimeout: src, api.EvRecv: dst, api.EvWrite: dst,
	} {
		if e, seq, ok := event.Own(sample(kind)); e != want || seq != 3 || !ok {
			t.Errorf("Own of kind %d: %v, %d, %t", kind, e, seq, ok)
		}
	}
	if e, seq, ok := event.Own(sample(api.EvClose)); e != full(0).End || seq != 0 || !ok {
		t.Errorf("Own of EvClose: %v, %d, %t", e, seq, ok)
	}
	for _, x := range append(spoilt(), sample(api.EvUpdate)) {
		if e, seq, ok := event.Own(x); e != (api.End{}) || seq != 0 || ok {
			t.Errorf("Own(%v): %v, %d, %t", x, e, seq, ok)
		}
	}
}

func TestRoundTrip(t *testing.T) { // P9.4
	for _, e := range []api.Event{{Kind: api.EvClose, End: api.End{Port: "e"}}, {Kind: api.EvClose, End: api.End{Port: "e", Chan: api.MaxChan}}, {Kind: api.EvUpdate, Height: 1}, {Kind: api.EvUpdate, Height: api.MaxHeight}} {
		s, _ := event.Encode(e)
		if got, err := event.Decode(s); got != e || err != api.OK {
			t.Errorf("Decode(Encode(%v)): %v, %d", e, got, err)
		}
	}
	for kind, s := range inBytes() {
		if got, e := event.Decode(s); got != sample(kind) || e != api.OK {
			t.Errorf("Decode of kind %d: %v, %d", kind, got, e)
		}
		for i := range s {
			b := []byte(s)
			b[i] ^= 1
			got, e := event.Decode(string(b))
			if back, _ := event.Encode(got); e == api.OK && back != string(b) {
				t.Errorf("Encode(Decode(%x)): %x", b, back)
			}
		}
	}
}

package pair

import (
	"cmp"
	"maps"
	"slices"

	"lighterman/api"
	"lighterman/class"
	"lighterman/path"
	"lighterman/plan"
)

// Look returns the state of a side.
func (p *Pair) Look(side int) Look {
	if !isSide(side) {
		return Look{}
	}
	own := p.sides[side]
	l := Look{Height: own.height, Time: own.time, Last: own.last(), Known: slices.Sorted(maps.Keys(own.known))}
	for _, e := range slices.SortedFunc(maps.Keys(own.ends), orderEnds) {
		x := own.ends[e]
		l.Ends = append(l.Ends, End{
			End: e, State: x.state, NextSend: x.nextSend, NextRecv: x.nextRecv, NextAck: x.nextAck,
			Kept: own.keptFrom(e, own.height), Got: numbers(own.got, e), Wrote: numbers(own.wrote, e),
		})
	}
	return l
}

// Due returns the items that can be submitted for the given paths.
func (p *Pair) Due(l []api.Path) []api.Item {
	return p.items(l, class.Wants)
}

// Waits returns the items of the packets that wait on the given paths.
func (p *Pair) Waits(l []api.Path) []api.Item {
	return p.items(l, func(kind int) bool { return kind == api.Wait })
}

// items returns the items of the packets whose class is wanted.
func (p *Pair) items(l []api.Path, wanted func(kind int) bool) []api.Item {
	var items []api.Item
	for _, x := range l {
		items = append(items, p.direction(0, x.A, wanted)...)
		items = append(items, p.direction(1, x.B, wanted)...)
	}
	slices.SortFunc(items, orderItems)
	return items
}

// direction returns the items of the packets that the end e of a side has sent.
func (p *Pair) direction(side int, e api.End, wanted func(kind int) bool) []api.Item {
	own, other := p.sides[side], p.sides[1-side]
	x, ok := own.ends[e]
	if !ok {
		return nil
	}
	var facts []class.Packet
	for _, sent := range own.keptFrom(e, own.last()) {
		if own.keptAt(own.height, sent) {
			facts = append(facts, other.facts(sent, x.state.Ordered))
		}
	}
	var items []api.Item
	for i, kind := range class.Of(own.channel(other, e), facts) {
		if !wanted(kind) {
			continue
		}
		to := side
		if kind == api.Recv {
			to = 1 - side
		}
		items = append(items, api.Item{Kind: kind, To: to, End: e, Seq: facts[i].Seq})
	}
	return items
}

// channel returns the facts about the channel from the end e of s to the other side.
func (s *side) channel(other *side, e api.End) class.Channel {
	x := s.ends[e]
	now, isNow := other.ends[x.state.Other]
	was, wasThen := other.past[moment{other.last(), x.state.Other}]
	return class.Channel{
		Ordered: x.state.Ordered, Open: !x.state.Closed, Stop: x.state.Stop,
		OtherOpen:   isNow && !now.state.Closed && now.state.Other == e,
		OtherClosed: wasThen && was.state.Closed && was.state.Other == e,
		NextRecv:    now.nextRecv, NextDone: was.nextRecv, NextAck: x.nextAck,
		Height: other.height, Time: other.time,
		AtHeight: other.last(), AtTime: other.times[other.last()], SrcHeight: s.last(),
	}
}

// facts returns what the receiving side s says about a packet that is kept and shown.
func (s *side) facts(p api.Packet, ordered bool) class.Packet {
	at := spot{p.Dst, p.Seq}
	_, acked := s.wroteAt(s.last(), at)
	return class.Packet{
		Seq: p.Seq, TimeHeight: p.TimeHeight, TimeAt: p.TimeAt, Kept: true, Shown: true, Acked: acked,
		Received: !ordered && s.gotAt(s.height, at), Done: !ordered && s.gotAt(s.last(), at),
	}
}

// keptFrom returns the packets from the end e that are kept at a height, in ascending order of their numbers.
func (s *side) keptFrom(e api.End, height int) []api.Packet {
	var l []api.Packet
	for at, x := range s.kept {
		if at.end == e && x.keeps(height) {
			l = append(l, x.packet)
		}
	}
	slices.SortFunc(l, func(x api.Packet, y api.Packet) int { return cmp.Compare(x.Seq, y.Seq) })
	return l
}

// numbers returns the sequence numbers of the end e in m in ascending order.
func numbers[V any](m map[spot]V, e api.End) []int {
	var l []int
	for at := range m {
		if at.end == e {
			l = append(l, at.seq)
		}
	}
	slices.Sort(l)
	return l
}

func orderEnds(x api.End, y api.End) int {
	return order(x, y, path.Less)
}

func orderItems(x api.Item, y api.Item) int {
	return order(x, y, plan.Less)
}

func order[T any](x T, y T, less func(x T, y T) bool) int {
	switch {
	case less(x, y):
		return -1
	case less(y, x):
		return 1
	}
	return 0
}

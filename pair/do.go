package pair

import (
	"lighterman/api"
	"lighterman/app"
	"lighterman/msg"
	"lighterman/packet"
)

// Do applies the message of c on a side.
func (p *Pair) Do(side int, c Claim) api.Errno {
	if !isSide(side) || !msg.May(c.Msg) {
		return api.ErrRange
	}
	own, other := p.sides[side], p.sides[1-side]
	switch c.Msg.Kind {
	case api.MsgUpdate:
		return own.update(other, c)
	case api.MsgRecv:
		return own.recv(other, c)
	case api.MsgAck:
		return own.ack(other, c)
	}
	return own.giveUp(other, c)
}

func (s *side) update(other *side, c Claim) api.Errno {
	h := c.Msg.Header
	time, ok := other.times[h.Height]
	if !c.Told || !ok || time != h.Time {
		return api.ErrHeader
	}
	s.known[h.Height] = struct{}{}
	return api.OK
}

func (s *side) recv(other *side, c Claim) api.Errno {
	p := c.Msg.Packet
	at := spot{p.Dst, p.Seq}
	x, ok := s.ends[p.Dst]
	switch {
	case !ok || x.state.Other != p.Src:
		return api.ErrChannel
	case x.state.Closed:
		return api.ErrClosed
	case packet.Over(p, s.height, s.time):
		return api.ErrTimeout
	case x.state.Ordered && p.Seq < x.nextRecv || !x.state.Ordered && s.gotAt(s.height, at):
		return api.ErrReceived
	case x.state.Ordered && p.Seq > x.nextRecv:
		return api.ErrOrder
	case !s.knows(c.Msg.Height):
		return api.ErrClient
	case !c.Good || !other.keptAt(c.Msg.Height, p):
		return api.ErrProof
	}
	if x.state.Ordered {
		x.nextRecv++
		s.ends[p.Dst] = x
	} else {
		s.got[at] = s.height
	}
	s.wrote[at] = answer{text: app.Answer(p.Data), from: s.height}
	return api.OK
}

func (s *side) ack(other *side, c Claim) api.Errno {
	p := c.Msg.Packet
	x, e := s.source(p)
	if e != api.OK {
		return e
	}
	if x.state.Ordered && p.Seq != x.nextAck {
		return api.ErrOrder
	}
	if !s.knows(c.Msg.Height) {
		return api.ErrClient
	}
	text, ok := other.wroteAt(c.Msg.Height, spot{p.Dst, p.Seq})
	if !c.Good || !ok || text != c.Msg.Ack {
		return api.ErrProof
	}
	s.drop(p)
	if x.state.Ordered {
		x.nextAck++
		s.ends[p.Src] = x
	}
	return api.OK
}

// giveUp applies a Timeout or an OnClose.
func (s *side) giveUp(other *side, c Claim) api.Errno {
	m := c.Msg
	x, e := s.source(m.Packet)
	if e != api.OK {
		return e
	}
	if !s.knows(m.Height) {
		return api.ErrClient
	}
	timeout := m.Kind == api.MsgTimeout
	switch {
	case timeout && !x.state.Closed && !packet.Over(m.Packet, m.Height, other.times[m.Height]):
		return api.ErrEarly
	case !timeout && !(c.GoodClose && other.closedAt(m.Height, m.Packet)):
		return api.ErrProof
	case x.state.Ordered == (m.Next == 0):
		return api.ErrRange
	case x.state.Ordered && m.Next > m.Packet.Seq:
		return api.ErrReceived
	case timeout && x.state.Ordered && !x.state.Closed && m.Next != m.Packet.Seq:
		return api.ErrOrder
	case timeout && x.state.Ordered && x.state.Closed && m.Next < x.state.Stop:
		return api.ErrOrder
	case !c.Good || !other.lacksAt(m.Height, m, x.state.Ordered):
		return api.ErrProof
	}
	s.drop(m.Packet)
	if x.state.Ordered && !x.state.Closed {
		x.state.Closed, x.state.Stop = true, m.Next
		s.ends[m.Packet.Src] = x
	}
	return api.OK
}

// source returns the end that has sent a packet which is kept now.
func (s *side) source(p api.Packet) (counters, api.Errno) {
	x, ok := s.ends[p.Src]
	if !ok || x.state.Other != p.Dst {
		return counters{}, api.ErrChannel
	}
	if !s.keptAt(s.height, p) {
		return counters{}, api.ErrCommit
	}
	return x, api.OK
}

// keptAt reports whether p was kept at a height; its Dst is not part of what is kept.
func (s *side) keptAt(height int, p api.Packet) bool {
	x := s.kept[spot{p.Src, p.Seq}]
	p.Dst = x.packet.Dst
	return x.keeps(height) && packet.Same(x.packet, p)
}

func (s *side) drop(p api.Packet) {
	at := spot{p.Src, p.Seq}
	x := s.kept[at]
	x.until = s.height
	s.kept[at] = x
}

func (s *side) knows(height int) bool {
	_, ok := s.known[height]
	return ok
}

// closedAt reports whether the receiving end of p was closed at a height.
func (s *side) closedAt(height int, p api.Packet) bool {
	x, ok := s.past[moment{height, p.Dst}]
	return ok && x.state.Closed && x.state.Other == p.Src
}

// lacksAt reports whether the packet of m had not been received at a height, as m claims.
func (s *side) lacksAt(height int, m api.Msg, ordered bool) bool {
	x, ok := s.past[moment{height, m.Packet.Dst}]
	if !ok {
		return false
	}
	if ordered {
		return x.nextRecv == m.Next
	}
	return !s.gotAt(height, spot{m.Packet.Dst, m.Packet.Seq})
}

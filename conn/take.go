package conn

import (
	"herald/api"
	"herald/setting"
	"herald/state"
)

// rule is what is done with the frames of one type; of HEADERS and PUSH_PROMISE
// with whole ones, whose Data is all of the block.
type rule struct {
	take func(f api.Frame) []api.Event
}

// rules are those of the types by their numbers, from 0 on. A CONTINUATION comes
// to none: it goes into the frame that it continues.
func (c *Conn) rules() []rule {
	return []rule{
		api.FrameData:     {take: c.takeData},
		api.FrameHeaders:  {take: c.takeHeaders},
		api.FramePriority: {take: takeNothing},
		api.FrameReset:    {take: c.takeReset},
		api.FrameSettings: {take: c.takeSettings},
		api.FramePromise:  {take: c.takePromise},
		api.FramePing:     {take: c.takePing},
		api.FrameGoAway:   {take: takeGoAway},
		api.FrameWindow:   {take: c.takeWindow},
	}
}

// take tells what comes of a frame.
func (c *Conn) take(f api.Frame) []api.Event {
	if !c.met && !isAnnouncement(f) {
		return c.die(api.ProtocolError)
	}
	whole, head, text, fault := c.joiner.Push(f)
	if fault != (api.Fault{}) {
		return c.die(fault.Code)
	}
	if c.joiner.Busy() {
		return nil
	}
	if whole {
		f = head
		f.Data = text
	}
	if rules := c.rules(); f.Type < len(rules) {
		return rules[f.Type].take(f)
	}
	return takeNothing(f)
}

// takeFault tells what comes of bytes that are no right frame.
func (c *Conn) takeFault(fault api.Fault) []api.Event {
	switch {
	case fault.Stream == 0:
		return c.die(fault.Code)
	case !c.met || c.joiner.Busy():
		return c.die(api.ProtocolError)
	}
	switch c.streams.State(fault.Stream) {
	case state.Idle:
		return c.die(fault.Code)
	case state.Closed:
		return nil
	}
	return c.fail(fault.Stream, fault.Code)
}

func takeNothing(api.Frame) []api.Event { return nil }

func (c *Conn) takeData(f api.Frame) []api.Event {
	n := taken(f)
	if n > firstWindow {
		return c.die(api.FlowControlError)
	}
	// Whatever becomes of the stream, the bytes came out of the connection's window.
	c.giveBack(0, n)
	if events, fine := c.judge(f.Stream, withEnd(state.Data, ends(f))); !fine {
		return events
	}
	if n > c.Ours().Window {
		return c.fail(f.Stream, api.FlowControlError)
	}
	if !ends(f) {
		c.giveBack(f.Stream, n)
	}
	return []api.Event{{Kind: api.EventData, Stream: f.Stream, Data: f.Data, End: ends(f)}}
}

func (c *Conn) takeHeaders(f api.Frame) []api.Event {
	fields, e := c.unpack(f)
	if e == api.ErrBlock {
		return c.die(api.CompressionError)
	}
	// Asked ahead of the verdict, with which the stream counts itself. (At a client
	// none that is idle gets as far as that.)
	refused := c.streams.State(f.Stream) == state.Idle && int64(c.streams.Count(false)) >= c.Ours().Streams
	if events, fine := c.judge(f.Stream, withEnd(state.Headers, ends(f))); !fine {
		return events
	}
	switch {
	case refused:
		return c.fail(f.Stream, api.RefusedStream)
	case e != api.OK:
		return c.fail(f.Stream, api.EnhanceYourCalm)
	}
	return []api.Event{{Kind: api.EventHead, Stream: f.Stream, Fields: fields, End: ends(f)}}
}

func (c *Conn) takePromise(f api.Frame) []api.Event {
	fields, e := c.unpack(f)
	if e == api.ErrBlock {
		return c.die(api.CompressionError)
	}
	if c.Ours().Push == 0 || !c.mayCarryPromise(f.Stream) {
		return c.die(api.ProtocolError)
	}
	// That a server gets none, and which numbers may be promised, the verdict knows.
	if events, fine := c.judge(f.Last, state.Promise); !fine {
		return events
	}
	switch {
	case c.streams.Cut(f.Stream):
		return c.fail(f.Last, api.Cancel)
	case e != api.OK:
		return c.fail(f.Last, api.EnhanceYourCalm)
	}
	return []api.Event{{Kind: api.EventPromise, Stream: f.Stream, Promised: f.Last, Fields: fields}}
}

// mayCarryPromise lets a stream that we reset carry one that was under way then.
func (c *Conn) mayCarryPromise(stream int64) bool {
	if !isOdd(stream) {
		return false
	}
	s := c.streams.State(stream)
	return s == state.Open || s == state.HalfLocal || c.streams.Cut(stream)
}

func (c *Conn) takeReset(f api.Frame) []api.Event {
	if events, fine := c.judge(f.Stream, state.Reset); !fine {
		return events
	}
	return []api.Event{{Kind: api.EventReset, Stream: f.Stream, Code: f.Code}}
}

func (c *Conn) takeSettings(f api.Frame) []api.Event {
	if f.Flags&api.Ack != 0 {
		return c.takeAck()
	}
	set, code := setting.Apply(c.theirs, f.Params, !c.client)
	if code != api.NoError {
		return c.die(code)
	}
	if !c.shift(set.Window - c.theirs.Window) {
		return c.die(api.FlowControlError)
	}
	for _, n := range setting.Tables(f.Params) {
		c.encoder.SetMax(n)
	}
	c.theirs, c.met = set, true
	c.wait(api.Frame{Type: api.FrameSettings, Flags: api.Ack})
	return []api.Event{{Kind: api.EventSettings}}
}

// shift moves all streams' windows; false: one would be too great, none is moved.
func (c *Conn) shift(by int64) bool {
	for _, left := range c.lefts {
		if left.Left()+by > api.MaxWindow {
			return false
		}
	}
	for _, left := range c.lefts {
		left.Shift(by) // never too small: nothing was taken that the size of that moment didn't have
	}
	return true
}

func (c *Conn) takeAck() []api.Event {
	ours, waited := c.book.Ack()
	if !waited {
		return c.die(api.ProtocolError)
	}
	c.decoder.SetMax(ours.Table)
	c.in.SetMost(ours.Frame)
	return []api.Event{{Kind: api.EventAck}}
}

func (c *Conn) takePing(f api.Frame) []api.Event {
	if f.Flags&api.Ack == 0 {
		f.Flags |= api.Ack
		c.wait(f)
	}
	return nil
}

func takeGoAway(f api.Frame) []api.Event {
	return []api.Event{{Kind: api.EventGoAway, Stream: f.Last, Code: f.Code}}
}

func (c *Conn) takeWindow(f api.Frame) []api.Event {
	if f.Stream == 0 {
		if code := c.left.Give(f.Last); code != api.NoError {
			return c.die(code)
		}
		return nil
	}
	if events, fine := c.judge(f.Stream, state.Window); !fine {
		return events
	}
	if code := c.lefts[f.Stream].Give(f.Last); code != api.NoError {
		return c.fail(f.Stream, code)
	}
	return nil
}

// judge lets a frame that came happen to its stream; false: nothing is left to do
// with it but to tell the events.
func (c *Conn) judge(stream int64, kind int) ([]api.Event, bool) {
	v := c.do(stream, state.Event{Got: true, Kind: kind})
	switch v.Kind {
	case state.StreamError:
		return c.fail(stream, v.Code), false
	case state.ConnError:
		return c.die(v.Code), false
	}
	return nil, v.Kind == state.Fine
}

// fail is a fault of a stream. One that its frame has just closed isn't reset: it
// is closed at the other end too.
func (c *Conn) fail(stream, code int64) []api.Event {
	c.cut(stream, code)
	return []api.Event{{Kind: api.EventReset, Stream: stream, Code: code}}
}

// die is a fault of the connection. Nothing more is read, so what was kept for
// that goes.
func (c *Conn) die(code int64) []api.Event {
	c.wait(api.Frame{Type: api.FrameGoAway, Last: c.streams.Last(false), Code: code})
	c.code = code
	c.in, c.joiner, c.decoder = nil, nil, nil
	return []api.Event{{Kind: api.EventDead, Code: code}}
}

// unpack is asked for each block that comes, whatever becomes of its stream: both
// ends' tables must go on alike.
func (c *Conn) unpack(f api.Frame) ([]api.Field, api.Errno) {
	return c.decoder.Decode(f.Data, c.Ours().List)
}

// taken is how many bytes a DATA takes out of the windows.
func taken(f api.Frame) int64 {
	n := len(f.Data)
	if f.Flags&api.Padded != 0 {
		n += 1 + f.Pad
	}
	return int64(n)
}

func ends(f api.Frame) bool { return f.Flags&api.EndStream != 0 }

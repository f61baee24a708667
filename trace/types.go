package trace

import (
	"herald/api"
	"herald/setting"
	"herald/state"
)

// byType is the code that a frame's type gives it.
func (t turn) byType() int64 {
	switch t.f.Type {
	case api.FrameHeaders:
		return t.headers()
	case api.FramePromise:
		return t.promise()
	case api.FrameContinuation:
		return t.continuation()
	case api.FrameData:
		return t.data()
	case api.FrameReset:
		return t.resets()
	case api.FrameSettings:
		return t.settings()
	case api.FramePing:
		return t.ping()
	case api.FrameGoAway:
		t.way.goAway = true
	case api.FrameWindow:
		return t.update()
	case api.FramePriority:
		code, _ := t.happen(t.f.Stream, state.Priority)
		return code
	}
	return api.NoError
}

func (t turn) headers() int64 {
	before := t.State(t.f.Stream)
	code, _ := t.happen(t.f.Stream, t.kind(state.Headers, state.HeadersEnd))
	switch {
	case code != api.NoError:
		return code
	case t.sent && t.in.goAway && before == state.Idle:
		return api.ProtocolError
	case !state.Counts(before) && state.Counts(t.State(t.f.Stream)) && t.isCrowded():
		return api.RefusedStream
	}
	t.beginBlock()
	return api.NoError
}

// kind is that of the event that a frame is, with END_STREAM or without.
func (t turn) kind(plain, end int) int {
	if t.has(api.EndStream) {
		return end
	}
	return plain
}

// isCrowded tells whether more streams count of the end that sends than the other
// one allows. They are counted only where there can be so many: Count goes through
// all.
func (t turn) isCrowded() bool {
	most := t.way.book.Acked().Streams
	return (t.Last(t.sent)+1)/2 > most && int64(t.Count(t.sent)) > most
}

func (t turn) beginBlock() {
	if !t.has(api.EndHeaders) {
		t.way.block, t.way.length = t.f.Stream, len(t.f.Data)
	}
}

func (t turn) promise() int64 {
	if t.way.book.Acked().Push != 1 || !t.carriesPromises() {
		return api.ProtocolError
	}
	if code, _ := t.happen(t.f.Last, state.Promise); code != api.NoError {
		return code
	}
	if t.sent && t.in.goAway {
		return api.ProtocolError
	}
	t.beginBlock()
	return api.NoError
}

// carriesPromises tells whether a promise may stand on the frame's stream. One that
// comes may have crossed the reset of its stream.
func (t turn) carriesPromises() bool {
	if t.f.Stream%2 == 0 {
		return false
	}
	at := t.State(t.f.Stream)
	if t.sent {
		return at == state.Open || at == state.HalfRemote
	}
	_, shut := t.back.reset[t.f.Stream]
	return at == state.Open || at == state.HalfLocal || shut
}

func (t turn) continuation() int64 {
	t.way.length += len(t.f.Data)
	if t.way.length > api.MaxBlock {
		return api.EnhanceYourCalm
	}
	if t.has(api.EndHeaders) {
		t.way.block = 0
	}
	return api.NoError
}

func (t turn) data() int64 {
	n := int64(len(t.f.Data))
	if t.has(api.Padded) {
		n += 1 + int64(t.f.Pad)
	}
	if t.sent {
		return t.sendData(n)
	}
	return t.getData(n)
}

func (t turn) sendData(n int64) int64 {
	code, _ := t.happen(t.f.Stream, t.kind(state.Data, state.DataEnd))
	if code != api.NoError {
		return code
	}
	if !t.way.room.Take(n) || !t.way.rooms[t.f.Stream].Take(n) {
		return api.FlowControlError
	}
	return api.NoError
}

// getData counts for the connection ahead of all else, since what comes does so
// whatever becomes of its stream.
func (t turn) getData(n int64) int64 {
	if !t.way.room.Take(n) {
		return api.FlowControlError
	}
	code, ignored := t.happen(t.f.Stream, t.kind(state.Data, state.DataEnd))
	if code != api.NoError || ignored {
		return code
	}
	if !t.way.rooms[t.f.Stream].Take(n) {
		return api.FlowControlError
	}
	return api.NoError
}

func (t turn) resets() int64 {
	code, _ := t.happen(t.f.Stream, state.Reset)
	// The table bars the reset of a stream that is closed; here it may have crossed
	// what closed it.
	crossed := t.sent && t.State(t.f.Stream) == state.Closed
	if code != api.NoError && !crossed {
		return code
	}
	t.way.reset[t.f.Stream] = struct{}{}
	return api.NoError
}

func (t turn) settings() int64 {
	if t.has(api.Ack) {
		return t.acknowledge()
	}
	// The list says what may go the way back.
	if _, code := setting.Apply(setting.Default(), t.f.Params, t.back.client); code != api.NoError {
		return code
	}
	if t.back.book.Send(t.f.Params) != api.OK {
		return api.EnhanceYourCalm
	}
	return api.NoError
}

func (t turn) acknowledge() int64 {
	before := t.way.book.Acked()
	now, waited := t.way.book.Ack()
	if !waited {
		return api.ProtocolError
	}
	return t.shift(now.Window - before.Window)
}

// shift moves the windows of the frame's way.
func (t turn) shift(by int64) int64 {
	if by == 0 {
		return api.NoError
	}
	for _, id := range t.Live() {
		if code := t.way.rooms[id].Shift(by); code != api.NoError {
			return code
		}
	}
	return api.NoError
}

func (t turn) ping() int64 {
	if !t.has(api.Ack) {
		t.way.pings = append(t.way.pings, t.f.Data)
		return api.NoError
	}
	waiting := t.back.pings
	if len(waiting) == 0 || waiting[0] != t.f.Data {
		return api.ProtocolError
	}
	t.back.pings = waiting[1:]
	return api.NoError
}

func (t turn) update() int64 {
	switch {
	case t.f.Last == 0:
		return api.ProtocolError
	case t.f.Stream == 0:
		return t.back.room.Give(t.f.Last)
	case t.sent && t.State(t.f.Stream) == state.Closed:
		// What closed it crossed the update.
		return api.NoError
	}
	code, ignored := t.happen(t.f.Stream, state.Window)
	if code != api.NoError || ignored {
		return code
	}
	return t.back.rooms[t.f.Stream].Give(t.f.Last)
}

package state

import "herald/api"

// rule is what the events of one kind do, by the state in which they meet the
// stream: where we send one, and where we get one.
type rule struct {
	sent, got func(s int) (int, Verdict)
}

// ruleOf is the rule of a kind; false: there is no such kind.
func ruleOf(kind int) (rule, bool) {
	switch kind {
	case Headers:
		return rule{sent: sendHeaders, got: getHeaders}, true
	case HeadersEnd:
		return rule{sent: sendHeadersEnd, got: getHeadersEnd}, true
	case Data:
		return rule{sent: sendData, got: getData}, true
	case DataEnd:
		return rule{sent: sendDataEnd, got: getDataEnd}, true
	case Promise:
		return rule{sent: sendPromise, got: getPromise}, true
	case Reset:
		return rule{sent: sendReset, got: getReset}, true
	case Window:
		return rule{sent: sendWindow, got: getWindow}, true
	case Priority:
		return rule{sent: fine, got: getPriority}, true
	}
	return rule{}, false
}

func fine(s int) (int, Verdict) { return s, Verdict{Kind: Fine} }

func barred(s int) (int, Verdict) { return s, Verdict{Kind: Barred} }

func ignored(s int) (int, Verdict) { return s, Verdict{Kind: Ignored} }

func protocolError(s int) (int, Verdict) {
	return s, Verdict{Kind: ConnError, Code: api.ProtocolError}
}

// noRight is what is thought of HEADERS or DATA that the other end had no right to send.
func noRight(s int) (int, Verdict) {
	switch s {
	case HalfRemote:
		return s, Verdict{Kind: StreamError, Code: api.StreamClosed}
	case Closed:
		return s, Verdict{Kind: ConnError, Code: api.StreamClosed}
	}
	return protocolError(s)
}

// endLocal is what END_STREAM adds to a frame that we sent.
func endLocal(s int, v Verdict) (int, Verdict) {
	switch {
	case v.Kind != Fine:
		return s, v
	case s == HalfRemote:
		return Closed, v
	}
	return HalfLocal, v
}

// endRemote is what END_STREAM adds to a frame that we got.
func endRemote(s int, v Verdict) (int, Verdict) {
	switch {
	case v.Kind != Fine:
		return s, v
	case s == HalfLocal:
		return Closed, v
	}
	return HalfRemote, v
}

func sendHeaders(s int) (int, Verdict) {
	switch s {
	case Idle:
		return fine(Open)
	case ReservedLocal:
		return fine(HalfRemote)
	}
	return sendData(s)
}

func getHeaders(s int) (int, Verdict) {
	switch s {
	case Idle:
		return fine(Open)
	case ReservedRemote:
		return fine(HalfLocal)
	}
	return getData(s)
}

func sendHeadersEnd(s int) (int, Verdict) { return endLocal(sendHeaders(s)) }

func getHeadersEnd(s int) (int, Verdict) { return endRemote(getHeaders(s)) }

func sendData(s int) (int, Verdict) {
	if s == Open || s == HalfRemote {
		return fine(s)
	}
	return barred(s)
}

func getData(s int) (int, Verdict) {
	if s == Open || s == HalfLocal {
		return fine(s)
	}
	return noRight(s)
}

func sendDataEnd(s int) (int, Verdict) { return endLocal(sendData(s)) }

func getDataEnd(s int) (int, Verdict) { return endRemote(getData(s)) }

func sendPromise(s int) (int, Verdict) {
	if s == Idle {
		return fine(ReservedLocal)
	}
	return barred(s)
}

func getPromise(s int) (int, Verdict) {
	if s == Idle {
		return fine(ReservedRemote)
	}
	return protocolError(s)
}

func sendReset(s int) (int, Verdict) {
	if s == Idle || s == Closed {
		return barred(s)
	}
	return fine(Closed)
}

func getReset(s int) (int, Verdict) {
	switch s {
	case Idle:
		return protocolError(s)
	case Closed:
		return ignored(s)
	}
	return fine(Closed)
}

func sendWindow(s int) (int, Verdict) {
	// On a stream that we promised the other end sends nothing that could need room.
	if s == Idle || s == ReservedLocal || s == Closed {
		return barred(s)
	}
	return fine(s)
}

func getWindow(s int) (int, Verdict) {
	switch s {
	// On a stream that was promised to us we send nothing that could need room.
	case Idle, ReservedRemote:
		return protocolError(s)
	case Closed:
		return ignored(s)
	}
	return fine(s)
}

func getPriority(s int) (int, Verdict) {
	if s == Closed {
		return ignored(s)
	}
	return fine(s)
}
